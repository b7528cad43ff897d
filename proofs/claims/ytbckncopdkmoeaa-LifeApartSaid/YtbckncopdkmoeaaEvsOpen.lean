/- Events that come in as a list. -/
import Derived.Test.YtbckncopdkmoeaaPkOpen
import Derived.Test.YtbckncopdkmoeaaEv2
import Derived.Test.YtbckncopdkmoeaaHdOpen
namespace Go.Proofs.Ytbckncopdkmoeaa
open Go.RowKit Go.ChangeShapes Go.WideShapes Go.Deep
theorem Try.cellsEvt : Try.prog.cellsOf 76 = 13 := by kernel_rfl
section
variable {H : Type} {enc : TypeId × Value → H} {w : World} {base : Nat} {spare : Nat → Bool} {held : Bool}
theorem ev_openC {r : List Value} (hl : r.length = Try.prog.cellsOf 76) (h : Reads enc Try.prog w base spare held 76 r) :
    ∃ e : Ev, r = e.cells ∧ True := by
  rw [Try.cellsEvt] at hl
  match r, hl with
  | [c0, c1, c2, c3, c4, c5, c6, c7, c8, c9, c10, c11, c12], _ =>
    have h0 := h.field Try.underlying76 0 _ rfl
    have h1 := h.field Try.underlying76 1 _ rfl
    have h2 := h.field Try.underlying76 2 _ rfl
    have h3 := h.field Try.underlying76 3 _ rfl
    have h4 := h.field Try.underlying76 4 _ rfl
    simp [Try.cellsInt, Try.cellsStr, Try.cellsEn, Try.cellsPkt] at h0 h1 h2 h3 h4
    obtain ⟨z0, e0, _⟩ := h0.int Try.underlying3
    obtain ⟨sp, sc, dp, dc, sq, da, th, ta, e1, s1, s2, _⟩ := pkt_open (by rw [Try.cellsPkt]; rfl) h1
    obtain ⟨z9, e2, _⟩ := h2.string Try.underlying9
    obtain ⟨z10, z11, e3, s3, _⟩ := end_open (by rw [Try.cellsEn]; rfl) h3
    obtain ⟨z12, e4, _⟩ := h4.int Try.underlying3
    simp at e0 e1 e2 e3 e4
    subst e0 e2 e4
    obtain ⟨rfl, rfl, rfl, rfl, rfl, rfl, rfl, rfl⟩ := e1
    obtain ⟨rfl, rfl⟩ := e3
    exact ⟨⟨_, _, _, _, _, _, _, _, _, _, _, _, _⟩, rfl, trivial⟩
end
end Go.Proofs.Ytbckncopdkmoeaa
