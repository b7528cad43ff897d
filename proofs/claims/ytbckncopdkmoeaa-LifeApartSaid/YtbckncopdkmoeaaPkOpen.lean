/- Packets as they come in. -/
import Derived.Test.YtbckncopdkmoeaaEndOpen
namespace Go.Proofs.Ytbckncopdkmoeaa
open Go.RowKit Go.ChangeShapes Go.WideShapes Go.Deep

theorem Try.cellsPkt : Try.prog.cellsOf 74 = 8 := by kernel_rfl
section
variable {H : Type} {enc : TypeId × Value → H} {w : World} {base : Nat} {spare : Nat → Bool} {held : Bool}
theorem pkt_open {r : List Value} (hl : r.length = Try.prog.cellsOf 74) (h : Reads enc Try.prog w base spare held 74 r) :
    ∃ (sp : ByteArray) (sc : Int) (dp : ByteArray) (dc seq : Int) (dat : ByteArray) (th ta : Int), r = [.string sp, .int .i64 sc, .string dp, .int .i64 dc, .int .i64 seq, .string dat, .int .i64 th, .int .i64 ta] ∧ sp.size ≤ maxLen ∧ dp.size ≤ maxLen ∧ dat.size ≤ maxLen := by
  rw [Try.cellsPkt] at hl
  match r, hl with
  | [c0, c1, c2, c3, c4, c5, c6, c7], _ =>
    have h0 := h.field Try.underlying74 0 _ rfl
    have h1 := h.field Try.underlying74 1 _ rfl
    have h2 := h.field Try.underlying74 2 _ rfl
    have h3 := h.field Try.underlying74 3 _ rfl
    have h4 := h.field Try.underlying74 4 _ rfl
    have h5 := h.field Try.underlying74 5 _ rfl
    simp [Try.cellsInt, Try.cellsStr, Try.cellsEn] at h0 h1 h2 h3 h4 h5
    obtain ⟨z0, z1, e0, s0, _⟩ := end_open (by rw [Try.cellsEn]; rfl) h0
    obtain ⟨z2, z3, e1, s1, _⟩ := end_open (by rw [Try.cellsEn]; rfl) h1
    obtain ⟨z4, e2, _⟩ := h2.int Try.underlying3
    obtain ⟨z5, e3, s3⟩ := h3.string Try.underlying9
    obtain ⟨z6, e4, _⟩ := h4.int Try.underlying3
    obtain ⟨z7, e5, _⟩ := h5.int Try.underlying3
    simp at e0 e1 e2 e3 e4 e5
    obtain ⟨rfl, rfl⟩ := e0
    obtain ⟨rfl, rfl⟩ := e1
    subst e2 e3 e4 e5
    exact ⟨z0, z1, z2, z3, z4, z5, z6, z7, rfl, s0, s1, s3⟩
end
end Go.Proofs.Ytbckncopdkmoeaa
