/- Limits as they come in. -/
import Derived.Test.YthipnkbfdkmhaaaGJ
namespace Go.Proofs.Ythipnkbfdkmhaaa
open Go.RowKit Go.ChangeShapes Go.WideShapes Go.Deep
theorem Try.cellsLim : Try.prog.cellsOf 58 = 3 := by kernel_rfl
section
variable {H : Type} {enc : TypeId × Value → H} {w : World} {base : Nat} {spare : Nat → Bool} {held : Bool}
theorem lim_open {r : List Value} (hl : r.length = Try.prog.cellsOf 58) (h : Reads enc Try.prog w base spare held 58 r) :
    ∃ g b c : Int, r = [.int .i64 g, .int .i64 b, .int .i64 c] := by
  rw [Try.cellsLim] at hl
  match r, hl with
  | [c0, c1, c2], _ =>
    have h0 := h.field Try.underlying58 0 _ rfl
    have h1 := h.field Try.underlying58 1 _ rfl
    have h2 := h.field Try.underlying58 2 _ rfl
    simp [Try.cellsInt] at h0 h1 h2
    obtain ⟨z0, e0, _⟩ := h0.int Try.underlying3
    obtain ⟨z1, e1, _⟩ := h1.int Try.underlying3
    obtain ⟨z2, e2, _⟩ := h2.int Try.underlying3
    simp at e0 e1 e2
    subst e0 e1 e2
    exact ⟨_, _, _, rfl⟩
end
end Go.Proofs.Ythipnkbfdkmhaaa
