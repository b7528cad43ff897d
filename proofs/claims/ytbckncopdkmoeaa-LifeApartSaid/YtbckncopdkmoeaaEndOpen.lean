/- Ends as they come in. -/
import Derived.Test.YtbckncopdkmoeaaRows
import Derived.Test.YtbckncopdkmoeaaOpen
namespace Go.Proofs.Ytbckncopdkmoeaa
open Go.RowKit Go.ChangeShapes Go.WideShapes Go.Deep

theorem Try.cellsEn : Try.prog.cellsOf 60 = 2 := by kernel_rfl
theorem Try.cellsInt : Try.prog.cellsOf 3 = 1 := by kernel_rfl
theorem Try.cellsStr : Try.prog.cellsOf 9 = 1 := by kernel_rfl

section
variable {H : Type} {enc : TypeId × Value → H} {w : World} {base : Nat} {spare : Nat → Bool} {held : Bool}
theorem int_bd {z : Int} (h : (Lit.int .i64 z).wf = true) : -9223372036854775808 ≤ z ∧ z ≤ 9223372036854775807 := by
  simpa [Lit.wf, IntKind.min, IntKind.max, IntKind.signed, IntKind.bits] using h
theorem end_open {r : List Value} (hl : r.length = Try.prog.cellsOf 60) (h : Reads enc Try.prog w base spare held 60 r) :
    ∃ (p : ByteArray) (c : Int), r = [.string p, .int .i64 c] ∧ p.size ≤ maxLen ∧ -9223372036854775808 ≤ c ∧ c ≤ 9223372036854775807 := by
  rw [Try.cellsEn] at hl
  match r, hl with
  | [c0, c1], _ =>
    have h0 := h.field Try.underlying60 0 _ rfl
    have h1 := h.field Try.underlying60 1 _ rfl
    simp [Try.cellsInt, Try.cellsStr] at h0 h1
    obtain ⟨z0, e0, s0⟩ := h0.string Try.underlying9
    obtain ⟨z1, e1, b1⟩ := h1.int Try.underlying3
    simp at e0 e1
    subst e0 e1
    exact ⟨z0, z1, rfl, s0, (int_bd b1).1, (int_bd b1).2⟩
end
end Go.Proofs.Ytbckncopdkmoeaa
