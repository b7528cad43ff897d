/- Ranges that come in. -/
import Derived.Test.YtdlngadcgcgenaaSpM
import Derived.Test.YtdlngadcgcgenaaOpen
namespace Go.Proofs.Ytdlngadcgcgenaa
open Go.RowKit Go.ChangeShapes Go.WideShapes Go.Deep
theorem Try.cellsRg : Try.prog.cellsOf 62 = 2 := by kernel_rfl
theorem Try.cellsInt2 : Try.prog.cellsOf 3 = 1 := by kernel_rfl
section
variable {H : Type} {enc : TypeId × Value → H} {w : World} {base : Nat} {spare : Nat → Bool} {held : Bool}
theorem rg_open {r : List Value} (hl : r.length = Try.prog.cellsOf 62) (h : Reads enc Try.prog w base spare held 62 r) : ∃ p : Int × Int, r = rgL p := by
  rw [Try.cellsRg] at hl
  match r, hl with
  | [c0, c1], _ =>
    have h0 := h.field Try.underlying62 0 _ rfl
    have h1 := h.field Try.underlying62 1 _ rfl
    simp [Try.cellsInt2] at h0 h1
    obtain ⟨z0, e0, _⟩ := h0.int Try.underlying3
    obtain ⟨z1, e1, _⟩ := h1.int Try.underlying3
    simp at e0 e1
    subst e0 e1
    exact ⟨(z0, z1), rfl⟩
end
end Go.Proofs.Ytdlngadcgcgenaa
