/- States of ends as they come in. -/
import Derived.Test.YtekhmdjpkngglaaEndOpen
import Derived.Test.YtekhmdjpkngglaaEndsF
namespace Go.Proofs.Ytekhmdjpkngglaa
open Go.RowKit Go.ChangeShapes Go.WideShapes Go.Deep
theorem Try.cellsSt : Try.prog.cellsOf 43 = 5 := by kernel_rfl
theorem Try.cellsBl : Try.prog.cellsOf 4 = 1 := by kernel_rfl
section
variable {H : Type} {enc : TypeId × Value → H} {w : World} {base : Nat} {spare : Nat → Bool} {held : Bool}
theorem st_open {r : List Value} (hl : r.length = Try.prog.cellsOf 43) (h : Reads enc Try.prog w base spare held 43 r) :
    ∃ s : St, r = [.string s.p, .int .i64 s.c, .bool s.o, .bool s.cl, .int .i64 s.st] ∧ s.p.size ≤ maxLen := by
  rw [Try.cellsSt] at hl
  match r, hl with
  | [c0, c1, c2, c3, c4], _ =>
    have h0 := h.field Try.underlying43 0 _ rfl
    have h1 := h.field Try.underlying43 1 _ rfl
    have h2 := h.field Try.underlying43 2 _ rfl
    have h3 := h.field Try.underlying43 3 _ rfl
    simp [Try.cellsInt, Try.cellsBl, Try.cellsEn] at h0 h1 h2 h3
    obtain ⟨z0, z1, e0, s0, _⟩ := end_open (by rw [Try.cellsEn]; rfl) h0
    obtain ⟨z2, e2⟩ := h1.bool Try.underlying4
    obtain ⟨z3, e3⟩ := h2.bool Try.underlying4
    obtain ⟨z4, e4, _⟩ := h3.int Try.underlying3
    simp at e0 e2 e3 e4
    obtain ⟨rfl, rfl⟩ := e0
    subst e2 e3 e4
    exact ⟨⟨z0, z1, z2, z3, z4⟩, rfl, s0⟩
end
end Go.Proofs.Ytekhmdjpkngglaa
