/- Packets and channels of package class as they come in. -/
import Derived.Test.YtnngjbheamegjaaClassL
import Derived.Test.YtnngjbheamegjaaOpen
namespace Go.Proofs.Ytnngjbheamegjaa
open Go.RowKit Go.ChangeShapes Go.WideShapes Go.Deep

theorem Try.cellsPk : Try.prog.cellsOf 46 = 8 := by kernel_rfl
theorem Try.cellsCh : Try.prog.cellsOf 33 = 13 := by kernel_rfl
theorem Try.cellsIn : Try.prog.cellsOf 3 = 1 := by kernel_rfl
theorem Try.cellsBo : Try.prog.cellsOf 4 = 1 := by kernel_rfl

section
variable {H : Type} {enc : TypeId × Value → H} {w : World} {base : Nat} {spare : Nat → Bool} {held : Bool}
theorem pk_open {r : List Value} (hl : r.length = Try.prog.cellsOf 46) (h : Reads enc Try.prog w base spare held 46 r) : ∃ p : Pk, r = p.cells := by
  rw [Try.cellsPk] at hl
  match r, hl with
  | [c0, c1, c2, c3, c4, c5, c6, c7], _ =>
    have h0 := h.field Try.underlying46 0 _ rfl
    have h1 := h.field Try.underlying46 1 _ rfl
    have h2 := h.field Try.underlying46 2 _ rfl
    have h3 := h.field Try.underlying46 3 _ rfl
    have h4 := h.field Try.underlying46 4 _ rfl
    have h5 := h.field Try.underlying46 5 _ rfl
    have h6 := h.field Try.underlying46 6 _ rfl
    have h7 := h.field Try.underlying46 7 _ rfl
    simp [Try.cellsIn, Try.cellsBo] at h0 h1 h2 h3 h4 h5 h6 h7
    obtain ⟨z0, e0, _⟩ := h0.int Try.underlying3
    obtain ⟨z1, e1, _⟩ := h1.int Try.underlying3
    obtain ⟨z2, e2, _⟩ := h2.int Try.underlying3
    obtain ⟨z3, e3⟩ := h3.bool Try.underlying4
    obtain ⟨z4, e4⟩ := h4.bool Try.underlying4
    obtain ⟨z5, e5⟩ := h5.bool Try.underlying4
    obtain ⟨z6, e6⟩ := h6.bool Try.underlying4
    obtain ⟨z7, e7⟩ := h7.bool Try.underlying4
    simp at e0 e1 e2 e3 e4 e5 e6 e7
    subst e0 e1 e2 e3 e4 e5 e6 e7
    exact ⟨⟨z0, z1, z2, z3, z4, z5, z6, z7⟩, rfl⟩
theorem chn_open {r : List Value} (hl : r.length = Try.prog.cellsOf 33) (h : Reads enc Try.prog w base spare held 33 r) :
    ∃ (o opn oo oc : Bool) (st nr nd na ht tm ah at_ sh : Int), r = [.bool o, .bool opn, .bool oo, .bool oc, .int .i64 st, .int .i64 nr, .int .i64 nd, .int .i64 na, .int .i64 ht, .int .i64 tm, .int .i64 ah, .int .i64 at_, .int .i64 sh] := by
  rw [Try.cellsCh] at hl
  match r, hl with
  | [c0, c1, c2, c3, c4, c5, c6, c7, c8, c9, c10, c11, c12], _ =>
    have h0 := h.field Try.underlying33 0 _ rfl
    have h1 := h.field Try.underlying33 1 _ rfl
    have h2 := h.field Try.underlying33 2 _ rfl
    have h3 := h.field Try.underlying33 3 _ rfl
    have h4 := h.field Try.underlying33 4 _ rfl
    have h5 := h.field Try.underlying33 5 _ rfl
    have h6 := h.field Try.underlying33 6 _ rfl
    have h7 := h.field Try.underlying33 7 _ rfl
    have h8 := h.field Try.underlying33 8 _ rfl
    have h9 := h.field Try.underlying33 9 _ rfl
    have h10 := h.field Try.underlying33 10 _ rfl
    have h11 := h.field Try.underlying33 11 _ rfl
    have h12 := h.field Try.underlying33 12 _ rfl
    simp [Try.cellsIn, Try.cellsBo] at h0 h1 h2 h3 h4 h5 h6 h7 h8 h9 h10 h11 h12
    obtain ⟨z0, e0⟩ := h0.bool Try.underlying4
    obtain ⟨z1, e1⟩ := h1.bool Try.underlying4
    obtain ⟨z2, e2⟩ := h2.bool Try.underlying4
    obtain ⟨z3, e3⟩ := h3.bool Try.underlying4
    obtain ⟨z4, e4, _⟩ := h4.int Try.underlying3
    obtain ⟨z5, e5, _⟩ := h5.int Try.underlying3
    obtain ⟨z6, e6, _⟩ := h6.int Try.underlying3
    obtain ⟨z7, e7, _⟩ := h7.int Try.underlying3
    obtain ⟨z8, e8, _⟩ := h8.int Try.underlying3
    obtain ⟨z9, e9, _⟩ := h9.int Try.underlying3
    obtain ⟨z10, e10, _⟩ := h10.int Try.underlying3
    obtain ⟨z11, e11, _⟩ := h11.int Try.underlying3
    obtain ⟨z12, e12, _⟩ := h12.int Try.underlying3
    simp at e0 e1 e2 e3 e4 e5 e6 e7 e8 e9 e10 e11 e12
    subst e0 e1 e2 e3 e4 e5 e6 e7 e8 e9 e10 e11 e12
    exact ⟨z0, z1, z2, z3, z4, z5, z6, z7, z8, z9, z10, z11, z12, rfl⟩
end
end Go.Proofs.Ytnngjbheamegjaa
