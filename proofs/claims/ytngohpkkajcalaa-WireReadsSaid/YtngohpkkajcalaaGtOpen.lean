/- Questions to a Reader as they come in. -/
import Derived.Test.YtngohpkkajcalaaRows
import Derived.Test.YtngohpkkajcalaaOpen
namespace Go.Proofs.Ytngohpkkajcalaa
open Go.RowKit Go.ChangeShapes Go.WideShapes Go.Deep
structure Gt where
  kd : Int
  le : Int
  mo : Int
def Gt.cells (g : Gt) : List Value := [.int .i64 g.kd, .int .i64 g.le, .int .i64 g.mo]
theorem Gt.cells_len (g : Gt) : g.cells.length = 3 := rfl
theorem gt_at {w : World} {a : Option Addr} {gs : List Gt} (h : RowAt w a (gs.flatMap Gt.cells)) {k : Nat} (hk : k < gs.length) :
    ∃ b off, a = some ⟨b, off, none⟩ ∧ b < w.heap.size ∧ w.cell? ⟨b, off + k * 3, none⟩ = some (.int .i64 gs[k].kd) ∧ w.cell? ⟨b, off + k * 3 + 1, none⟩ = some (.int .i64 gs[k].le) ∧ w.cell? ⟨b, off + k * 3 + 2, none⟩ = some (.int .i64 gs[k].mo) := by
  obtain ⟨b, off, ha, hb, hc⟩ := h.elem Gt.cells_len hk (by omega)
  have e : ∀ j, off + (k * 3 + j) = off + k * 3 + j := fun j => by omega
  simp only [e] at hc
  exact ⟨b, off, ha, hb, hc 0 (by omega), hc 1 (by omega), hc 2 (by omega)⟩
theorem Try.cellsGt : Try.prog.cellsOf 38 = 3 := by kernel_rfl
theorem Try.cellsIntG : Try.prog.cellsOf 3 = 1 := by kernel_rfl
section
variable {H : Type} {enc : TypeId × Value → H} {w : World} {base : Nat} {spare : Nat → Bool} {held : Bool}
theorem gt_open {r : List Value} (hl : r.length = Try.prog.cellsOf 38) (h : Reads enc Try.prog w base spare held 38 r) : ∃ g : Gt, r = g.cells := by
  rw [Try.cellsGt] at hl
  match r, hl with
  | [c0, c1, c2], _ =>
    have h0 := h.field Try.underlying38 0 _ rfl
    have h1 := h.field Try.underlying38 1 _ rfl
    have h2 := h.field Try.underlying38 2 _ rfl
    simp [Try.cellsIntG] at h0 h1 h2
    obtain ⟨z0, e0, _⟩ := h0.int Try.underlying3
    obtain ⟨z1, e1, _⟩ := h1.int Try.underlying3
    obtain ⟨z2, e2, _⟩ := h2.int Try.underlying3
    simp at e0 e1 e2
    subst e0 e1 e2
    exact ⟨⟨z0, z1, z2⟩, rfl⟩
end
end Go.Proofs.Ytngohpkkajcalaa
