/- A Writer of package wire: a hash. -/
import Derived.Test.YthipnkbfdkmhaaaGD
import Derived.Test.YthipnkbfdkmhaaaGC
import Derived.Laws.IdiomStrings
import Derived.Laws.Tables
import Derived.Laws.Rows
import Derived.Laws.Cells
import Derived.WalkKit
import Derived.ProofKit
import Derived.Handy
import Derived.Below
import Derived.BigQuiet
import Derived.Lib.Hide
import Derived.IntWalk
import Derived.Outline
import Derived.WalkLawsBesides
import Derived.WalkSpells
namespace Go.Proofs.Ythipnkbfdkmhaaa
open Go.RowKit
attribute [local go_sem] strV
set_option maxRecDepth 100000 in
set_option maxHeartbeats 1600000 in
theorem whash_ok (B b : Nat) (w : World) (l q : List UInt8) (hq : q.length = 32) (hBw : B ≤ w.heap.size) (h : WAt B b w l 0) (hlen : l.length + 32 ≤ 140737488355328) :
    Calls Try.prog 92 #[.pointer (some ⟨b, 0, none⟩), .agg (hrow q)] w fun e w' => e = .returned (.tuple #[]) ∧ WAt B b w' (l ++ q) 0 ∧ Below B w w' := by
  have hbA : Below w.heap.size w (w.alloc (.cells (hrow q) 23)) := Below.alloc (Below.refl _ _) (by simp) _
  have hg : (w.alloc (.cells (hrow q) 23)).heap[w.heap.size]? = some (.cells (hrow q) 23 (0, 0)) := by
    show (w.heap.push _)[w.heap.size]? = _
    simp
  have hcv : (convert 125 9 (.slice (some ⟨w.heap.size, 0, none⟩) 32 32)).run Try.prog (w.alloc (.cells (hrow q) 23)) = .ok (.string ⟨q.toArray⟩) (w.alloc (.cells (hrow q) 23)) := by
    have := run_convert_bytes_back (P := Try.prog) (w.alloc (.cells (hrow q) 23)) 125 9 5 ⟨w.heap.size, 0, none⟩ 32 q Try.underlying125 Try.underlying5 Try.underlying9 (fun j hj => by
      have hadd : (⟨w.heap.size, 0, none⟩ : Addr).add j = ⟨w.heap.size, j, none⟩ := by unfold Addr.add; by_cases h : j = 0 <;> simp [h]
      rw [hadd, cell_heap hg]; simp [hrow, Lib.byteCells, List.getElem?_eq_getElem hj])
    rwa [hq] at this
  go_enter Try.func92, Try.ntmps92
  go_wp2_with (go_at_call 114; refine (wadd_ok B b _ l ⟨q.toArray⟩ (h.below hbA) (Nat.le_trans hBw hbA.size) (by rw [show (⟨q.toArray⟩ : ByteArray).size = q.length from rfl, hq]; exact hlen)).mono ?_; rintro e w2 ⟨rfl, h2, hb2⟩)
  go_returns
  exact ⟨rfl, by simpa using h2, (hbA.mono hBw).trans hb2⟩
set_option maxRecDepth 100000 in
set_option maxHeartbeats 1600000 in
theorem whash_err (B b : Nat) (w : World) (l q : List UInt8) (hq : q.length = 32) (hBw : B ≤ w.heap.size) (err : Int) (h : WAt B b w l err) (he : (err == 0) = false) :
    Calls Try.prog 92 #[.pointer (some ⟨b, 0, none⟩), .agg (hrow q)] w fun e w' => e = .returned (.tuple #[]) ∧ WAt B b w' l err ∧ Below B w w' := by
  have hbA : Below w.heap.size w (w.alloc (.cells (hrow q) 23)) := Below.alloc (Below.refl _ _) (by simp) _
  have hg : (w.alloc (.cells (hrow q) 23)).heap[w.heap.size]? = some (.cells (hrow q) 23 (0, 0)) := by
    show (w.heap.push _)[w.heap.size]? = _
    simp
  have hcv : (convert 125 9 (.slice (some ⟨w.heap.size, 0, none⟩) 32 32)).run Try.prog (w.alloc (.cells (hrow q) 23)) = .ok (.string ⟨q.toArray⟩) (w.alloc (.cells (hrow q) 23)) := by
    have := run_convert_bytes_back (P := Try.prog) (w.alloc (.cells (hrow q) 23)) 125 9 5 ⟨w.heap.size, 0, none⟩ 32 q Try.underlying125 Try.underlying5 Try.underlying9 (fun j hj => by
      have hadd : (⟨w.heap.size, 0, none⟩ : Addr).add j = ⟨w.heap.size, j, none⟩ := by unfold Addr.add; by_cases h : j = 0 <;> simp [h]
      rw [hadd, cell_heap hg]; simp [hrow, Lib.byteCells, List.getElem?_eq_getElem hj])
    rwa [hq] at this
  go_enter Try.func92, Try.ntmps92
  go_wp2_with (go_at_call 114; refine (wadd_err B b _ l err ⟨q.toArray⟩ (h.below hbA) he).mono ?_; rintro e w2 ⟨rfl, hw2⟩; obtain rfl : _ = w2 := hw2.symm)
  go_returns
  exact ⟨rfl, h.below hbA, hbA.mono hBw⟩
end Go.Proofs.Ythipnkbfdkmhaaa
