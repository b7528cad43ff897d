/- ligref1.Text: a hash as its 32 bytes. -/
import Derived.Test.YtfikbaoiialfeaaDoorHashEq
import Derived.Test.YtfikbaoiialfeaaDoorGD
import Derived.Test.YtfikbaoiialfeaaDoorVRow
import Derived.Laws.IdiomStrings
import Derived.WalkKit
import Derived.ProofKit
import Derived.Handy
import Derived.Below
import Derived.Lib.Hide
import Derived.IntWalk
import Derived.Outline
import Derived.WalkLawsBesides
import Derived.WalkSpells
namespace Go.Proofs.YtfikbaoiialfeaaDoor
open Go.RowKit
attribute [local go_sem] strV
set_option maxRecDepth 100000 in
set_option maxHeartbeats 1600000 in
theorem refText_any (w : World) (q : List UInt8) (hq : q.length = 32) :
    Calls Tryd.prog 69 #[.agg (hrow q)] w fun e w' => e = .returned (.string ⟨q.toArray⟩) ∧ Below w.heap.size w w' := by
  have HQ := Lib.hid hq
  have hg0 : (w.alloc (.cells (hrow q) 25)).heap[w.heap.size]? = some (.cells (hrow q) 25 (0, 0)) := by
    show (w.heap.push _)[w.heap.size]? = _
    simp
  go_enter Tryd.func69, Tryd.ntmps69
  go_wp2_with (at_make; refine wpList_makeV _ rfl _ _ 111 rfl 5 (.int .u8 0) 1 Tryd.underlying111 (by kernel_rfl) rfl _ _ 32 rfl rfl (by omega) (by omega) (by omega) (by unfold maxLen; omega) ?_)
  intro w1 g hg hgs hv hb1
  have hz : w1.heap[w.heap.size]? = some (.cells (hrow q) 25 (0, 0)) := by rw [hb1.block _ (by simp)]; exact hg0
  have hbel : Below w.heap.size w w1 := (Below.alloc (Below.refl _ _) (Nat.le_refl _) _).trans (hb1.mono (by simp))
  have hg1 : w.heap.size + 1 ≤ g := by simpa using hg
  clear hg hgs hb1 hg0
  go_wp2
  go_loopw [4] (fun v W => ∃ k : Nat, k ≤ 32 ∧ Below w.heap.size w W ∧ W.heap[w.heap.size]? = some (.cells (hrow q) 25 (0, 0)) ∧ VR W g 32 (fun j => if j < k then .int .u8 ((q.getD j 0).toNat : Nat) else .int .u8 0) ∧ v = .int .i64 (k : Int)) (fun v _ => 32 - (intOf v).toNat)
  case atStart => exact ⟨0, by omega, hbel, hz, hv.congr (fun j hj => by simp), rfl⟩
  case round =>
    clear hbel hz hv
    obtain ⟨k, hk, hbel, hz, hv, rfl⟩ := hrel
    by_cases hlt : k < 32
    · have d1 : decide ((k : Int) < 32) = true := decide_eq_true (by omega)
      have ck : wr.cell? ⟨w.heap.size, k, none⟩ = some (.int .u8 ((q.getD k 0).toNat : Nat)) := by rw [cell_heap hz, hrow_at q k (by rw [HQ.out]; exact hlt)]
      have ek := hv.cell hlt
      have fk := hv.frozen k
      go_wp2
      go_roundw
      case rel =>
        refine ⟨k + 1, by omega, hbel.setCell (p := ⟨g, k, none⟩) (by show _ ≤ g; omega) _, row_set hz (by omega), (hv.set (k := k) _).congr (fun j hj => ?_), by go_num⟩
        by_cases hjk : j = k
        · subst hjk; simp [List.getD, List.getElem?_eq_getElem (show j < q.length by rw [HQ.out]; exact hj)]
        · rw [if_neg hjk]
          by_cases hj2 : j < k
          · rw [if_pos hj2, if_pos (by omega)]
          · rw [if_neg hj2, if_neg (by omega)]
      case measure => (simp [intOf]) <;> omega
    · obtain rfl : k = 32 := by omega
      have hcv : (convert 111 9 (.slice (some ⟨g, 0, none⟩) 32 32)).run Tryd.prog wr = .ok (.string ⟨q.toArray⟩) wr := by
        have := run_convert_bytes_back (P := Tryd.prog) wr 111 9 5 ⟨g, 0, none⟩ 32 q Tryd.underlying111 Tryd.underlying5 Tryd.underlying9 (fun j hj => by
          have hadd : (⟨g, 0, none⟩ : Addr).add j = ⟨g, j, none⟩ := by unfold Addr.add; by_cases h : j = 0 <;> simp [h]
          have hj' : j < 32 := by rw [← HQ.out]; exact hj
          rw [hadd, hv.cell hj', if_pos hj']
          simp [List.getD, List.getElem?_eq_getElem hj])
        rwa [HQ.out] at this
      go_wp2
      go_ret
      exact ⟨rfl, hbel⟩
end Go.Proofs.YtfikbaoiialfeaaDoor
