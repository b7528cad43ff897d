/- A slice of two messages built. -/
import Derived.Test.YthipnkbfdkmhaaaMsg9
import Derived.WalkKit
import Derived.ProofKit
import Derived.Handy
import Derived.Below
import Derived.Lib.Hide
import Derived.IntWalk
import Derived.Outline
import Derived.WalkLawsBesides
import Derived.WalkSpells
namespace Go.Proofs.Ythipnkbfdkmhaaa
open Go.RowKit
attribute [local go_sem] strV
set_option linter.unusedVariables false

theorem fold_setO (o : Nat) : ∀ (vs : List Value) (k : Nat) (cur : Array Value), o + k + vs.length ≤ cur.size → (vs.zipIdx k).foldl (fun a x => a.setIfInBounds (o + x.2) x.1) cur = (cur.toList.take (o + k) ++ vs ++ cur.toList.drop (o + k + vs.length)).toArray
  | [], k, cur, h => by simp
  | v :: r, k, cur, h => by
    rw [List.length_cons] at h
    rw [List.zipIdx_cons, List.foldl_cons, fold_setO o r (k + 1) _ (by rw [Array.size_setIfInBounds]; omega)]
    apply congrArg List.toArray
    have hk : o + k < cur.toList.length := by rw [Array.length_toList]; omega
    rw [Array.toList_setIfInBounds, show o + (k + 1) = o + k + 1 by omega, List.take_succ_eq_append_getElem (by rw [List.length_set]; exact hk), List.getElem_set_self, List.take_set, List.set_eq_of_length_le (by rw [List.length_take]; omega), List.drop_set, if_pos (by omega), List.length_cons, show o + k + 1 + r.length = o + k + (r.length + 1) by omega]
    simp
theorem zip_setO (o : Nat) (vs cur : Array Value) (h : o + vs.size ≤ cur.size) : vs.zipIdx.foldl (fun cs (x : Value × Nat) => match x with | (c, j) => cs.setIfInBounds (o + j) c) cur = (cur.toList.take o ++ vs.toList ++ cur.toList.drop (o + vs.size)).toArray := by
  rw [← Array.foldl_toList, Array.toList_zipIdx]
  have := fold_setO o vs.toList 0 cur (by rw [Array.length_toList]; omega)
  rw [Array.length_toList] at this
  exact this
theorem fill2 (R Z : Array Value) (hR : R.size = 50) (hZ : Z.size = 100) : Instr.fill (fun i => some (i * 50, 50)) Z [(0, .agg R), (1, .agg R)] = some (R ++ R) := by
  have e1 := zip_setO (0 * 50) R Z (by omega)
  have hs : (Z.toList.take (0 * 50) ++ R.toList ++ Z.toList.drop (0 * 50 + R.size)).toArray.size = 100 := by
    rw [List.size_toArray]; simp; omega
  have e2 := zip_setO (1 * 50) R _ (show 1 * 50 + R.size ≤ (Z.toList.take (0 * 50) ++ R.toList ++ Z.toList.drop (0 * 50 + R.size)).toArray.size by omega)
  have hc : (Value.agg R).cells = R := rfl
  unfold Instr.fill
  simp only [hc]
  rw [if_neg (by simp; omega)]
  unfold Instr.fill
  simp only [hc]
  rw [e1, if_neg (by rw [hs]; simp; omega), e2]
  unfold Instr.fill
  congr 1
  apply Array.ext'
  rw [List.toList_toArray, Array.toList_append]
  have l1 : R.toList.length = 50 := by rw [Array.length_toList]; exact hR
  have l2 : Z.toList.length = 100 := by rw [Array.length_toList]; exact hZ
  rw [Nat.zero_mul, List.take_zero, List.nil_append, Nat.one_mul, List.take_append_of_le_length (by omega), List.take_of_length_le (by omega), hR, List.drop_of_length_le (by rw [List.length_append, List.length_drop]; omega), List.append_nil]
theorem fold_at (o : Nat) (R Z : Array Value) (hR : R.size = 50) (hZ : o + 50 ≤ Z.size) : Array.foldl (fun cs x => cs.setIfInBounds (o + x.2) x.1) Z R.zipIdx 0 50 = (Z.toList.take o ++ R.toList ++ Z.toList.drop (o + 50)).toArray := by
  have h3 : R.zipIdx.size = 50 := by simpa using hR
  rw [← h3, ← Array.foldl_toList, Array.toList_zipIdx]
  have := fold_setO o R.toList 0 Z (by rw [Array.length_toList]; omega)
  rw [Array.length_toList, hR] at this
  rw [h3]
  exact this
theorem fold_at0 (R Z : Array Value) (hR : R.size = 50) (hZ : 50 ≤ Z.size) : Array.foldl (fun cs x => cs.setIfInBounds x.2 x.1) Z R.zipIdx 0 50 = (R.toList ++ Z.toList.drop 50).toArray := by
  have := fold_at 0 R Z hR (by omega)
  simp only [Nat.zero_add, List.take_zero, List.nil_append] at this
  exact this
set_option maxHeartbeats 1000000 in
theorem build2 (R : Array Value) (hR : R.size = 50) (W : World) : (Instr.buildSlice 48 2 #[(0, .agg R), (1, .agg R)]).run Try.prog W = .ok (.slice (some ⟨W.heap.size, 0, none⟩) 2 2) (W.alloc (.cells (R ++ R) 34)) := by
  have h1 := fun Z hZ => fold_at0 R Z hR hZ
  have h2 := fun Z hZ => fold_at 50 R Z hR hZ
  simp [go_sem, hR, h1, h2]
  rw [List.drop_of_length_le (by simp [hR]), List.append_nil]
  congr 2
  apply Array.ext'
  simp
end Go.Proofs.Ythipnkbfdkmhaaa
