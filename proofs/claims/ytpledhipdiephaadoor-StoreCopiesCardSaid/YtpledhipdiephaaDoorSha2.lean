/- sha: the words of the 64 rounds out of a block. -/
import Derived.Test.YtpledhipdiephaaDoorSt3
import Derived.Test.YtpledhipdiephaaDoorT2
import Derived.Test.YtpledhipdiephaaDoorT1
import Derived.BigRegion
import Derived.RegionTactic
import Derived.Laws.Tables
import Derived.Laws.Rows
import Derived.Laws.Cells
import Derived.Deep.MidRow
import Derived.WalkKit
import Derived.ProofKit
import Derived.Handy
import Derived.Below
import Derived.Lib.Hide
import Derived.IntWalk
import Derived.Outline
import Derived.WalkLawsBesides
import Derived.WalkSpells
namespace Go.Proofs.YtpledhipdiephaaDoor
open Go.RowKit
attribute [local go_sem] strV
set_option linter.unusedVariables false
def wrow (l : List Int) : Array Value := (l.map (Value.int .u32)).toArray
theorem wrow_size (l : List Int) : (wrow l).size = l.length := by simp [wrow]
theorem wrow_at {l : List Int} {k : Nat} {x : Int} (h : l[k]? = some x) : (wrow l)[k]? = some (.int .u32 x) := by simp [wrow, h]
theorem wrow_set (l : List Int) (k : Nat) (x : Int) : (wrow l).setIfInBounds k (.int .u32 x) = wrow (l.set k x) := by
  simp [wrow, List.map_set]
theorem wrow_one (l : List Int) : (wrow l).all (·.oneCell') = true := by
  rw [Array.all_eq_true_iff_forall_mem]; intro v hv; simp [wrow] at hv; obtain ⟨x, _, rfl⟩ := hv; rfl
theorem get_some {l : List Int} {k : Nat} (h : k < l.length) : l[k]? = some (l.getD k 0) := by
  rw [List.getD_eq_getElem?_getD, List.getElem?_eq_getElem h]; rfl
/-- A digest's cells: the sum, the buffer, its bytes in use, the bytes so far. -/
def drow (S : List Int) (B : List UInt8) (u z : Int) : Array Value := (S.map (Value.int .u32) ++ (Lib.byteCells B ++ [Value.int .i64 u, Value.int .i64 z])).toArray
theorem byteCells_at {l : List UInt8} {k : Nat} (h : k < l.length) : (Lib.byteCells l)[k]? = some (.int .u8 ((l.getD k 0).toNat : Int)) := by
  simp [Lib.byteCells, List.getD_eq_getElem?_getD, h]
theorem drow_sum {S : List Int} {B : List UInt8} {u z : Int} {k : Nat} (h : k < S.length) : (drow S B u z)[k]? = some (.int .u32 (S.getD k 0)) := by
  unfold drow
  rw [List.getElem?_toArray, List.getElem?_append_left (by simpa using h), List.getElem?_map, get_some h]; rfl
theorem drow_buf {S : List Int} {B : List UInt8} {u z : Int} {k : Nat} (hS : S.length = 8) (h : k < B.length) : (drow S B u z)[8 + k]? = some (.int .u8 ((B.getD k 0).toNat : Int)) := by
  unfold drow
  rw [List.getElem?_toArray, List.getElem?_append_right (by simp; omega)]
  simp only [List.length_map, hS]
  rw [show 8 + k - 8 = k by omega, List.getElem?_append_left (by rw [Lib.byteCells_length]; exact h), byteCells_at h]
def byt (bs : List UInt8) (i : Nat) : Int := ((bs.getD i 0).toNat : Int)
def word (bs : List UInt8) (k : Nat) : Int := bits .or .u32 (bits .or .u32 (bits .or .u32 (byt bs (4 * k) % 4294967296 * 16777216 % 4294967296) (byt bs (4 * k + 1) % 4294967296 * 65536 % 4294967296)) (byt bs (4 * k + 2) % 4294967296 * 256 % 4294967296)) (byt bs (4 * k + 3) % 4294967296)
def nw (L : List Int) (k : Nat) : Int := (L.getD (k - 16) 0 + bits .xor .u32 (bits .xor .u32 (rr (L.getD (k - 15) 0) 7) (rr (L.getD (k - 15) 0) 18)) (L.getD (k - 15) 0 / 8) + L.getD (k - 7) 0 + bits .xor .u32 (bits .xor .u32 (rr (L.getD (k - 2) 0) 17) (rr (L.getD (k - 2) 0) 19)) (L.getD (k - 2) 0 / 1024)) % 4294967296
/-- The words while they are reckoned: k are there. -/
def sch (bs : List UInt8) : Nat → List Int
  | 0 => List.replicate 64 0
  | k + 1 => (sch bs k).set k (if k < 16 then word bs k else nw (sch bs k) k)
theorem sch_len (bs : List UInt8) (k : Nat) : (sch bs k).length = 64 := by
  induction k with
  | zero => simp [sch]
  | succ k ih => simp [sch, ih]
def sched (bs : List UInt8) : List Int := sch bs 64
set_option maxRecDepth 100000 in
set_option maxHeartbeats 3200000 in
theorem schedule_any (b : Nat) (w : World) (S : List Int) (B : List UInt8) (u z : Int) (hd : w.heap[b]? = some (.cells (drow S B u z) 156 (0, 0))) (hS : S.length = 8) (hB : B.length = 64) :
    Calls Tryd.prog 115 #[.pointer (some ⟨b, 0, none⟩)] w fun e w' => e = .returned (.agg (wrow (sched B))) ∧ Below w.heap.size w w' := by
  have hlt : b < w.heap.size := (Array.getElem?_eq_some_iff.1 hd).1
  have g0 : ((w.alloc (.cells #[Value.int .u32 0, Value.int .u32 0, Value.int .u32 0, Value.int .u32 0, Value.int .u32 0, Value.int .u32 0, Value.int .u32 0, Value.int .u32 0, Value.int .u32 0, Value.int .u32 0, Value.int .u32 0, Value.int .u32 0, Value.int .u32 0, Value.int .u32 0, Value.int .u32 0, Value.int .u32 0, Value.int .u32 0, Value.int .u32 0, Value.int .u32 0, Value.int .u32 0, Value.int .u32 0, Value.int .u32 0, Value.int .u32 0, Value.int .u32 0, Value.int .u32 0, Value.int .u32 0, Value.int .u32 0, Value.int .u32 0, Value.int .u32 0, Value.int .u32 0, Value.int .u32 0, Value.int .u32 0, Value.int .u32 0, Value.int .u32 0, Value.int .u32 0, Value.int .u32 0, Value.int .u32 0, Value.int .u32 0, Value.int .u32 0, Value.int .u32 0, Value.int .u32 0, Value.int .u32 0, Value.int .u32 0, Value.int .u32 0, Value.int .u32 0, Value.int .u32 0, Value.int .u32 0, Value.int .u32 0, Value.int .u32 0, Value.int .u32 0, Value.int .u32 0, Value.int .u32 0, Value.int .u32 0, Value.int .u32 0, Value.int .u32 0, Value.int .u32 0, Value.int .u32 0, Value.int .u32 0, Value.int .u32 0, Value.int .u32 0, Value.int .u32 0, Value.int .u32 0, Value.int .u32 0, Value.int .u32 0] 161)).alloc (.cells #[Value.int .u32 0, Value.int .u32 0, Value.int .u32 0, Value.int .u32 0, Value.int .u32 0, Value.int .u32 0, Value.int .u32 0, Value.int .u32 0, Value.int .u32 0, Value.int .u32 0, Value.int .u32 0, Value.int .u32 0, Value.int .u32 0, Value.int .u32 0, Value.int .u32 0, Value.int .u32 0, Value.int .u32 0, Value.int .u32 0, Value.int .u32 0, Value.int .u32 0, Value.int .u32 0, Value.int .u32 0, Value.int .u32 0, Value.int .u32 0, Value.int .u32 0, Value.int .u32 0, Value.int .u32 0, Value.int .u32 0, Value.int .u32 0, Value.int .u32 0, Value.int .u32 0, Value.int .u32 0, Value.int .u32 0, Value.int .u32 0, Value.int .u32 0, Value.int .u32 0, Value.int .u32 0, Value.int .u32 0, Value.int .u32 0, Value.int .u32 0, Value.int .u32 0, Value.int .u32 0, Value.int .u32 0, Value.int .u32 0, Value.int .u32 0, Value.int .u32 0, Value.int .u32 0, Value.int .u32 0, Value.int .u32 0, Value.int .u32 0, Value.int .u32 0, Value.int .u32 0, Value.int .u32 0, Value.int .u32 0, Value.int .u32 0, Value.int .u32 0, Value.int .u32 0, Value.int .u32 0, Value.int .u32 0, Value.int .u32 0, Value.int .u32 0, Value.int .u32 0, Value.int .u32 0, Value.int .u32 0] 161)).heap[w.heap.size]? = some (.cells (wrow (List.replicate 64 0)) 161 (0, 0)) := by
    show ((w.heap.push _).push _)[w.heap.size]? = _
    rw [Array.getElem?_push_lt (by simp), ← Array.getElem?_eq_getElem (by simp), Array.getElem?_push_size]
    rfl
  have g1 : ((w.alloc (.cells #[Value.int .u32 0, Value.int .u32 0, Value.int .u32 0, Value.int .u32 0, Value.int .u32 0, Value.int .u32 0, Value.int .u32 0, Value.int .u32 0, Value.int .u32 0, Value.int .u32 0, Value.int .u32 0, Value.int .u32 0, Value.int .u32 0, Value.int .u32 0, Value.int .u32 0, Value.int .u32 0, Value.int .u32 0, Value.int .u32 0, Value.int .u32 0, Value.int .u32 0, Value.int .u32 0, Value.int .u32 0, Value.int .u32 0, Value.int .u32 0, Value.int .u32 0, Value.int .u32 0, Value.int .u32 0, Value.int .u32 0, Value.int .u32 0, Value.int .u32 0, Value.int .u32 0, Value.int .u32 0, Value.int .u32 0, Value.int .u32 0, Value.int .u32 0, Value.int .u32 0, Value.int .u32 0, Value.int .u32 0, Value.int .u32 0, Value.int .u32 0, Value.int .u32 0, Value.int .u32 0, Value.int .u32 0, Value.int .u32 0, Value.int .u32 0, Value.int .u32 0, Value.int .u32 0, Value.int .u32 0, Value.int .u32 0, Value.int .u32 0, Value.int .u32 0, Value.int .u32 0, Value.int .u32 0, Value.int .u32 0, Value.int .u32 0, Value.int .u32 0, Value.int .u32 0, Value.int .u32 0, Value.int .u32 0, Value.int .u32 0, Value.int .u32 0, Value.int .u32 0, Value.int .u32 0, Value.int .u32 0] 161)).alloc (.cells #[Value.int .u32 0, Value.int .u32 0, Value.int .u32 0, Value.int .u32 0, Value.int .u32 0, Value.int .u32 0, Value.int .u32 0, Value.int .u32 0, Value.int .u32 0, Value.int .u32 0, Value.int .u32 0, Value.int .u32 0, Value.int .u32 0, Value.int .u32 0, Value.int .u32 0, Value.int .u32 0, Value.int .u32 0, Value.int .u32 0, Value.int .u32 0, Value.int .u32 0, Value.int .u32 0, Value.int .u32 0, Value.int .u32 0, Value.int .u32 0, Value.int .u32 0, Value.int .u32 0, Value.int .u32 0, Value.int .u32 0, Value.int .u32 0, Value.int .u32 0, Value.int .u32 0, Value.int .u32 0, Value.int .u32 0, Value.int .u32 0, Value.int .u32 0, Value.int .u32 0, Value.int .u32 0, Value.int .u32 0, Value.int .u32 0, Value.int .u32 0, Value.int .u32 0, Value.int .u32 0, Value.int .u32 0, Value.int .u32 0, Value.int .u32 0, Value.int .u32 0, Value.int .u32 0, Value.int .u32 0, Value.int .u32 0, Value.int .u32 0, Value.int .u32 0, Value.int .u32 0, Value.int .u32 0, Value.int .u32 0, Value.int .u32 0, Value.int .u32 0, Value.int .u32 0, Value.int .u32 0, Value.int .u32 0, Value.int .u32 0, Value.int .u32 0, Value.int .u32 0, Value.int .u32 0, Value.int .u32 0] 161)).heap[w.heap.size + 1]? = some (.cells (wrow (sch B 0)) 161 (0, 0)) := by
    show ((w.heap.push _).push _)[w.heap.size + 1]? = _
    rw [show w.heap.size + 1 = (w.heap.push (Obj.cells #[Value.int .u32 0, Value.int .u32 0, Value.int .u32 0, Value.int .u32 0, Value.int .u32 0, Value.int .u32 0, Value.int .u32 0, Value.int .u32 0, Value.int .u32 0, Value.int .u32 0, Value.int .u32 0, Value.int .u32 0, Value.int .u32 0, Value.int .u32 0, Value.int .u32 0, Value.int .u32 0, Value.int .u32 0, Value.int .u32 0, Value.int .u32 0, Value.int .u32 0, Value.int .u32 0, Value.int .u32 0, Value.int .u32 0, Value.int .u32 0, Value.int .u32 0, Value.int .u32 0, Value.int .u32 0, Value.int .u32 0, Value.int .u32 0, Value.int .u32 0, Value.int .u32 0, Value.int .u32 0, Value.int .u32 0, Value.int .u32 0, Value.int .u32 0, Value.int .u32 0, Value.int .u32 0, Value.int .u32 0, Value.int .u32 0, Value.int .u32 0, Value.int .u32 0, Value.int .u32 0, Value.int .u32 0, Value.int .u32 0, Value.int .u32 0, Value.int .u32 0, Value.int .u32 0, Value.int .u32 0, Value.int .u32 0, Value.int .u32 0, Value.int .u32 0, Value.int .u32 0, Value.int .u32 0, Value.int .u32 0, Value.int .u32 0, Value.int .u32 0, Value.int .u32 0, Value.int .u32 0, Value.int .u32 0, Value.int .u32 0, Value.int .u32 0, Value.int .u32 0, Value.int .u32 0, Value.int .u32 0] 161 (0, 0))).size by simp, Array.getElem?_push_size]
    rfl
  have hbA : Below w.heap.size w ((w.alloc (.cells #[Value.int .u32 0, Value.int .u32 0, Value.int .u32 0, Value.int .u32 0, Value.int .u32 0, Value.int .u32 0, Value.int .u32 0, Value.int .u32 0, Value.int .u32 0, Value.int .u32 0, Value.int .u32 0, Value.int .u32 0, Value.int .u32 0, Value.int .u32 0, Value.int .u32 0, Value.int .u32 0, Value.int .u32 0, Value.int .u32 0, Value.int .u32 0, Value.int .u32 0, Value.int .u32 0, Value.int .u32 0, Value.int .u32 0, Value.int .u32 0, Value.int .u32 0, Value.int .u32 0, Value.int .u32 0, Value.int .u32 0, Value.int .u32 0, Value.int .u32 0, Value.int .u32 0, Value.int .u32 0, Value.int .u32 0, Value.int .u32 0, Value.int .u32 0, Value.int .u32 0, Value.int .u32 0, Value.int .u32 0, Value.int .u32 0, Value.int .u32 0, Value.int .u32 0, Value.int .u32 0, Value.int .u32 0, Value.int .u32 0, Value.int .u32 0, Value.int .u32 0, Value.int .u32 0, Value.int .u32 0, Value.int .u32 0, Value.int .u32 0, Value.int .u32 0, Value.int .u32 0, Value.int .u32 0, Value.int .u32 0, Value.int .u32 0, Value.int .u32 0, Value.int .u32 0, Value.int .u32 0, Value.int .u32 0, Value.int .u32 0, Value.int .u32 0, Value.int .u32 0, Value.int .u32 0, Value.int .u32 0] 161)).alloc (.cells #[Value.int .u32 0, Value.int .u32 0, Value.int .u32 0, Value.int .u32 0, Value.int .u32 0, Value.int .u32 0, Value.int .u32 0, Value.int .u32 0, Value.int .u32 0, Value.int .u32 0, Value.int .u32 0, Value.int .u32 0, Value.int .u32 0, Value.int .u32 0, Value.int .u32 0, Value.int .u32 0, Value.int .u32 0, Value.int .u32 0, Value.int .u32 0, Value.int .u32 0, Value.int .u32 0, Value.int .u32 0, Value.int .u32 0, Value.int .u32 0, Value.int .u32 0, Value.int .u32 0, Value.int .u32 0, Value.int .u32 0, Value.int .u32 0, Value.int .u32 0, Value.int .u32 0, Value.int .u32 0, Value.int .u32 0, Value.int .u32 0, Value.int .u32 0, Value.int .u32 0, Value.int .u32 0, Value.int .u32 0, Value.int .u32 0, Value.int .u32 0, Value.int .u32 0, Value.int .u32 0, Value.int .u32 0, Value.int .u32 0, Value.int .u32 0, Value.int .u32 0, Value.int .u32 0, Value.int .u32 0, Value.int .u32 0, Value.int .u32 0, Value.int .u32 0, Value.int .u32 0, Value.int .u32 0, Value.int .u32 0, Value.int .u32 0, Value.int .u32 0, Value.int .u32 0, Value.int .u32 0, Value.int .u32 0, Value.int .u32 0, Value.int .u32 0, Value.int .u32 0, Value.int .u32 0, Value.int .u32 0] 161)) := Below.alloc (Below.alloc (Below.refl _ _) (Nat.le_refl _) _) (by simp) _
  go_enter Tryd.func115, Tryd.ntmps115
  go_upto_region 2 with fail
  refine wp_nameE _ (fun W hW => ?_)
  have z0 : W.heap[w.heap.size]? = some (.cells (wrow (List.replicate 64 0)) 161 (0, 0)) := by rw [hW]; exact g0
  have z1 : W.heap[w.heap.size + 1]? = some (.cells (wrow (sch B 0)) 161 (0, 0)) := by rw [hW]; exact g1
  have hbel : Below w.heap.size w W := by rw [hW]; exact hbA
  have hd := cells_of hd hbel hlt
  clear hW g0 g1 hbA
  go_wp2
  go_loopw [9] (fun v wr => ∃ k : Nat, k ≤ 16 ∧ Below w.heap.size w wr ∧ wr.heap[b]? = some (.cells (drow S B u z) 156 (0, 0)) ∧ wr.heap[w.heap.size]? = some (.cells (wrow (List.replicate 64 0)) 161 (0, 0)) ∧ wr.heap[w.heap.size + 1]? = some (.cells (wrow (sch B k)) 161 (0, 0)) ∧ v = .int .i64 k) (fun v _ => 16 - (intOf v).toNat)
  case atStart => exact ⟨0, by omega, hbel, hd, z0, z1, rfl⟩
  case round =>
    clear z0 z1 hd hbel
    obtain ⟨k, hk, hbel, hd, y0, y1, rfl⟩ := hrel
    by_cases hlt2 : k < 16
    · have d1 : decide ((k : Int) < 16) = true := decide_eq_true (by omega)
      have e4 : IntKind.i64.wrap (4 * (k : Int)) = 4 * (k : Int) := IntWalk.i64_in _ (by omega)
      have e5 : IntKind.i64.wrap (4 * (k : Int) + 4) = 4 * (k : Int) + 4 := IntWalk.i64_in _ (by omega)
      have e6 : (4 * (k : Int)).toNat = 4 * k := by omega
      have e7 : (4 * (k : Int) + 4).toNat = 4 * k + 4 := by omega
      have e8 : ((k : Nat) : Int).toNat = k := by omega
      have n1 : (0 : Int) ≤ 4 * (k : Int) := by omega
      have n2 : 4 * (k : Int) ≤ 4 * (k : Int) + 4 := by omega
      have n3 : 4 * (k : Int) + 4 ≤ 64 := by omega
      have c0 : wr.cell? ⟨b, 8 + 4 * k, none⟩ = some (.int .u8 (byt B (4 * k))) := by rw [cell_heap hd, drow_buf hS (by omega)]; rfl
      have c1 : wr.cell? ⟨b, 8 + 4 * k + 1, none⟩ = some (.int .u8 (byt B (4 * k + 1))) := by rw [cell_heap hd, Nat.add_assoc 8, drow_buf hS (by omega)]; rfl
      have c2 : wr.cell? ⟨b, 8 + 4 * k + 2, none⟩ = some (.int .u8 (byt B (4 * k + 2))) := by rw [cell_heap hd, Nat.add_assoc 8, drow_buf hS (by omega)]; rfl
      have c3 : wr.cell? ⟨b, 8 + 4 * k + 3, none⟩ = some (.int .u8 (byt B (4 * k + 3))) := by rw [cell_heap hd, Nat.add_assoc 8, drow_buf hS (by omega)]; rfl
      have ck : wr.cell? ⟨w.heap.size + 1, k, none⟩ = some (.int .u32 ((sch B k).getD k 0)) := by rw [cell_heap y1, wrow_at (get_some (by rw [sch_len]; omega))]
      have fk : wr.frozen? ⟨w.heap.size + 1, k, none⟩ = false := frozen_heap y1 k
      go_upto_region 6 with fail
      go_region
      all_goals go_wp2
      go_roundw
      case rel => exact ⟨k + 1, by omega, (hbel.setCell (p := ⟨w.heap.size + 1, k, none⟩) (by show _ ≤ w.heap.size + 1; omega) _).drew, row_set (W := wr.drew) hd (by omega), row_set (W := wr.drew) y0 (by omega), (by rw [sch, if_pos hlt2, ← wrow_set]; exact row_put5 (w := wr.drew) y1), by go_num⟩
      case measure => (simp [intOf]) <;> omega
    · obtain rfl : k = 16 := by omega
      have d1 : decide (((16 : Nat) : Int) < 16) = false := rfl
      have hb1 : b < w.heap.size := hlt
      go_upto_region 9 with fail
      clear d1
      go_loopw [6] (fun v wr => ∃ k : Nat, 16 ≤ k ∧ k ≤ 64 ∧ Below w.heap.size w wr ∧ wr.heap[w.heap.size]? = some (.cells (wrow (List.replicate 64 0)) 161 (0, 0)) ∧ wr.heap[w.heap.size + 1]? = some (.cells (wrow (sch B k)) 161 (0, 0)) ∧ v = .int .i64 k) (fun v _ => 64 - (intOf v).toNat)
      case atStart => exact ⟨16, by omega, by omega, hbel, y0, y1, rfl⟩
      case round =>
        clear y0 y1 hd hbel
        obtain ⟨k, hk0, hk, hbel, y0, y1, rfl⟩ := hrel
        by_cases hlt2 : k < 64
        · have d1 : decide ((k : Int) < 64) = true := decide_eq_true (by omega)
          have e1 : IntKind.i64.wrap ((k : Int) - 15) = (k : Int) - 15 := IntWalk.i64_in _ (by omega)
          have e2 : IntKind.i64.wrap ((k : Int) - 2) = (k : Int) - 2 := IntWalk.i64_in _ (by omega)
          have e3 : IntKind.i64.wrap ((k : Int) - 16) = (k : Int) - 16 := IntWalk.i64_in _ (by omega)
          have e4 : IntKind.i64.wrap ((k : Int) - 7) = (k : Int) - 7 := IntWalk.i64_in _ (by omega)
          have t1 : ((k : Int) - 15).toNat = k - 15 := by omega
          have t2 : ((k : Int) - 2).toNat = k - 2 := by omega
          have t3 : ((k : Int) - 16).toNat = k - 16 := by omega
          have t4 : ((k : Int) - 7).toNat = k - 7 := by omega
          have t5 : ((k : Nat) : Int).toNat = k := by omega
          have p1 : (0 : Int) ≤ (k : Int) - 15 := by omega
          have p2 : (0 : Int) ≤ (k : Int) - 2 := by omega
          have p3 : (0 : Int) ≤ (k : Int) - 16 := by omega
          have p4 : (0 : Int) ≤ (k : Int) - 7 := by omega
          have r1 : (k : Int) - 15 < 64 := by omega
          have r2 : (k : Int) - 2 < 64 := by omega
          have r3 : (k : Int) - 16 < 64 := by omega
          have r4 : (k : Int) - 7 < 64 := by omega
          have r5 : (k : Int) < 64 := by omega
          have hLn : (sch B k).length = 64 := sch_len _ _
          obtain ⟨x15, hx15⟩ : ∃ x, (sch B k).getD (k - 15) 0 = x := ⟨_, rfl⟩
          obtain ⟨x2, hx2⟩ : ∃ x, (sch B k).getD (k - 2) 0 = x := ⟨_, rfl⟩
          obtain ⟨x16, hx16⟩ : ∃ x, (sch B k).getD (k - 16) 0 = x := ⟨_, rfl⟩
          obtain ⟨x7, hx7⟩ : ∃ x, (sch B k).getD (k - 7) 0 = x := ⟨_, rfl⟩
          have R7 := fun W => right_any x15 7 W (by simp [RN])
          have R18 := fun W => right_any x15 18 W (by simp [RN])
          have R17 := fun W => right_any x2 17 W (by simp [RN])
          have R19 := fun W => right_any x2 19 W (by simp [RN])
          have c1 : wr.cell? ⟨w.heap.size + 1, k - 15, none⟩ = some (.int .u32 x15) := by rw [cell_heap y1, wrow_at (get_some (by omega)), hx15]
          have c2 : wr.cell? ⟨w.heap.size + 1, k - 2, none⟩ = some (.int .u32 x2) := by rw [cell_heap y1, wrow_at (get_some (by omega)), hx2]
          go_upto_region 12 with (go_quiet (fail))
          refine wp_nameE _ (fun W3 hW => ?_)
          have z0 : W3.heap[w.heap.size]? = some (.cells (wrow (List.replicate 64 0)) 161 (0, 0)) := by rw [hW]; exact y0
          have z1 : W3.heap[w.heap.size + 1]? = some (.cells (wrow (sch B k)) 161 (0, 0)) := by rw [hW]; exact y1
          have hb3 : Below w.heap.size w W3 := by rw [hW]; exact hbel.trans ((drewN_below _ _).mono hbel.size)
          clear hW c1 c2 y0 y1 hbel
          have hgl : w.heap.size + 1 < W3.heap.size := (Array.getElem?_eq_some_iff.1 z1).1
          have c3 : W3.cell? ⟨w.heap.size + 1, k - 16, none⟩ = some (.int .u32 x16) := by rw [cell_heap z1, wrow_at (get_some (by omega)), hx16]
          have c4 : W3.cell? ⟨w.heap.size + 1, k - 7, none⟩ = some (.int .u32 x7) := by rw [cell_heap z1, wrow_at (get_some (by omega)), hx7]
          obtain ⟨hcb, hfb⟩ := beyond_cells (W := W3)
          refine wp_region_below_tail 29 (by kernel_rfl) (by kernel_rfl) ?_
          simp only [List.take_succ_cons, List.take_zero, List.drop_succ_cons, List.drop_zero]
          repeat (go_big_quiet_step ((go_at_call 116; first | (with_reducible exact quiet_below (R7 _)) | (with_reducible exact quiet_below (R18 _)) | (with_reducible exact quiet_below (R17 _)) | (with_reducible exact quiet_below (R19 _)))))
          intro w9 hw9
          have hb9 := beyond_below hw9
          have z0 := cells_of z0 hb9 (by omega)
          have z1 := cells_of z1 hb9 hgl
          have hb3 := hb3.trans (hb9.mono hb3.size)
          clear hcb hfb hw9 hgl c3 c4 hb9
          have ck : w9.cell? ⟨w.heap.size + 1, k, none⟩ = some (.int .u32 ((sch B k).getD k 0)) := by rw [cell_heap z1, wrow_at (get_some (by omega))]
          have fk : w9.frozen? ⟨w.heap.size + 1, k, none⟩ = false := frozen_heap z1 k
          go_wp2
          go_roundw
          case rel =>
            have hst : sch B (k + 1) = (sch B k).set k ((x16 + bits BinOp.xor IntKind.u32 (bits BinOp.xor IntKind.u32 (rr x15 7) (rr x15 18)) (x15 / 8) + x7 + bits BinOp.xor IntKind.u32 (bits BinOp.xor IntKind.u32 (rr x2 17) (rr x2 19)) (x2 / 1024)) % 4294967296) := by
              rw [sch, if_neg (by omega), nw, hx16, hx15, hx7, hx2]
            exact ⟨k + 1, by omega, by omega, hb3.setCell (p := ⟨w.heap.size + 1, k, none⟩) (by show _ ≤ w.heap.size + 1; omega) _, row_set z0 (by omega), by rw [hst, ← wrow_set]; exact row_put5 z1, by go_num⟩
          case measure => (simp [intOf]) <;> omega
        · obtain rfl : k = 64 := by omega
          have d1 : decide (((64 : Nat) : Int) < 64) = false := rfl
          have hsz : (wrow (sch B 64)).size = 64 := by rw [wrow_size, sch_len]
          have hone := wrow_one (sch B 64)
          go_wp2_with (first | (refine wpList_loadRow rfl (.tmp 3) 161 rfl Tryd.underlying161 (by rw [hsz]; kernel_rfl) rfl y1 ?_) | (refine wpList_storeRowTo rfl (.tmp 2) (.tmp 87) 161 rfl (by rw [hsz]; kernel_rfl) rfl rfl y0 (by rw [hsz]; rfl) hone ?_))
          refine bodyPost_ret (v := .agg (wrow (sch B 64))) ?_ rfl ?_
          · simp [results, Tryd.results115, Act.put, asAddr]
            exact run_loadVar_row _ _ 161 161 _ (0, 0) _ (setRow_heap _ _ _ _ _ _ y0) Tryd.underlying161 rfl (by rw [hsz]; kernel_rfl)
          exact ⟨rfl, below_setRow hbel (by omega) _⟩
end Go.Proofs.YtpledhipdiephaaDoor
