/- The document's own SHA-256: a block. -/
import Derived.Test.YtpledhipdiephaaDoorSt3
import Derived.Test.YtpledhipdiephaaDoorT3
import Derived.WalkKit
import Derived.ProofKit
import Derived.Handy
import Derived.Below
import Derived.Lib.Hide
import Derived.IntWalk
import Derived.Outline
import Derived.WalkLawsBesides
import Derived.WalkSpells
namespace Go.Proofs.YtpledhipdiephaaDoor
open Go.RowKit
attribute [local go_sem] strV
set_option linter.unusedVariables false
theorem push4 (w : World) (a b c d : Obj) : ((((w.alloc a).alloc b).alloc c).alloc d).heap[w.heap.size]? = some a ∧ ((((w.alloc a).alloc b).alloc c).alloc d).heap[w.heap.size + 1]? = some b ∧ ((((w.alloc a).alloc b).alloc c).alloc d).heap[w.heap.size + 2]? = some c ∧ ((((w.alloc a).alloc b).alloc c).alloc d).heap[w.heap.size + 3]? = some d := by
  show ((((w.heap.push a).push b).push c).push d)[w.heap.size]? = _ ∧ ((((w.heap.push a).push b).push c).push d)[w.heap.size + 1]? = _ ∧ ((((w.heap.push a).push b).push c).push d)[w.heap.size + 2]? = _ ∧ ((((w.heap.push a).push b).push c).push d)[w.heap.size + 3]? = _
  refine ⟨?_, ?_, ?_, ?_⟩
  · rw [Array.getElem?_push, if_neg (by simp; omega), Array.getElem?_push, if_neg (by simp; omega), Array.getElem?_push, if_neg (by simp), Array.getElem?_push, if_pos rfl]
  · rw [Array.getElem?_push, if_neg (by simp), Array.getElem?_push, if_neg (by simp), Array.getElem?_push, if_pos (by simp)]
  · rw [Array.getElem?_push, if_neg (by simp), Array.getElem?_push, if_pos (by simp)]
  · rw [Array.getElem?_push, if_pos (by simp)]
theorem v8_list (S : List Int) (h : S.length = 8) : (v8 S).list = S := by
  obtain ⟨a, b, c, d, e, f, g, i, rfl⟩ := list8 h; rfl
/-- A sum while what the rounds made is added: k words are. -/
def padd (S X : List Int) : Nat → List Int
  | 0 => S
  | k + 1 => (padd S X k).set k ((S.getD k 0 + X.getD k 0) % 4294967296)
set_option maxRecDepth 100000 in
set_option maxHeartbeats 12800000 in
theorem mix_any (b off cap : Nat) (S : List Int) (B : List UInt8) (w : World) (hS : S.length = 8) (hB : B.length = 64) (hb : b < w.heap.size) (hc : ∀ j, j < 64 → w.cell? ⟨b, off + j, none⟩ = some (.int .u8 (byt B j))) :
    Calls Tryd.prog 107 #[.agg (wrow S), .slice (some ⟨b, off, none⟩) 64 cap, .agg (wrow ktab)] w fun e w' => e = .returned (.agg (wrow (comp S B))) ∧ Below w.heap.size w w' := by
  obtain ⟨g0, g1, g2, g3⟩ := push4 w (.cells (wrow S) 153) (.cells (wrow ktab) 161) (.cells #[Value.int .u32 0, Value.int .u32 0, Value.int .u32 0, Value.int .u32 0, Value.int .u32 0, Value.int .u32 0, Value.int .u32 0, Value.int .u32 0] 153) (.cells #[Value.int .u32 0, Value.int .u32 0, Value.int .u32 0, Value.int .u32 0, Value.int .u32 0, Value.int .u32 0, Value.int .u32 0, Value.int .u32 0, Value.int .u32 0, Value.int .u32 0, Value.int .u32 0, Value.int .u32 0, Value.int .u32 0, Value.int .u32 0, Value.int .u32 0, Value.int .u32 0, Value.int .u32 0, Value.int .u32 0, Value.int .u32 0, Value.int .u32 0, Value.int .u32 0, Value.int .u32 0, Value.int .u32 0, Value.int .u32 0, Value.int .u32 0, Value.int .u32 0, Value.int .u32 0, Value.int .u32 0, Value.int .u32 0, Value.int .u32 0, Value.int .u32 0, Value.int .u32 0, Value.int .u32 0, Value.int .u32 0, Value.int .u32 0, Value.int .u32 0, Value.int .u32 0, Value.int .u32 0, Value.int .u32 0, Value.int .u32 0, Value.int .u32 0, Value.int .u32 0, Value.int .u32 0, Value.int .u32 0, Value.int .u32 0, Value.int .u32 0, Value.int .u32 0, Value.int .u32 0, Value.int .u32 0, Value.int .u32 0, Value.int .u32 0, Value.int .u32 0, Value.int .u32 0, Value.int .u32 0, Value.int .u32 0, Value.int .u32 0, Value.int .u32 0, Value.int .u32 0, Value.int .u32 0, Value.int .u32 0, Value.int .u32 0, Value.int .u32 0, Value.int .u32 0, Value.int .u32 0] 161)
  have hbA : Below w.heap.size w ((((w.alloc (.cells (wrow S) 153)).alloc (.cells (wrow ktab) 161)).alloc (.cells #[Value.int .u32 0, Value.int .u32 0, Value.int .u32 0, Value.int .u32 0, Value.int .u32 0, Value.int .u32 0, Value.int .u32 0, Value.int .u32 0] 153)).alloc (.cells #[Value.int .u32 0, Value.int .u32 0, Value.int .u32 0, Value.int .u32 0, Value.int .u32 0, Value.int .u32 0, Value.int .u32 0, Value.int .u32 0, Value.int .u32 0, Value.int .u32 0, Value.int .u32 0, Value.int .u32 0, Value.int .u32 0, Value.int .u32 0, Value.int .u32 0, Value.int .u32 0, Value.int .u32 0, Value.int .u32 0, Value.int .u32 0, Value.int .u32 0, Value.int .u32 0, Value.int .u32 0, Value.int .u32 0, Value.int .u32 0, Value.int .u32 0, Value.int .u32 0, Value.int .u32 0, Value.int .u32 0, Value.int .u32 0, Value.int .u32 0, Value.int .u32 0, Value.int .u32 0, Value.int .u32 0, Value.int .u32 0, Value.int .u32 0, Value.int .u32 0, Value.int .u32 0, Value.int .u32 0, Value.int .u32 0, Value.int .u32 0, Value.int .u32 0, Value.int .u32 0, Value.int .u32 0, Value.int .u32 0, Value.int .u32 0, Value.int .u32 0, Value.int .u32 0, Value.int .u32 0, Value.int .u32 0, Value.int .u32 0, Value.int .u32 0, Value.int .u32 0, Value.int .u32 0, Value.int .u32 0, Value.int .u32 0, Value.int .u32 0, Value.int .u32 0, Value.int .u32 0, Value.int .u32 0, Value.int .u32 0, Value.int .u32 0, Value.int .u32 0, Value.int .u32 0, Value.int .u32 0] 161)) := Below.alloc (Below.alloc (Below.alloc (Below.alloc (Below.refl _ _) (Nat.le_refl _) _) (by simp) _) (by simp; omega) _) (by simp; omega) _
  go_enter Tryd.func107, Tryd.ntmps107
  go_upto_region 2 with fail
  refine wp_nameE _ (fun W hX => ?_)
  have y0 : W.heap[w.heap.size]? = some (.cells (wrow S) 153 (0, 0)) := by rw [hX]; exact g0
  have y1 : W.heap[w.heap.size + 1]? = some (.cells (wrow ktab) 161 (0, 0)) := by rw [hX]; exact g1
  have y2 : W.heap[w.heap.size + 2]? = some (.cells (wrow (List.replicate 8 0)) 153 (0, 0)) := by rw [hX]; exact g2
  have y3 : W.heap[w.heap.size + 3]? = some (.cells (wrow (sch B 0)) 161 (0, 0)) := by rw [hX]; exact g3
  have hbel : Below w.heap.size w W := by rw [hX]; exact hbA
  clear hX g0 g1 g2 g3 hbA
  go_upto_region 3 with fail
  go_loopw [8] (fun v wr => ∃ k : Nat, k ≤ 64 ∧ Below w.heap.size w wr ∧ wr.heap[w.heap.size]? = some (.cells (wrow S) 153 (0, 0)) ∧ wr.heap[w.heap.size + 1]? = some (.cells (wrow ktab) 161 (0, 0)) ∧ wr.heap[w.heap.size + 2]? = some (.cells (wrow (List.replicate 8 0)) 153 (0, 0)) ∧ wr.heap[w.heap.size + 3]? = some (.cells (wrow (sch B k)) 161 (0, 0)) ∧ v = .int .i64 k) (fun v _ => 64 - (intOf v).toNat)
  case atStart => exact ⟨0, by omega, hbel, y0, y1, y2, y3, rfl⟩
  case round =>
    clear y0 y1 y2 y3 hbel
    obtain ⟨k, hk, hbel, y0, y1, y2, y3, rfl⟩ := hrel
    have hl3 := (Array.getElem?_eq_some_iff.1 y3).1
    by_cases hlt : k < 64
    · have d0 : decide ((k : Int) < 64) = true := decide_eq_true (by omega)
      have t5 : ((k : Nat) : Int).toNat = k := by omega
      have r5 : (k : Int) < 64 := by omega
      have n5 : (0 : Int) ≤ (k : Int) := by omega
      by_cases hlt2 : k < 16
      · have d1 : decide ((k : Int) < 16) = true := decide_eq_true (by omega)
        have e4 : IntKind.i64.wrap (4 * (k : Int)) = 4 * (k : Int) := IntWalk.i64_in _ (by omega)
        have e5 : IntKind.i64.wrap (4 * (k : Int) + 1) = 4 * (k : Int) + 1 := IntWalk.i64_in _ (by omega)
        have u1 : (4 * (k : Int) + 1).toNat = 4 * k + 1 := by omega
        have m1 : (0 : Int) ≤ 4 * (k : Int) + 1 := by omega
        have o1 : 4 * (k : Int) + 1 < 64 := by omega
        have e6 : IntKind.i64.wrap (4 * (k : Int) + 2) = 4 * (k : Int) + 2 := IntWalk.i64_in _ (by omega)
        have u2 : (4 * (k : Int) + 2).toNat = 4 * k + 2 := by omega
        have m2 : (0 : Int) ≤ 4 * (k : Int) + 2 := by omega
        have o2 : 4 * (k : Int) + 2 < 64 := by omega
        have e7 : IntKind.i64.wrap (4 * (k : Int) + 3) = 4 * (k : Int) + 3 := IntWalk.i64_in _ (by omega)
        have u3 : (4 * (k : Int) + 3).toNat = 4 * k + 3 := by omega
        have m3 : (0 : Int) ≤ 4 * (k : Int) + 3 := by omega
        have o3 : 4 * (k : Int) + 3 < 64 := by omega
        have u0 : (4 * (k : Int)).toNat = 4 * k := by omega
        have m0 : (0 : Int) ≤ 4 * (k : Int) := by omega
        have o0 : 4 * (k : Int) < 64 := by omega
        have c0 : wr.cell? ⟨b, off + 4 * k, none⟩ = some (.int .u8 (byt B (4 * k))) := by rw [hbel.cell (p := ⟨b, off + 4 * k, none⟩) hb]; exact hc _ (by omega)
        have c1 : wr.cell? ⟨b, off + (4 * k + 1), none⟩ = some (.int .u8 (byt B (4 * k + 1))) := by rw [hbel.cell (p := ⟨b, off + (4 * k + 1), none⟩) hb]; exact hc _ (by omega)
        have c2 : wr.cell? ⟨b, off + (4 * k + 2), none⟩ = some (.int .u8 (byt B (4 * k + 2))) := by rw [hbel.cell (p := ⟨b, off + (4 * k + 2), none⟩) hb]; exact hc _ (by omega)
        have c3 : wr.cell? ⟨b, off + (4 * k + 3), none⟩ = some (.int .u8 (byt B (4 * k + 3))) := by rw [hbel.cell (p := ⟨b, off + (4 * k + 3), none⟩) hb]; exact hc _ (by omega)
        have hbr : b < wr.heap.size := Nat.lt_of_lt_of_le hb hbel.size
        go_upto_region 6 with fail
        obtain ⟨hcb, hfb⟩ := beyond_cells (W := wr)
        refine wp_region_below_tail 35 (by kernel_rfl) (by kernel_rfl) ?_
        simp only [List.take_succ_cons, List.take_zero, List.drop_succ_cons, List.drop_zero]
        repeat (go_big_quiet_step (fail))
        intro w9 hw9
        have hb9 := beyond_below hw9
        clear hcb hfb hw9 c0 c1 c2 c3
        have y0 := cells_of y0 hb9 (by omega)
        have y1 := cells_of y1 hb9 (by omega)
        have y2 := cells_of y2 hb9 (by omega)
        have y3 := cells_of y3 hb9 hl3
        have hbel := hbel.trans (hb9.mono hbel.size)
        have ck : w9.cell? ⟨w.heap.size + 3, k, none⟩ = some (.int .u32 ((sch B k).getD k 0)) := by rw [cell_heap y3, wrow_at (get_some (by rw [sch_len]; omega))]
        have fk : w9.frozen? ⟨w.heap.size + 3, k, none⟩ = false := frozen_heap y3 k
        go_wp2
        go_roundw
        case rel =>
          exact ⟨k + 1, by omega, hbel.setCell (p := ⟨w.heap.size + 3, k, none⟩) (by show _ ≤ w.heap.size + 3; omega) _, row_set y0 (by omega), row_set y1 (by omega), row_set y2 (by omega), by rw [sch, if_pos hlt2, ← wrow_set]; exact row_put5 y3, by go_num⟩
        case measure => (simp [intOf]) <;> omega
      · have d1 : decide ((k : Int) < 16) = false := decide_eq_false (by omega)
        have e15 : IntKind.i64.wrap ((k : Int) - 15) = (k : Int) - 15 := IntWalk.i64_in _ (by omega)
        have t15 : ((k : Int) - 15).toNat = k - 15 := by omega
        have p15 : (0 : Int) ≤ (k : Int) - 15 := by omega
        have r15 : (k : Int) - 15 < 64 := by omega
        obtain ⟨x15, hx15⟩ : ∃ x, (sch B k).getD (k - 15) 0 = x := ⟨_, rfl⟩
        have c15 : wr.cell? ⟨w.heap.size + 3, k - 15, none⟩ = some (.int .u32 x15) := by rw [cell_heap y3, wrow_at (get_some (by rw [sch_len]; omega)), hx15]
        have e2 : IntKind.i64.wrap ((k : Int) - 2) = (k : Int) - 2 := IntWalk.i64_in _ (by omega)
        have t2 : ((k : Int) - 2).toNat = k - 2 := by omega
        have p2 : (0 : Int) ≤ (k : Int) - 2 := by omega
        have r2 : (k : Int) - 2 < 64 := by omega
        obtain ⟨x2, hx2⟩ : ∃ x, (sch B k).getD (k - 2) 0 = x := ⟨_, rfl⟩
        have c2 : wr.cell? ⟨w.heap.size + 3, k - 2, none⟩ = some (.int .u32 x2) := by rw [cell_heap y3, wrow_at (get_some (by rw [sch_len]; omega)), hx2]
        have e16 : IntKind.i64.wrap ((k : Int) - 16) = (k : Int) - 16 := IntWalk.i64_in _ (by omega)
        have t16 : ((k : Int) - 16).toNat = k - 16 := by omega
        have p16 : (0 : Int) ≤ (k : Int) - 16 := by omega
        have r16 : (k : Int) - 16 < 64 := by omega
        obtain ⟨x16, hx16⟩ : ∃ x, (sch B k).getD (k - 16) 0 = x := ⟨_, rfl⟩
        have c16 : wr.cell? ⟨w.heap.size + 3, k - 16, none⟩ = some (.int .u32 x16) := by rw [cell_heap y3, wrow_at (get_some (by rw [sch_len]; omega)), hx16]
        have e7 : IntKind.i64.wrap ((k : Int) - 7) = (k : Int) - 7 := IntWalk.i64_in _ (by omega)
        have t7 : ((k : Int) - 7).toNat = k - 7 := by omega
        have p7 : (0 : Int) ≤ (k : Int) - 7 := by omega
        have r7 : (k : Int) - 7 < 64 := by omega
        obtain ⟨x7, hx7⟩ : ∃ x, (sch B k).getD (k - 7) 0 = x := ⟨_, rfl⟩
        have c7 : wr.cell? ⟨w.heap.size + 3, k - 7, none⟩ = some (.int .u32 x7) := by rw [cell_heap y3, wrow_at (get_some (by rw [sch_len]; omega)), hx7]
        have R7 := fun W => turn_any x15 7 W (by simp [RN])
        have R18 := fun W => turn_any x15 18 W (by simp [RN])
        have R17 := fun W => turn_any x2 17 W (by simp [RN])
        have R19 := fun W => turn_any x2 19 W (by simp [RN])
        go_upto_region 8 with (go_quiet (fail))
        refine wp_nameE _ (fun W3 hX => ?_)
        have y0 : W3.heap[w.heap.size]? = some (.cells (wrow S) 153 (0, 0)) := by rw [hX]; exact y0
        have y1 : W3.heap[w.heap.size + 1]? = some (.cells (wrow ktab) 161 (0, 0)) := by rw [hX]; exact y1
        have y2 : W3.heap[w.heap.size + 2]? = some (.cells (wrow (List.replicate 8 0)) 153 (0, 0)) := by rw [hX]; exact y2
        have y3 : W3.heap[w.heap.size + 3]? = some (.cells (wrow (sch B k)) 161 (0, 0)) := by rw [hX]; exact y3
        have hbel : Below w.heap.size w W3 := by rw [hX]; exact hbel.trans ((drewN_below _ _).mono hbel.size)
        have hl3 := (Array.getElem?_eq_some_iff.1 y3).1
        clear hX c15 c2 c16 c7
        have c16 : W3.cell? ⟨w.heap.size + 3, k - 16, none⟩ = some (.int .u32 x16) := by rw [cell_heap y3, wrow_at (get_some (by rw [sch_len]; omega)), hx16]
        have c7 : W3.cell? ⟨w.heap.size + 3, k - 7, none⟩ = some (.int .u32 x7) := by rw [cell_heap y3, wrow_at (get_some (by rw [sch_len]; omega)), hx7]
        obtain ⟨hcb, hfb⟩ := beyond_cells (W := W3)
        refine wp_region_below_tail 29 (by kernel_rfl) (by kernel_rfl) ?_
        simp only [List.take_succ_cons, List.take_zero, List.drop_succ_cons, List.drop_zero]
        repeat (go_big_quiet_step ((go_at_call 112; first | (with_reducible exact quiet_below (R7 _)) | (with_reducible exact quiet_below (R18 _)) | (with_reducible exact quiet_below (R17 _)) | (with_reducible exact quiet_below (R19 _)))))
        intro w9 hw9
        have hb9 := beyond_below hw9
        clear hcb hfb hw9 c16 c7
        have y0 := cells_of y0 hb9 (by omega)
        have y1 := cells_of y1 hb9 (by omega)
        have y2 := cells_of y2 hb9 (by omega)
        have y3 := cells_of y3 hb9 hl3
        have hbel := hbel.trans (hb9.mono hbel.size)
        have ck : w9.cell? ⟨w.heap.size + 3, k, none⟩ = some (.int .u32 ((sch B k).getD k 0)) := by rw [cell_heap y3, wrow_at (get_some (by rw [sch_len]; omega))]
        have fk : w9.frozen? ⟨w.heap.size + 3, k, none⟩ = false := frozen_heap y3 k
        go_wp2
        go_roundw
        case rel =>
          have hst : sch B (k + 1) = (sch B k).set k ((x16 + bits BinOp.xor IntKind.u32 (bits BinOp.xor IntKind.u32 (rr x15 7) (rr x15 18)) (x15 / 8) + x7 + bits BinOp.xor IntKind.u32 (bits BinOp.xor IntKind.u32 (rr x2 17) (rr x2 19)) (x2 / 1024)) % 4294967296) := by
            rw [sch, if_neg (by omega), nw, hx16, hx15, hx7, hx2]
          exact ⟨k + 1, by omega, hbel.setCell (p := ⟨w.heap.size + 3, k, none⟩) (by show _ ≤ w.heap.size + 3; omega) _, row_set y0 (by omega), row_set y1 (by omega), row_set y2 (by omega), by rw [hst, ← wrow_set]; exact row_put5 y3, by go_num⟩
        case measure => (simp [intOf]) <;> omega
    · obtain rfl : k = 64 := by omega
      have d0 : decide (((64 : Nat) : Int) < 64) = false := rfl
      have hSz : (wrow S).size = 8 := by rw [wrow_size, hS]
      have hone := wrow_one S
      go_upto_region 10 with (first | (refine wpList_loadRow rfl (.tmp 3) 153 rfl Tryd.underlying153 (by rw [hSz]; kernel_rfl) rfl y0 ?_) | (refine wpList_storeRowTo rfl (.tmp 11) (.tmp 96) 153 rfl (by rw [hSz]; kernel_rfl) rfl rfl (heap_push _ _ _) (by rw [hSz]; rfl) hone ?_))
      refine wp_nameE _ (fun W4 hX => ?_)
      obtain ⟨g, hg⟩ : ∃ g, wr.heap.size = g := ⟨_, rfl⟩
      have y4 : W4.heap[g]? = some (.cells (wrow (v8 S).list) 153 (0, 0)) := by rw [v8_list S hS, hX, ← hg]; exact setRow_heap _ _ _ _ _ _ (heap_push _ _ _)
      have hb4 : Below g wr W4 := by rw [hX, ← hg]; exact below_setRow (Below.alloc (Below.refl _ _) (Nat.le_refl _) _) (Nat.le_refl _) _
      have hgl : w.heap.size + 3 < g := by omega
      have y0 := (hb4.block (w.heap.size) (by omega)).trans y0
      have y1 := (hb4.block (w.heap.size + 1) (by omega)).trans y1
      have y2 := (hb4.block (w.heap.size + 2) (by omega)).trans y2
      have y3 := (hb4.block (w.heap.size + 3) (by omega)).trans y3
      have hbel := hbel.trans (hb4.mono (by omega))
      obtain ⟨L, hL⟩ : ∃ L, sch B 64 = L := ⟨_, rfl⟩
      have hLn : L.length = 64 := by rw [← hL]; exact sch_len _ _
      have HC : Hid (comp S B = addv (v8 S) (rnds L (v8 S) 64)) := Lib.hid (by unfold comp sched; rw [hL])
      rw [hL] at y3
      rw [hg]
      clear hX hb4 hL hone hc hb hg hl3
      go_upto_region 11 with fail
      go_loopw [12] (fun v wr => ∃ k : Nat, k ≤ 64 ∧ Below w.heap.size w wr ∧ wr.heap[w.heap.size]? = some (.cells (wrow S) 153 (0, 0)) ∧ wr.heap[w.heap.size + 1]? = some (.cells (wrow ktab) 161 (0, 0)) ∧ wr.heap[w.heap.size + 2]? = some (.cells (wrow (List.replicate 8 0)) 153 (0, 0)) ∧ wr.heap[w.heap.size + 3]? = some (.cells (wrow L) 161 (0, 0)) ∧ wr.heap[g]? = some (.cells (wrow (rnds L (v8 S) k).list) 153 (0, 0)) ∧ v = .int .i64 k) (fun v _ => 64 - (intOf v).toNat)
      case atStart => exact ⟨0, by omega, hbel, y0, y1, y2, y3, y4, rfl⟩
      case round =>
        clear y0 y1 y2 y3 y4 hbel d0
        obtain ⟨k, hk, hbel, y0, y1, y2, y3, y4, rfl⟩ := hrel
        have hl4 := (Array.getElem?_eq_some_iff.1 y4).1
        by_cases hlt : k < 64
        · have d0 : decide ((k : Int) < 64) = true := decide_eq_true (by omega)
          have t5 : ((k : Nat) : Int).toNat = k := by omega
          have r5 : (k : Int) < 64 := by omega
          have n5 : (0 : Int) ≤ (k : Int) := by omega
          obtain ⟨⟨pa, pb, pc, pk, pe, pf, pg, ph⟩, hv⟩ : ∃ v, rnds L (v8 S) k = v := ⟨_, rfl⟩
          rw [hv] at y4
          obtain ⟨kt, hkt⟩ : ∃ x, ktab.getD k 0 = x := ⟨_, rfl⟩
          obtain ⟨wt, hwt⟩ : ∃ x, L.getD k 0 = x := ⟨_, rfl⟩
          have c0 : wr.cell? ⟨g, 0, none⟩ = some (.int .u32 pa) := by rw [cell_heap y4]; rfl
          have c1 : wr.cell? ⟨g, 1, none⟩ = some (.int .u32 pb) := by rw [cell_heap y4]; rfl
          have c2 : wr.cell? ⟨g, 2, none⟩ = some (.int .u32 pc) := by rw [cell_heap y4]; rfl
          have c3 : wr.cell? ⟨g, 3, none⟩ = some (.int .u32 pk) := by rw [cell_heap y4]; rfl
          have c4 : wr.cell? ⟨g, 4, none⟩ = some (.int .u32 pe) := by rw [cell_heap y4]; rfl
          have c5 : wr.cell? ⟨g, 5, none⟩ = some (.int .u32 pf) := by rw [cell_heap y4]; rfl
          have c6 : wr.cell? ⟨g, 6, none⟩ = some (.int .u32 pg) := by rw [cell_heap y4]; rfl
          have c7 : wr.cell? ⟨g, 7, none⟩ = some (.int .u32 ph) := by rw [cell_heap y4]; rfl
          have ck : wr.cell? ⟨w.heap.size + 1, k, none⟩ = some (.int .u32 kt) := by rw [cell_heap y1, wrow_at (get_some (show k < ktab.length from hlt)), hkt]
          have cw : wr.cell? ⟨w.heap.size + 3, k, none⟩ = some (.int .u32 wt) := by rw [cell_heap y3, wrow_at (get_some (by omega)), hwt]
          have R6 := fun W => turn_any pe 6 W (by simp [RN])
          have R11 := fun W => turn_any pe 11 W (by simp [RN])
          have R25 := fun W => turn_any pe 25 W (by simp [RN])
          have R2 := fun W => turn_any pa 2 W (by simp [RN])
          have R13 := fun W => turn_any pa 13 W (by simp [RN])
          have R22 := fun W => turn_any pa 22 W (by simp [RN])
          go_upto_region 14 with fail
          obtain ⟨hcb, hfb⟩ := beyond_cells (W := wr)
          have g1 : w.heap.size + 1 < wr.heap.size := by omega
          have g3 : w.heap.size + 3 < wr.heap.size := by omega
          refine wp_region_below (by kernel_rfl) (by kernel_rfl) ?_
          repeat (go_big_quiet_step ((go_at_call 112; first | (with_reducible exact quiet_below (R6 _)) | (with_reducible exact quiet_below (R11 _)) | (with_reducible exact quiet_below (R25 _)))))
          intro w8 hw9
          have hb9 := beyond_below hw9
          have y0 := cells_of y0 hb9 (by omega)
          have y1 := cells_of y1 hb9 (by omega)
          have y2 := cells_of y2 hb9 (by omega)
          have y3 := cells_of y3 hb9 (by omega)
          have y4 := cells_of y4 hb9 hl4
          have hbel := hbel.trans (hb9.mono hbel.size)
          have hl4 := (Array.getElem?_eq_some_iff.1 y4).1
          clear hcb hfb hw9 hb9 g1 g3 c0 c1 c2 c3 c4 c5 c6 c7 ck cw
          have c0 : w8.cell? ⟨g, 0, none⟩ = some (.int .u32 pa) := by rw [cell_heap y4]; rfl
          have c1 : w8.cell? ⟨g, 1, none⟩ = some (.int .u32 pb) := by rw [cell_heap y4]; rfl
          have c2 : w8.cell? ⟨g, 2, none⟩ = some (.int .u32 pc) := by rw [cell_heap y4]; rfl
          have c3 : w8.cell? ⟨g, 3, none⟩ = some (.int .u32 pk) := by rw [cell_heap y4]; rfl
          have c4 : w8.cell? ⟨g, 4, none⟩ = some (.int .u32 pe) := by rw [cell_heap y4]; rfl
          have c5 : w8.cell? ⟨g, 5, none⟩ = some (.int .u32 pf) := by rw [cell_heap y4]; rfl
          have c6 : w8.cell? ⟨g, 6, none⟩ = some (.int .u32 pg) := by rw [cell_heap y4]; rfl
          have c7 : w8.cell? ⟨g, 7, none⟩ = some (.int .u32 ph) := by rw [cell_heap y4]; rfl
          have ck : w8.cell? ⟨w.heap.size + 1, k, none⟩ = some (.int .u32 kt) := by rw [cell_heap y1, wrow_at (get_some (show k < ktab.length from hlt)), hkt]
          have cw : w8.cell? ⟨w.heap.size + 3, k, none⟩ = some (.int .u32 wt) := by rw [cell_heap y3, wrow_at (get_some (by omega)), hwt]
          go_upto_region 16 with fail
          obtain ⟨hcb, hfb⟩ := beyond_cells (W := w8)
          have g1 : w.heap.size + 1 < w8.heap.size := by omega
          have g3 : w.heap.size + 3 < w8.heap.size := by omega
          refine wp_region_below (by kernel_rfl) (by kernel_rfl) ?_
          repeat (go_big_quiet_step ((go_at_call 112; first | (with_reducible exact quiet_below (R2 _)) | (with_reducible exact quiet_below (R13 _)) | (with_reducible exact quiet_below (R22 _)))))
          intro w9 hw9
          have hb9 := beyond_below hw9
          have y0 := cells_of y0 hb9 (by omega)
          have y1 := cells_of y1 hb9 (by omega)
          have y2 := cells_of y2 hb9 (by omega)
          have y3 := cells_of y3 hb9 (by omega)
          have y4 := cells_of y4 hb9 hl4
          have hbel := hbel.trans (hb9.mono hbel.size)
          have hl4 := (Array.getElem?_eq_some_iff.1 y4).1
          clear hcb hfb hw9 hb9 g1 g3 c0 c1 c2 c3 c4 c5 c6 c7 ck cw
          have c0 : w9.cell? ⟨g, 0, none⟩ = some (.int .u32 pa) := by rw [cell_heap y4]; rfl
          have c1 : w9.cell? ⟨g, 1, none⟩ = some (.int .u32 pb) := by rw [cell_heap y4]; rfl
          have c2 : w9.cell? ⟨g, 2, none⟩ = some (.int .u32 pc) := by rw [cell_heap y4]; rfl
          have c3 : w9.cell? ⟨g, 3, none⟩ = some (.int .u32 pk) := by rw [cell_heap y4]; rfl
          have c4 : w9.cell? ⟨g, 4, none⟩ = some (.int .u32 pe) := by rw [cell_heap y4]; rfl
          have c5 : w9.cell? ⟨g, 5, none⟩ = some (.int .u32 pf) := by rw [cell_heap y4]; rfl
          have c6 : w9.cell? ⟨g, 6, none⟩ = some (.int .u32 pg) := by rw [cell_heap y4]; rfl
          have c7 : w9.cell? ⟨g, 7, none⟩ = some (.int .u32 ph) := by rw [cell_heap y4]; rfl
          have ck : w9.cell? ⟨w.heap.size + 1, k, none⟩ = some (.int .u32 kt) := by rw [cell_heap y1, wrow_at (get_some (show k < ktab.length from hlt)), hkt]
          have cw : w9.cell? ⟨w.heap.size + 3, k, none⟩ = some (.int .u32 wt) := by rw [cell_heap y3, wrow_at (get_some (by omega)), hwt]
          go_upto_region 17 with fail
          generalize hX0 : (((ph + bits .xor .u32 (bits .xor .u32 (rr pe 6) (rr pe 11)) (rr pe 25) + bits .xor .u32 (bits .and .u32 pe pf) (bits .and .u32 (bits .xor .u32 (if IntKind.u32.signed = true then -1 else IntKind.u32.max) pe) pg) + kt) % 4294967296 + wt) % 4294967296 : Int) = X
          have hX : ((ph + bits .xor .u32 (bits .xor .u32 (rr pe 6) (rr pe 11)) (rr pe 25) + bits .xor .u32 (bits .and .u32 pe pf) (bits .and .u32 (bits .xor .u32 (if IntKind.u32.signed = true then -1 else IntKind.u32.max) pe) pg) + kt + wt) % 4294967296 : Int) = X := by rw [← hX0]; omega
          generalize hY : ((bits .xor .u32 (bits .xor .u32 (rr pa 2) (rr pa 13)) (rr pa 22) + bits .xor .u32 (bits .xor .u32 (bits .and .u32 pa pb) (bits .and .u32 pa pc)) (bits .and .u32 pb pc)) % 4294967296 : Int) = Y
          have hs1 : rnds L (v8 S) (k + 1) = ⟨(X + Y) % 4294967296, pa, pb, pc, (pk + X) % 4294967296, pe, pf, pg⟩ := by
            rw [rnds, hv, hkt, hwt, ← hX, ← hY]; rfl
          clear hX hX0 hY
          have hone := wrow_one (V8.list ⟨(X + Y) % 4294967296, pa, pb, pc, (pk + X) % 4294967296, pe, pf, pg⟩)
          have hZs : (wrow (V8.list ⟨(X + Y) % 4294967296, pa, pb, pc, (pk + X) % 4294967296, pe, pf, pg⟩)).size = 8 := rfl
          go_wp2_with (refine wpList_storeRowTo rfl (.tmp 11) (.tmp 178) 153 rfl (by rw [hZs]; kernel_rfl) rfl (Z := wrow (V8.list ⟨(X + Y) % 4294967296, pa, pb, pc, (pk + X) % 4294967296, pe, pf, pg⟩)) (by rfl) y4 (by rfl) hone ?_)
          go_roundw
          case rel =>
            exact ⟨k + 1, by omega, below_setRow hbel (by omega) _, (setRow_other _ _ _ _ (by omega)).trans y0, (setRow_other _ _ _ _ (by omega)).trans y1, (setRow_other _ _ _ _ (by omega)).trans y2, (setRow_other _ _ _ _ (by omega)).trans y3, by rw [hs1]; exact setRow_heap _ _ _ _ _ _ y4, by go_num⟩
          case measure => (simp [intOf]) <;> omega
        · obtain rfl : k = 64 := by omega
          have d0 : decide (((64 : Nat) : Int) < 64) = false := rfl
          obtain ⟨s0, s1, s2, s3, s4, s5, s6, s7, rfl⟩ := list8 hS
          obtain ⟨⟨fa, fb, fc, fk, fe, ff, fg, fh⟩, hv⟩ : ∃ v, rnds L (v8 [s0, s1, s2, s3, s4, s5, s6, s7]) 64 = v := ⟨_, rfl⟩
          rw [hv] at y4
          have HC2 : Hid (comp [s0, s1, s2, s3, s4, s5, s6, s7] B = padd [s0, s1, s2, s3, s4, s5, s6, s7] [fa, fb, fc, fk, fe, ff, fg, fh] 8) := Lib.hid (by rw [HC.out, hv]; rfl)
          clear HC hv y1 y3
          go_upto_region 19 with fail
          go_loopw [17] (fun v wr => ∃ k : Nat, k ≤ 8 ∧ Below w.heap.size w wr ∧ wr.heap[w.heap.size]? = some (.cells (wrow (padd [s0, s1, s2, s3, s4, s5, s6, s7] [fa, fb, fc, fk, fe, ff, fg, fh] k)) 153 (0, 0)) ∧ wr.heap[w.heap.size + 2]? = some (.cells (wrow (List.replicate 8 0)) 153 (0, 0)) ∧ wr.heap[g]? = some (.cells (wrow [fa, fb, fc, fk, fe, ff, fg, fh]) 153 (0, 0)) ∧ v = .int .i64 k) (fun v _ => 8 - (intOf v).toNat)
          case atStart => exact ⟨0, by omega, hbel, y0, y2, y4, rfl⟩
          case round =>
            clear y0 y2 y4 hbel d0
            obtain ⟨k, hk, hbel, y0, y2, y4, rfl⟩ := hrel
            by_cases hlt : k < 8
            · rcases (show k = 0 ∨ k = 1 ∨ k = 2 ∨ k = 3 ∨ k = 4 ∨ k = 5 ∨ k = 6 ∨ k = 7 by omega) with rfl | rfl | rfl | rfl | rfl | rfl | rfl | rfl
              · have c0 : wr.cell? ⟨w.heap.size, 0, none⟩ = some (.int .u32 s0) := by rw [cell_heap y0]; rfl
                have c4 : wr.cell? ⟨g, 0, none⟩ = some (.int .u32 fa) := by rw [cell_heap y4]; rfl
                have fz : wr.frozen? ⟨w.heap.size, 0, none⟩ = false := frozen_heap y0 0
                go_wp2
                go_region
                all_goals go_wp2
                go_roundw
                case rel =>
                  have h3 := row_put5 (w := wr.drew) (k := 0) (v := .int .u32 ((s0 + fa) % 4294967296)) y0
                  rw [wrow_set] at h3
                  exact ⟨1, by omega, (hbel.setCell (p := ⟨w.heap.size, 0, none⟩) (Nat.le_refl _) _).drew, h3, row_set (W := wr.drew) y2 (by omega), row_set (W := wr.drew) y4 (by omega), by go_num⟩
                case measure => (simp [intOf])
              · have c0 : wr.cell? ⟨w.heap.size, 1, none⟩ = some (.int .u32 s1) := by rw [cell_heap y0]; rfl
                have c4 : wr.cell? ⟨g, 1, none⟩ = some (.int .u32 fb) := by rw [cell_heap y4]; rfl
                have fz : wr.frozen? ⟨w.heap.size, 1, none⟩ = false := frozen_heap y0 1
                go_wp2
                go_region
                all_goals go_wp2
                go_roundw
                case rel =>
                  have h3 := row_put5 (w := wr.drew) (k := 1) (v := .int .u32 ((s1 + fb) % 4294967296)) y0
                  rw [wrow_set] at h3
                  exact ⟨2, by omega, (hbel.setCell (p := ⟨w.heap.size, 1, none⟩) (Nat.le_refl _) _).drew, h3, row_set (W := wr.drew) y2 (by omega), row_set (W := wr.drew) y4 (by omega), by go_num⟩
                case measure => (simp [intOf])
              · have c0 : wr.cell? ⟨w.heap.size, 2, none⟩ = some (.int .u32 s2) := by rw [cell_heap y0]; rfl
                have c4 : wr.cell? ⟨g, 2, none⟩ = some (.int .u32 fc) := by rw [cell_heap y4]; rfl
                have fz : wr.frozen? ⟨w.heap.size, 2, none⟩ = false := frozen_heap y0 2
                go_wp2
                go_region
                all_goals go_wp2
                go_roundw
                case rel =>
                  have h3 := row_put5 (w := wr.drew) (k := 2) (v := .int .u32 ((s2 + fc) % 4294967296)) y0
                  rw [wrow_set] at h3
                  exact ⟨3, by omega, (hbel.setCell (p := ⟨w.heap.size, 2, none⟩) (Nat.le_refl _) _).drew, h3, row_set (W := wr.drew) y2 (by omega), row_set (W := wr.drew) y4 (by omega), by go_num⟩
                case measure => (simp [intOf])
              · have c0 : wr.cell? ⟨w.heap.size, 3, none⟩ = some (.int .u32 s3) := by rw [cell_heap y0]; rfl
                have c4 : wr.cell? ⟨g, 3, none⟩ = some (.int .u32 fk) := by rw [cell_heap y4]; rfl
                have fz : wr.frozen? ⟨w.heap.size, 3, none⟩ = false := frozen_heap y0 3
                go_wp2
                go_region
                all_goals go_wp2
                go_roundw
                case rel =>
                  have h3 := row_put5 (w := wr.drew) (k := 3) (v := .int .u32 ((s3 + fk) % 4294967296)) y0
                  rw [wrow_set] at h3
                  exact ⟨4, by omega, (hbel.setCell (p := ⟨w.heap.size, 3, none⟩) (Nat.le_refl _) _).drew, h3, row_set (W := wr.drew) y2 (by omega), row_set (W := wr.drew) y4 (by omega), by go_num⟩
                case measure => (simp [intOf])
              · have c0 : wr.cell? ⟨w.heap.size, 4, none⟩ = some (.int .u32 s4) := by rw [cell_heap y0]; rfl
                have c4 : wr.cell? ⟨g, 4, none⟩ = some (.int .u32 fe) := by rw [cell_heap y4]; rfl
                have fz : wr.frozen? ⟨w.heap.size, 4, none⟩ = false := frozen_heap y0 4
                go_wp2
                go_region
                all_goals go_wp2
                go_roundw
                case rel =>
                  have h3 := row_put5 (w := wr.drew) (k := 4) (v := .int .u32 ((s4 + fe) % 4294967296)) y0
                  rw [wrow_set] at h3
                  exact ⟨5, by omega, (hbel.setCell (p := ⟨w.heap.size, 4, none⟩) (Nat.le_refl _) _).drew, h3, row_set (W := wr.drew) y2 (by omega), row_set (W := wr.drew) y4 (by omega), by go_num⟩
                case measure => (simp [intOf])
              · have c0 : wr.cell? ⟨w.heap.size, 5, none⟩ = some (.int .u32 s5) := by rw [cell_heap y0]; rfl
                have c4 : wr.cell? ⟨g, 5, none⟩ = some (.int .u32 ff) := by rw [cell_heap y4]; rfl
                have fz : wr.frozen? ⟨w.heap.size, 5, none⟩ = false := frozen_heap y0 5
                go_wp2
                go_region
                all_goals go_wp2
                go_roundw
                case rel =>
                  have h3 := row_put5 (w := wr.drew) (k := 5) (v := .int .u32 ((s5 + ff) % 4294967296)) y0
                  rw [wrow_set] at h3
                  exact ⟨6, by omega, (hbel.setCell (p := ⟨w.heap.size, 5, none⟩) (Nat.le_refl _) _).drew, h3, row_set (W := wr.drew) y2 (by omega), row_set (W := wr.drew) y4 (by omega), by go_num⟩
                case measure => (simp [intOf])
              · have c0 : wr.cell? ⟨w.heap.size, 6, none⟩ = some (.int .u32 s6) := by rw [cell_heap y0]; rfl
                have c4 : wr.cell? ⟨g, 6, none⟩ = some (.int .u32 fg) := by rw [cell_heap y4]; rfl
                have fz : wr.frozen? ⟨w.heap.size, 6, none⟩ = false := frozen_heap y0 6
                go_wp2
                go_region
                all_goals go_wp2
                go_roundw
                case rel =>
                  have h3 := row_put5 (w := wr.drew) (k := 6) (v := .int .u32 ((s6 + fg) % 4294967296)) y0
                  rw [wrow_set] at h3
                  exact ⟨7, by omega, (hbel.setCell (p := ⟨w.heap.size, 6, none⟩) (Nat.le_refl _) _).drew, h3, row_set (W := wr.drew) y2 (by omega), row_set (W := wr.drew) y4 (by omega), by go_num⟩
                case measure => (simp [intOf])
              · have c0 : wr.cell? ⟨w.heap.size, 7, none⟩ = some (.int .u32 s7) := by rw [cell_heap y0]; rfl
                have c4 : wr.cell? ⟨g, 7, none⟩ = some (.int .u32 fh) := by rw [cell_heap y4]; rfl
                have fz : wr.frozen? ⟨w.heap.size, 7, none⟩ = false := frozen_heap y0 7
                go_wp2
                go_region
                all_goals go_wp2
                go_roundw
                case rel =>
                  have h3 := row_put5 (w := wr.drew) (k := 7) (v := .int .u32 ((s7 + fh) % 4294967296)) y0
                  rw [wrow_set] at h3
                  exact ⟨8, by omega, (hbel.setCell (p := ⟨w.heap.size, 7, none⟩) (Nat.le_refl _) _).drew, h3, row_set (W := wr.drew) y2 (by omega), row_set (W := wr.drew) y4 (by omega), by go_num⟩
                case measure => (simp [intOf])
            · obtain rfl : k = 8 := by omega
              have d0 : decide (((8 : Nat) : Int) < 8) = false := rfl
              have hsz : (wrow (padd [s0, s1, s2, s3, s4, s5, s6, s7] [fa, fb, fc, fk, fe, ff, fg, fh] 8)).size = 8 := rfl
              have hone := wrow_one (padd [s0, s1, s2, s3, s4, s5, s6, s7] [fa, fb, fc, fk, fe, ff, fg, fh] 8)
              go_wp2_with (first | (refine wpList_loadRow rfl (.tmp 3) 153 rfl Tryd.underlying153 (by rw [hsz]; kernel_rfl) rfl y0 ?_) | (refine wpList_storeRowTo rfl (.tmp 6) (.tmp 191) 153 rfl (by rw [hsz]; kernel_rfl) rfl rfl y2 (by rw [hsz]; rfl) hone ?_))
              refine bodyPost_ret (v := .agg (wrow (padd [s0, s1, s2, s3, s4, s5, s6, s7] [fa, fb, fc, fk, fe, ff, fg, fh] 8))) ?_ rfl ?_
              · simp [results, Tryd.results107, Act.put, asAddr]
                exact run_loadVar_row _ _ 153 153 _ (0, 0) _ (setRow_heap _ _ _ _ _ _ y2) Tryd.underlying153 rfl (by rw [hsz]; kernel_rfl)
              exact ⟨by rw [HC2.out], below_setRow hbel (by omega) _⟩
end Go.Proofs.YtpledhipdiephaaDoor
