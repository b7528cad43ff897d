/- The chapter's example of cuts. -/
import Derived.Test.YthipnkbfdkmhaaaBt5
import Derived.Test.YthipnkbfdkmhaaaBtI
import Derived.BigRegion
import Derived.RegionTactic
import Derived.BigQuiet
import Derived.Deep.QuietTactic
import Derived.Deep.MidRow
import Derived.LoopTactic
import Derived.BigFrame
import Derived.WalkKit
import Derived.ProofKit
import Derived.Handy
import Derived.Below
import Derived.Lib.Hide
import Derived.IntWalk
import Derived.Outline
import Derived.WalkLawsBesides
import Derived.WalkSpells
namespace Go.Proofs.Ythipnkbfdkmhaaa
open Go.RowKit
attribute [local go_sem] strV
set_option linter.unusedVariables false
theorem row_newI (w : World) (cur : Array Value) (t : TypeId) : RowAt (w.alloc (.cells cur t)) (some ⟨w.heap.size, 0, none⟩) cur.toList :=
  .inr ⟨_, 0, rfl, by simp, fun j hj => by
    rw [Nat.zero_add, cell_heap (show (w.heap.push _)[w.heap.size]? = _ by rw [Array.getElem?_push_size]) j]
    simp⟩
theorem rowMsgs3 {W : World} {g : Nat} (h : W.heap[g]? = some (.cells ((updM 2).row ++ (updM 2).row ++ (updM 2).row) 34 (0, 0))) : RowAt W (some ⟨g, 0, none⟩) ([updM 2, updM 2, updM 2].flatMap MsgV.cellsL) := by
  have e : ([updM 2, updM 2, updM 2] : List MsgV).flatMap MsgV.cellsL = ((updM 2).row ++ (updM 2).row ++ (updM 2).row).toList := by
    simp only [List.flatMap_cons, List.flatMap_nil, MsgV.cellsL, Array.toList_append, List.append_nil, List.append_assoc]
  rw [e]
  exact .inr ⟨g, 0, rfl, (Array.getElem?_eq_some_iff.1 h).1, fun j _ => by rw [Nat.zero_add, cell_heap h j, Array.getElem?_toList]⟩
set_option maxRecDepth 100000 in
set_option maxHeartbeats 12800000 in
theorem first28_any (w : World) : Calls Try.prog 38 #[] w fun e w' => e = .returned (.bool true) ∧ Below w.heap.size w w' := by
  have CC := fun (a b : Nat) W (hu : RowAt W (some ⟨a, 0, none⟩) ([updM 1].flatMap MsgV.cellsL)) (hr : RowAt W (some ⟨b, 0, none⟩) ([updM 2, updM 2, updM 2].flatMap MsgV.cellsL)) =>
    bt_cut 1048576 1048576 2 (some ⟨a, 0, none⟩) 1 1 [updM 1] (some ⟨b, 0, none⟩) 3 3 [updM 2, updM 2, updM 2] none 0 0 [] W hu rfl (fun m hm => by rw [List.mem_singleton.1 hm]; exact updM_ok _ _) (fun m hm => by rw [List.mem_singleton.1 hm]; exact light_upd.1)
      hr rfl (fun m hm => by simp at hm; subst hm; exact updM_ok _ _) (fun m hm => by simp at hm; subst hm; exact light_upd.2) (by omega) (.inl rfl) rfl (fun z hz => by cases hz)
  unfold cutPost at CC
  simp only [cut_first] at CC
  have hR2 : (updM 2).row.size = 50 := MsgV.row_size _
  have hO2 := MsgV.row_one (updM 2)
  have hbel := Below.refl w.heap.size w
  go_enter Try.func38, Try.ntmps38
  go_upto_region 1 with fail
  go_step
  refine wpList_build1 rfl 25 0 _ rfl (u := .int .i64 1) rfl (build_hd 1 _) ?_
  refine wpList_build2 rfl 34 0 1 _ _ rfl (u := .int .i64 1) (z := hdA 1) rfl rfl (build_upd 1 _) ?_
  refine wpList_one rfl (.tmp 6) 48 34 rfl (by rfl) (one_msg _ (MsgV.row_size _) _) ?_
  simp only [Act.put, List.setIfInBounds_toArray, List.set_cons_succ, List.set_cons_zero]
  go_upto_region 2 with fail
  go_step
  refine wpList_build1 rfl 25 0 _ rfl (u := .int .i64 2) rfl (build_hd 2 _) ?_
  refine wpList_build2 rfl 34 0 1 _ _ rfl (u := .int .i64 1) (z := hdA 2) rfl rfl (build_upd 2 _) ?_
  simp only [Act.put, List.setIfInBounds_toArray, List.set_cons_succ, List.set_cons_zero]
  go_step
  go_step
  go_step
  refine wpList_storeRowTo (Z := (updM 2).row) rfl (.tmp 2) (.tmp 9) 34 rfl (by rw [MsgV.row_size]; kernel_rfl) rfl (by rfl) (al2_1 _ _ _) (by rw [MsgV.row_size]; first | done | rfl) (MsgV.row_one _) ?_
  go_step
  simp only [Act.put]
  go_upto_region 3 with fail
  refine wp_nameE _ (fun W3 hX => ?_)
  have e1 : (w.alloc (.cells (updM 1).row 34)).heap.size = w.heap.size + 1 := by simp
  have hU : W3.heap[w.heap.size]? = some (.cells (updM 1).row 34 (0, 0)) := by rw [hX, setRow_other _ _ _ _ (by omega)]; exact al2_0 _ _ _
  have hM : W3.heap[w.heap.size + 1]? = some (.cells (updM 2).row 34 (0, 0)) := by
    rw [hX]; exact setRow_heap _ _ _ _ _ _ (al2_1 _ _ _)
  have hbel : Below w.heap.size w W3 := by rw [hX]; exact below_setRow (al2_below _ _ _) (by omega) _
  clear hX e1
  go_step
  go_step
  go_step
  go_step
  go_step
  go_step
  go_step
  refine wpList_load_mid rfl 34 (.tmp 2) rfl (w.heap.size + 1) 0 rfl (updM 2).row.toList _ (rangeAt_row5 hM) Try.underlying34 rfl (msg_info _) ?_
  rw [Array.toArray_toList]
  refine wpList_load_mid rfl 34 (.tmp 2) rfl (w.heap.size + 1) 0 rfl (updM 2).row.toList _ (rangeAt_row5 hM) Try.underlying34 rfl (msg_info _) ?_
  rw [Array.toArray_toList]
  refine wpList_load_mid rfl 34 (.tmp 2) rfl (w.heap.size + 1) 0 rfl (updM 2).row.toList _ (rangeAt_row5 hM) Try.underlying34 rfl (msg_info _) ?_
  rw [Array.toArray_toList]
  refine wpList_three (R := (updM 2).row ++ (updM 2).row ++ (updM 2).row) rfl (.tmp 13) (.tmp 14) (.tmp 15) 48 34 rfl rfl rfl rfl (build3u _) ?_
  simp only [Act.put, List.setIfInBounds_toArray, List.set_cons_succ, List.set_cons_zero]
  have hl3 : w.heap.size < W3.heap.size := (Array.getElem?_eq_some_iff.1 hU).1
  have hb4 : Below W3.heap.size W3 (W3.alloc (.cells ((updM 2).row ++ (updM 2).row ++ (updM 2).row) 34)) := Below.alloc (Below.refl _ _) (Nat.le_refl _) _
  have C4 := CC w.heap.size W3.heap.size (W3.alloc (.cells ((updM 2).row ++ (updM 2).row ++ (updM 2).row) 34)) (msg_rowAt (cells_of hU hb4 hl3)) (rowMsgs3 (heap_push _ _ _))
  obtain ⟨W4, hW4⟩ : ∃ W, W3.alloc (.cells ((updM 2).row ++ (updM 2).row ++ (updM 2).row) 34) = W := ⟨_, rfl⟩
  simp only [hW4] at C4 hb4 ⊢
  have hbel := hbel.trans (hb4.mono hbel.size)
  clear hW4 hb4 CC hU hM
  go_upto_region 4 with (go_at_call 39; with_reducible refine C4.mono ?_; rintro e w5 ⟨tv, sv, vs, base, rfl, hN, hB, hb⟩; have hbel := hbel.trans (hb.mono hbel.size); clear hb)
  obtain ⟨v0, v1, rfl⟩ : ∃ v0 v1, vs = [v0, v1] := by
    have hlen := hN.len
    match vs, hlen with
    | [v0, v1], _ => exact ⟨v0, v1, rfl⟩
  obtain ⟨g, cap, rfl, hgb, hgl⟩ := hN.o.form (by show 0 < 2; decide)
  have q0 : w5.cell? ⟨g, 0, none⟩ = some v0 := hN.o.cellAt 0 (by show 0 < 2 * 1; decide)
  have q1 : w5.cell? ⟨g, 1, none⟩ = some v1 := hN.o.cellAt 1 (by show 1 < 2 * 1; decide)
  obtain ⟨aS, cS, rfl, _⟩ := own_slice hN.s.1
  obtain ⟨a0, c0, rfl, r0, _⟩ := own_slice (hN.i 0 v0 [0] rfl rfl).1
  obtain ⟨a1, c1, rfl, r1, _⟩ := own_slice (hN.i 1 v1 [1, 2] rfl rfl).1
  have C1 := ints_any (cap := c0) (cap' := 1) (x := [0]) (y := [0]) (n := 1) (n' := 1) (a := a0) (a' := some ⟨w5.heap.size, 0, none⟩) (w := w5.alloc (.cells #[.int .i64 0] 3)) (r0.below (Below.alloc (Below.refl _ _) (Nat.le_refl _) _)) (row_newI _ _ _) rfl rfl (by unfold maxLen; omega) (by unfold maxLen; omega)
  have C2 := fun (W : World) (hb : Below w5.heap.size w5 W) => ints_any (cap := c1) (cap' := 2) (x := [1, 2]) (y := [1, 2]) (n := 2) (n' := 2) (a := a1) (a' := some ⟨W.heap.size, 0, none⟩) (w := W.alloc (.cells #[.int .i64 1, .int .i64 2] 3)) (r1.below (hb.trans (Below.alloc (Below.refl _ _) hb.size _))) (row_newI _ _ _) rfl rfl (by unfold maxLen; omega) (by unfold maxLen; omega)
  rw [show (([0] : List Int) == [0]) = true from rfl] at C1
  simp only [show (([1, 2] : List Int) == [1, 2]) = true from rfl] at C2
  clear hN r0 r1
  go_wp2_with (first | (go_at_call 42; with_reducible refine C1.mono ?_; rintro e w6 ⟨rfl, hb6⟩; have hb6 := (Below.alloc (Below.refl w5.heap.size w5) (Nat.le_refl _) (.cells #[.int .i64 0] 3)).trans (hb6.mono (by simp)); have q1 := (hb6.cell (p := ⟨g, 1, none⟩) hgl).trans q1; have C3 := C2 _ hb6; have hbel := hbel.trans (hb6.mono hbel.size); clear C1 C2) | (go_at_call 42; with_reducible refine C3.mono ?_; rintro e w7 ⟨rfl, hb7⟩; have hbel := hbel.trans (((Below.alloc (Below.refl w6.heap.size w6) (Nat.le_refl _) (.cells #[.int .i64 1, .int .i64 2] 3)).trans (hb7.mono (by simp))).mono hbel.size)))
  go_ret
  exact ⟨by first | rfl | simp, hbel⟩
end Go.Proofs.Ythipnkbfdkmhaaa
