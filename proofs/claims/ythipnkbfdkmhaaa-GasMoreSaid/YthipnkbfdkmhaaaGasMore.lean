/- The law GasMore walked. -/
import Derived.Test.YthipnkbfdkmhaaaMsg9
import Derived.Test.YthipnkbfdkmhaaaBuild2
import Derived.Test.YthipnkbfdkmhaaaPhi
import Derived.BigQuiet
import Derived.WalkKit
import Derived.ProofKit
import Derived.Handy
import Derived.Below
import Derived.Lib.Hide
import Derived.IntWalk
import Derived.Outline
import Derived.WalkLawsBesides
import Derived.WalkSpells
namespace Go.Proofs.Ythipnkbfdkmhaaa
open Go.RowKit
attribute [local go_sem] strV
set_option linter.unusedVariables false

theorem wpList_slice2 {P : Program} {ops : Array Oper} {rest : List Oper} {op : Oper} {a : Act} {w : World} {Q : Exit → Act → World → Prop} {R : Array Value} (x y : Operand) (hP : P = Try.prog) (ho : op.op = .buildSlice 48 2 #[(0, x), (1, y)]) (hx : a.eval x = .agg R) (hy : a.eval y = .agg R) (hR : R.size = 50) (hw : Region.wanted op (yielded ops a.tmps) = true)
    (h : wpList P ops Q rest (a.put op.dst (.slice (some ⟨w.heap.size, 0, none⟩) 2 2)) (w.alloc (.cells (R ++ R) 34))) : wpList P ops Q (op :: rest) a w := by
  subst hP
  unfold wpList
  rw [if_pos hw]
  refine .inl ?_
  unfold Oper.wp
  simp [execOp, ho, hx, hy, build2 R hR w, Result.andThen]
  exact h
theorem row_two (m : MsgV) (w : World) : RowAt (w.alloc (.cells (m.row ++ m.row) 34)) (some ⟨w.heap.size, 0, none⟩) (m.cellsL ++ m.cellsL) := by
  refine .inr ⟨w.heap.size, 0, rfl, by simp, fun j hj => ?_⟩
  rw [Nat.zero_add, cell_heap (heap_push w (m.row ++ m.row) 34) j]
  unfold MsgV.cellsL
  rw [← Array.toList_append, Array.getElem?_toList]
theorem two_cells (m : MsgV) : [m, m].flatMap MsgV.cellsL = m.cellsL ++ m.cellsL := by simp
theorem sum_two (m : MsgV) : sumP [m, m] = 2 * priceM m := by simp [sumP]; omega
set_option maxRecDepth 100000 in
set_option maxHeartbeats 3000000 in
theorem walkGasMore (m : MsgV) (w : World) (hm : m.ok w) :
    Calls Try.prog 9 #[.agg m.row] w fun e w' => e = .returned (.bool true) ∧ Below w.heap.size w w' := by
  have CF := fun W => first17_any W
  have CL := fun W (hb : Below w.heap.size w W) => lightM_any m W (hm.below hb)
  have CM := fun W (hb : Below w.heap.size w W) => msgMay_any m W (hm.below hb)
  obtain ⟨kl, el⟩ : ∃ b, lightM m = b := ⟨_, rfl⟩
  obtain ⟨km, em⟩ : ∃ b, mayMsgB m = b := ⟨_, rfl⟩
  obtain ⟨k1, e1⟩ : ∃ b, (m.kd == 1) = b := ⟨_, rfl⟩
  simp only [el] at CL
  simp only [em] at CM
  have HEL := Lib.hid el
  have HEM := Lib.hid em
  clear el em
  go_enter Try.func9, Try.ntmps9
  go_upto_region 1 with fail
  refine wp_nameE _ (fun W1 hX => ?_)
  have hg : W1.heap[w.heap.size]? = some (.cells m.row 34 (0, 0)) := by rw [hX]; exact heap_push _ _ _
  have hbel : Below w.heap.size w W1 := by rw [hX]; exact Below.alloc (Below.refl _ _) (Nat.le_refl _) _
  clear hX
  have hgl : w.heap.size < W1.heap.size := (Array.getElem?_eq_some_iff.1 hg).1
  obtain ⟨q0, q1, q2, q3, q4, q5, q6, q7, q8, q9, q10, q11, q12, q13, q14, q15, q16, q17⟩ := msg_cells hg
  go_upto_region 3 with (go_at_call 33; refine (CF _).mono ?_; rintro e w2 ⟨rfl, hb⟩; have hg := cells_of hg hb hgl; have hgl := Nat.lt_of_lt_of_le hgl hb.size; have hbel := hbel.trans (hb.mono hbel.size); clear hb q0 q1 q2 q3 q4 q5 q6 q7 q8 q9 q10 q11 q12 q13 q14 q15 q16 q17; obtain ⟨q0, q1, q2, q3, q4, q5, q6, q7, q8, q9, q10, q11, q12, q13, q14, q15, q16, q17⟩ := msg_cells hg)
  cases kl
  case false =>
    go_wp2_with (first | (refine wpList_load_mid rfl 34 (.tmp 1) rfl w.heap.size 0 rfl m.row.toList _ (rangeAt_row5 hg) Try.underlying34 rfl (msg_info _) ?_; rw [Array.toArray_toList]) | (go_at_call 33; refine (CF _).mono ?_; rintro e w2 ⟨rfl, hb⟩; have hg := cells_of hg hb hgl; have hgl := Nat.lt_of_lt_of_le hgl hb.size; have hbel := hbel.trans (hb.mono hbel.size); clear hb q0 q1 q2 q3 q4 q5 q6 q7 q8 q9 q10 q11 q12 q13 q14 q15 q16 q17; obtain ⟨q0, q1, q2, q3, q4, q5, q6, q7, q8, q9, q10, q11, q12, q13, q14, q15, q16, q17⟩ := msg_cells hg) | (go_at_call 15; refine (CL _ hbel).mono ?_; rintro e w2 ⟨rfl, hb⟩; have hg := cells_of hg hb hgl; have hgl := Nat.lt_of_lt_of_le hgl hb.size; have hbel := hbel.trans (hb.mono hbel.size); clear hb q0 q1 q2 q3 q4 q5 q6 q7 q8 q9 q10 q11 q12 q13 q14 q15 q16 q17; obtain ⟨q0, q1, q2, q3, q4, q5, q6, q7, q8, q9, q10, q11, q12, q13, q14, q15, q16, q17⟩ := msg_cells hg) | (go_at_call 17; refine (CM _ hbel).mono ?_; rintro e w2 ⟨rfl, hb⟩; have hg := cells_of hg hb hgl; have hgl := Nat.lt_of_lt_of_le hgl hb.size; have hbel := hbel.trans (hb.mono hbel.size); clear hb q0 q1 q2 q3 q4 q5 q6 q7 q8 q9 q10 q11 q12 q13 q14 q15 q16 q17; obtain ⟨q0, q1, q2, q3, q4, q5, q6, q7, q8, q9, q10, q11, q12, q13, q14, q15, q16, q17⟩ := msg_cells hg))
    go_ret
    exact ⟨by first | rfl | simp, hbel⟩
  cases km
  case false =>
    go_wp2_with (first | (refine wpList_load_mid rfl 34 (.tmp 1) rfl w.heap.size 0 rfl m.row.toList _ (rangeAt_row5 hg) Try.underlying34 rfl (msg_info _) ?_; rw [Array.toArray_toList]) | (refine wpList_load_midG 34 (.tmp 1) rfl w.heap.size 0 rfl m.row.toList _ (rangeAt_row5 hg) Try.underlying34 rfl (msg_info _) (by first | rfl | (simp [Region.wanted, yielded]; done)) ?_; rw [Array.toArray_toList]) | (go_at_call 33; refine (CF _).mono ?_; rintro e w2 ⟨rfl, hb⟩; have hg := cells_of hg hb hgl; have hgl := Nat.lt_of_lt_of_le hgl hb.size; have hbel := hbel.trans (hb.mono hbel.size); clear hb q0 q1 q2 q3 q4 q5 q6 q7 q8 q9 q10 q11 q12 q13 q14 q15 q16 q17; obtain ⟨q0, q1, q2, q3, q4, q5, q6, q7, q8, q9, q10, q11, q12, q13, q14, q15, q16, q17⟩ := msg_cells hg) | (go_at_call 15; refine (CL _ hbel).mono ?_; rintro e w2 ⟨rfl, hb⟩; have hg := cells_of hg hb hgl; have hgl := Nat.lt_of_lt_of_le hgl hb.size; have hbel := hbel.trans (hb.mono hbel.size); clear hb q0 q1 q2 q3 q4 q5 q6 q7 q8 q9 q10 q11 q12 q13 q14 q15 q16 q17; obtain ⟨q0, q1, q2, q3, q4, q5, q6, q7, q8, q9, q10, q11, q12, q13, q14, q15, q16, q17⟩ := msg_cells hg) | (go_at_call 17; refine (CM _ hbel).mono ?_; rintro e w2 ⟨rfl, hb⟩; have hg := cells_of hg hb hgl; have hgl := Nat.lt_of_lt_of_le hgl hb.size; have hbel := hbel.trans (hb.mono hbel.size); clear hb q0 q1 q2 q3 q4 q5 q6 q7 q8 q9 q10 q11 q12 q13 q14 q15 q16 q17; obtain ⟨q0, q1, q2, q3, q4, q5, q6, q7, q8, q9, q10, q11, q12, q13, q14, q15, q16, q17⟩ := msg_cells hg))
    go_ret
    exact ⟨by first | rfl | simp, hbel⟩
  cases k1
  case true =>
    go_wp2_with (first | (refine wpList_load_mid rfl 34 (.tmp 1) rfl w.heap.size 0 rfl m.row.toList _ (rangeAt_row5 hg) Try.underlying34 rfl (msg_info _) ?_; rw [Array.toArray_toList]) | (refine wpList_load_midG 34 (.tmp 1) rfl w.heap.size 0 rfl m.row.toList _ (rangeAt_row5 hg) Try.underlying34 rfl (msg_info _) (by first | rfl | (simp [Region.wanted, yielded]; done)) ?_; rw [Array.toArray_toList]) | (go_at_call 33; refine (CF _).mono ?_; rintro e w2 ⟨rfl, hb⟩; have hg := cells_of hg hb hgl; have hgl := Nat.lt_of_lt_of_le hgl hb.size; have hbel := hbel.trans (hb.mono hbel.size); clear hb q0 q1 q2 q3 q4 q5 q6 q7 q8 q9 q10 q11 q12 q13 q14 q15 q16 q17; obtain ⟨q0, q1, q2, q3, q4, q5, q6, q7, q8, q9, q10, q11, q12, q13, q14, q15, q16, q17⟩ := msg_cells hg) | (go_at_call 15; refine (CL _ hbel).mono ?_; rintro e w2 ⟨rfl, hb⟩; have hg := cells_of hg hb hgl; have hgl := Nat.lt_of_lt_of_le hgl hb.size; have hbel := hbel.trans (hb.mono hbel.size); clear hb q0 q1 q2 q3 q4 q5 q6 q7 q8 q9 q10 q11 q12 q13 q14 q15 q16 q17; obtain ⟨q0, q1, q2, q3, q4, q5, q6, q7, q8, q9, q10, q11, q12, q13, q14, q15, q16, q17⟩ := msg_cells hg) | (go_at_call 17; refine (CM _ hbel).mono ?_; rintro e w2 ⟨rfl, hb⟩; have hg := cells_of hg hb hgl; have hgl := Nat.lt_of_lt_of_le hgl hb.size; have hbel := hbel.trans (hb.mono hbel.size); clear hb q0 q1 q2 q3 q4 q5 q6 q7 q8 q9 q10 q11 q12 q13 q14 q15 q16 q17; obtain ⟨q0, q1, q2, q3, q4, q5, q6, q7, q8, q9, q10, q11, q12, q13, q14, q15, q16, q17⟩ := msg_cells hg))
    go_ret
    exact ⟨by first | rfl | simp, hbel⟩
  go_upto_region 5 with (first | (refine wpList_load_mid rfl 34 (.tmp 1) rfl w.heap.size 0 rfl m.row.toList _ (rangeAt_row5 hg) Try.underlying34 rfl (msg_info _) ?_; rw [Array.toArray_toList]) | (refine wpList_load_midG 34 (.tmp 1) rfl w.heap.size 0 rfl m.row.toList _ (rangeAt_row5 hg) Try.underlying34 rfl (msg_info _) (by first | rfl | (simp [Region.wanted, yielded]; done)) ?_; rw [Array.toArray_toList]) | (go_at_call 33; refine (CF _).mono ?_; rintro e w2 ⟨rfl, hb⟩; have hg := cells_of hg hb hgl; have hgl := Nat.lt_of_lt_of_le hgl hb.size; have hbel := hbel.trans (hb.mono hbel.size); clear hb q0 q1 q2 q3 q4 q5 q6 q7 q8 q9 q10 q11 q12 q13 q14 q15 q16 q17; obtain ⟨q0, q1, q2, q3, q4, q5, q6, q7, q8, q9, q10, q11, q12, q13, q14, q15, q16, q17⟩ := msg_cells hg) | (go_at_call 15; refine (CL _ hbel).mono ?_; rintro e w2 ⟨rfl, hb⟩; have hg := cells_of hg hb hgl; have hgl := Nat.lt_of_lt_of_le hgl hb.size; have hbel := hbel.trans (hb.mono hbel.size); clear hb q0 q1 q2 q3 q4 q5 q6 q7 q8 q9 q10 q11 q12 q13 q14 q15 q16 q17; obtain ⟨q0, q1, q2, q3, q4, q5, q6, q7, q8, q9, q10, q11, q12, q13, q14, q15, q16, q17⟩ := msg_cells hg) | (go_at_call 17; refine (CM _ hbel).mono ?_; rintro e w2 ⟨rfl, hb⟩; have hg := cells_of hg hb hgl; have hgl := Nat.lt_of_lt_of_le hgl hb.size; have hbel := hbel.trans (hb.mono hbel.size); clear hb q0 q1 q2 q3 q4 q5 q6 q7 q8 q9 q10 q11 q12 q13 q14 q15 q16 q17; obtain ⟨q0, q1, q2, q3, q4, q5, q6, q7, q8, q9, q10, q11, q12, q13, q14, q15, q16, q17⟩ := msg_cells hg))
  obtain ⟨s, hs⟩ : ∃ s, (msgS m).size = s := ⟨_, rfl⟩
  have CS := fun W (hb : Below w.heap.size w W) => msgSize_any m W (hm.below hb)
  simp only [hs] at CS
  have hsm := msgS_le m
  rw [hs] at hsm
  have HSZ := Lib.hid hs
  clear hs
  go_upto_region 6 with (first | (refine wpList_load_mid rfl 34 (.tmp 1) rfl w.heap.size 0 rfl m.row.toList _ (rangeAt_row5 hg) Try.underlying34 rfl (msg_info _) ?_; rw [Array.toArray_toList]) | (go_at_call 26; refine (CS _ hbel).mono ?_; rintro e w2 ⟨rfl, hb⟩; have hg := cells_of hg hb hgl; have hgl := Nat.lt_of_lt_of_le hgl hb.size; have hbel := hbel.trans (hb.mono hbel.size); clear hb q0 q1 q2 q3 q4 q5 q6 q7 q8 q9 q10 q11 q12 q13 q14 q15 q16 q17; obtain ⟨q0, q1, q2, q3, q4, q5, q6, q7, q8, q9, q10, q11, q12, q13, q14, q15, q16, q17⟩ := msg_cells hg))
  clear CF CL CM CS
  refine wp_nameE _ (fun W2 hX => ?_)
  have hg2 : W2.heap[w.heap.size]? = some (.cells m.row 34 (0, 0)) := by rw [hX]; exact hg
  have hbel2 : Below w.heap.size w W2 := by rw [hX]; exact hbel
  clear hX hg hgl hbel q0 q1 q2 q3 q4 q5 q6 q7 q8 q9 q10 q11 q12 q13 q14 q15 q16 q17
  have hg := hg2
  have hgl2 : w.heap.size < W2.heap.size := (Array.getElem?_eq_some_iff.1 hg2).1
  go_upto_region 7 with (first | (refine wpList_load_mid rfl 34 (.tmp 1) rfl w.heap.size 0 rfl m.row.toList _ (rangeAt_row5 hg) Try.underlying34 rfl (msg_info _) ?_; rw [Array.toArray_toList]) | (refine wpList_storeRowTo (Z := m.row) rfl (.tmp 4) (.tmp 23) 34 rfl (by rw [MsgV.row_size]; kernel_rfl) rfl (by rfl) (heap_push _ _ _) (by rw [MsgV.row_size]; rfl) (MsgV.row_one _) ?_))
  refine wp_nameE _ (fun W5 hX => ?_)
  have hb5 : Below W2.heap.size W2 W5 := by rw [hX]; exact below_setRow (Below.alloc (Below.refl _ _) (Nat.le_refl _) _) (Nat.le_refl _) _
  have hx : W5.heap[W2.heap.size]? = some (.cells m.row 34 (0, 0)) := by rw [hX]; exact setRow_heap _ _ _ _ _ _ (heap_push _ _ _)
  clear hX hg
  have hg := cells_of hg2 hb5 hgl2
  have hbel := hbel2.trans (hb5.mono hbel2.size)
  clear hb5 hg2
  obtain ⟨g, hgg⟩ : ∃ g, W2.heap.size = g := ⟨_, rfl⟩
  rw [hgg] at hx hgl2
  simp only [hgg]
  have q11 := (msg_cells hg).2.2.2.2.2.2.2.2.2.2.2.1
  have z43 := (msg_cells hx).2.2.2.2.2.2.2.2.2.2.2.1
  have f43 := frozen_heap hx 43
  have hak := (light_msg HEL.out).1
  go_upto_region 8 with fail
  refine wp_nameE _ (fun W6 hX => ?_)
  have hb6 : Below w.heap.size w W6 := by rw [hX]; exact hbel.setCell (p := ⟨g, 43, none⟩) (by show _ ≤ g; omega) _
  have hx6 : W6.heap[g]? = some (.cells m.more.row 34 (0, 0)) := by rw [hX, more_row]; exact row_put5 hx
  have hg6 : W6.heap[w.heap.size]? = some (.cells m.row 34 (0, 0)) := by rw [hX]; exact row_oth hg (by omega)
  clear hX hx hg hbel q11 z43 f43
  have hxl := (Array.getElem?_eq_some_iff.1 hx6).1
  have hgl := (Array.getElem?_eq_some_iff.1 hg6).1
  have hm6 := hm.below hb6
  have hn6 := more_ok hm6
  obtain ⟨_, l2, l3⟩ := light_msg HEL.out
  obtain ⟨p1, p2, p3⟩ := light_pf l2
  obtain ⟨c1, c2, c3⟩ := light_pf l3
  have p1 : m.pn ≤ 5 := by rw [← hm.plen]; exact p1
  have c1 : m.cn ≤ 5 := by rw [← hm.clen]; exact c1
  obtain ⟨p, hp⟩ : ∃ p, priceM m = p := ⟨_, rfl⟩
  have hpr := price_rng HEL.out
  rw [hp] at hpr
  have CPm : ∀ n : Beyond W6, Calls Try.prog 34 #[.agg m.row] n.x fun e w' => e = .returned (.int .i64 p) ∧ Below n.x.heap.size n.x w' := fun n => by rw [← hp]; exact price_any m n.x (hm6.below n.h) (by have := msgS_le m; omega) p1 c1 p2 c2 (by omega) (by omega)
  have lm := fun n => load_msg hg6 hgl n
  have ln := fun n => load_msg hx6 hxl n
  have z0 : ∀ n : Beyond W6, n.x.cell? ⟨w.heap.size, 0, none⟩ = some (.int .i64 m.kd) := fun n => (msg_cells (cells_of hg6 n.h hgl)).1
  obtain ⟨k3, e3⟩ : ∃ b, (m.kd == 3) = b := ⟨_, rfl⟩
  obtain ⟨kn, en⟩ : ∃ b, mayMsgB m.more = b := ⟨_, rfl⟩
  have CMn : ∀ n : Beyond W6, Calls Try.prog 17 #[.agg m.more.row] n.x fun e w' => e = .returned (.bool kn) ∧ Below n.x.heap.size n.x w' := fun n => by rw [← en]; exact msgMay_any m.more n.x (hn6.below n.h)
  obtain ⟨sn, hsn⟩ : ∃ s, (msgS m.more).size = s := ⟨_, rfl⟩
  have hsnm := msgS_le m.more
  rw [hsn] at hsnm
  have CSn : ∀ n : Beyond W6, Calls Try.prog 26 #[.agg m.more.row] n.x fun e w' => e = .returned (.int .i64 (sn : Nat)) ∧ Below n.x.heap.size n.x w' := fun n => by rw [← hsn]; exact msgSize_any m.more n.x (hn6.below n.h)
  have CPn : kn = true → ∀ n : Beyond W6, Calls Try.prog 34 #[.agg m.more.row] n.x fun e w' => e = .returned (.int .i64 (p + 3 * ((sn : Int) - (s : Int)))) ∧ Below n.x.heap.size n.x w' := fun hk n => by
    have := more_price HEM.out (en.trans hk)
    rw [hp, hsn, HSZ.out] at this
    rw [← this]
    exact price_any m.more n.x (hn6.below n.h) (by have := msgS_le m.more; omega) p1 c1 p2 c2 (show stepsD m.pxs ≤ 1000 by omega) (show stepsD m.cxs ≤ 1000 by omega)
  clear en hsn p1 p2 p3 c1 c2 c3 l2 l3 hn6
  cases k3
  case false =>
    refine wp_region_below (by kernel_rfl) (by kernel_rfl) ?_
    repeat (first | (go_big_quiet_want; refine quiet_load (v := .agg m.more.row) 34 (.tmp 4) rfl (by rfl) (by rintro _ ⟨n, rfl⟩; exact ln n) ?_; simp only [Act.put, List.setIfInBounds_toArray, List.set_cons_succ, List.set_cons_zero]; go_big_quiet_on) | (go_big_quiet_want; refine quiet_load (v := .agg m.row) 34 (.tmp 1) rfl (by rfl) (by rintro _ ⟨n, rfl⟩; exact lm n) ?_; simp only [Act.put, List.setIfInBounds_toArray, List.set_cons_succ, List.set_cons_zero]; go_big_quiet_on) | go_big_quiet_step (first | (go_at_call 17; with_reducible exact quiet_below (CMn _)) | (go_at_call 34; with_reducible exact quiet_below (CPn _)) | (go_at_call 34; with_reducible exact quiet_below (CPm _)) | (go_at_call 26; with_reducible exact quiet_below (CSn _))))
    intro w9 hw9
    have hb := beyond_below hw9
    go_upto_region 10 with fail
    have hg9 := cells_of hg6 hb hgl
    have hgl9 := Nat.lt_of_lt_of_le hgl hb.size
    have hbel9 := hb6.trans (hb.mono hb6.size)
    have hm9 := hm6.below hb
    obtain ⟨a, ha⟩ : ∃ a, stepsD m.pxs = a := ⟨_, rfl⟩
    obtain ⟨b, hb'⟩ : ∃ a, stepsD m.cxs = a := ⟨_, rfl⟩
    have HPS : Hid (1000 + 3 * (s : Int) + 50 * ((a : Int) + (b : Int)) = p) := Lib.hid (by rw [← hp, ← ha, ← hb', ← HSZ.out]; unfold priceM; rw [if_neg (by have := msgS_pos HEM.out; omega)])
    have HP := Lib.hid hp
    obtain ⟨_, l2, l3⟩ := light_msg HEL.out
    obtain ⟨p1, p2, p3⟩ := light_pf l2
    obtain ⟨c1, c2, c3⟩ := light_pf l3
    rw [hm9.plen] at p1
    rw [hm9.clen] at c1
    rw [ha] at p3
    rw [hb'] at c3
    have CPp := fun W (h : Below w9.heap.size w9 W) => price_light m W (hm9.below h) HEL.out
    simp only [hp] at CPp
    have CSa := fun W (h : Below w9.heap.size w9 W) => steps_any m.pct m.pa m.pn m.pc m.pxs W (hm9.below h).p hm.plen p1 p2
    simp only [ha] at CSa
    have CSb := fun W (h : Below w9.heap.size w9 W) => steps_any m.cct m.ca m.cn m.cc m.cxs W (hm9.below h).c hm.clen c1 c2
    simp only [hb'] at CSb
    clear CPm CMn CSn CPn lm ln z0 hp ha hb' p2 c2 l2 l3 hw9 hb hg6 hx6 hxl hm6
    refine wp_region_facts [Fact.eq (.agg m.row), Fact.eq (.int .i64 (p)), Fact.eq (.int .i64 ((s : Int))), Fact.eq (.int .i64 (3 * (s : Int))), Fact.eq (.int .i64 (1000 + 3 * (s : Int))), Fact.eq (.pointer (some ⟨w.heap.size, 46, none⟩)), Fact.eq (.agg #[.int .i64 m.pct, .slice m.pa m.pn m.pc]), Fact.eq (.int .i64 ((a : Int))), Fact.eq (.pointer (some ⟨w.heap.size, 48, none⟩)), Fact.eq (.agg #[.int .i64 m.cct, .slice m.ca m.cn m.cc]), Fact.eq (.int .i64 ((b : Int))), Fact.eq (.int .i64 ((a : Int) + (b : Int))), Fact.eq (.int .i64 (50 * ((a : Int) + (b : Int)))), Fact.eq (.int .i64 (1000 + 3 * (s : Int) + 50 * ((a : Int) + (b : Int)))), Fact.eq (.bool true), Fact.eq (.bool true), Fact.eq (.agg m.row), Fact.eq (.agg m.row), Fact.row (2) (m.cellsL ++ m.cellsL), Fact.eq (.int .i64 (2 * p)), Fact.eq (.agg m.row), Fact.eq (.int .i64 (p)), Fact.eq (.int .i64 (2 * p)), Fact.eq (.bool true), Fact.eq (.bool true), Fact.eq (.bool true), Fact.eq (.int .i64 (0)), Fact.eq (.bool true), Fact.eq (.bool true), Fact.eq (.bool true)] (by kernel_rfl) (by kernel_rfl) (by kernel_rfl) (by kernel_rfl) (fun x => by simp only [fillFrom, Act.put, List.setIfInBounds_toArray, List.set_cons_succ, List.set_cons_zero]; rfl) ?_ ?_
    · refine ⟨?_, ?_, ?_, ?_, ?_, ?_, ?_, ?_, ?_, ?_, ?_, ?_, ?_, ?_, ?_, ?_, ?_, ?_, ?_, ?_, ?_, ?_, ?_, ?_, ?_, ?_, ?_, ?_, ?_, ?_, trivial⟩
      · intro x w' hbw hd
        clear hd
        have hg := cells_of hg9 hbw hgl9
        go_wp2_with (first | (refine wpList_load_mid rfl 34 (.tmp 1) rfl w.heap.size 0 rfl m.row.toList _ (rangeAt_row5 hg) Try.underlying34 rfl (msg_info _) ?_; rw [Array.toArray_toList]))
        exact frPost_mk rfl (by repeat (first | assumption | exact Below.refl _ _ | refine bch ?_ (by assumption) | refine Below.alloc ?_ (by simp) _)) rfl
      · intro x w' hbw hd
        have d0 : x 0 = .agg m.row := hd 0 rfl
        clear hd
        have CC := CPp w' hbw
        go_wp2_with (first | (go_at_call 34; refine (CC).mono ?_; rintro e wx ⟨rfl, hbx⟩))
        exact frPost_mk rfl (by repeat (first | assumption | exact Below.refl _ _ | refine bch ?_ (by assumption) | refine Below.alloc ?_ (by simp) _)) rfl
      · intro x w' hbw hd
        clear hd
        go_wp2_with fail
        exact frPost_mk rfl (by repeat (first | assumption | exact Below.refl _ _ | refine bch ?_ (by assumption) | refine Below.alloc ?_ (by simp) _)) rfl
      · intro x w' hbw hd
        have d2 : x 2 = .int .i64 ((s : Int)) := hd 2 rfl
        clear hd
        go_wp2_with fail
        exact frPost_mk rfl (by repeat (first | assumption | exact Below.refl _ _ | refine bch ?_ (by assumption) | refine Below.alloc ?_ (by simp) _)) rfl
      · intro x w' hbw hd
        have d3 : x 3 = .int .i64 (3 * (s : Int)) := hd 3 rfl
        clear hd
        go_wp2_with fail
        exact frPost_mk rfl (by repeat (first | assumption | exact Below.refl _ _ | refine bch ?_ (by assumption) | refine Below.alloc ?_ (by simp) _)) rfl
      · intro x w' hbw hd
        clear hd
        go_wp2_with fail
        exact frPost_mk rfl (by repeat (first | assumption | exact Below.refl _ _ | refine bch ?_ (by assumption) | refine Below.alloc ?_ (by simp) _)) rfl
      · intro x w' hbw hd
        have d5 : x 5 = .pointer (some ⟨w.heap.size, 46, none⟩) := hd 5 rfl
        clear hd
        have hg := cells_of hg9 hbw hgl9
        obtain ⟨q0, q1, q2, q3, q4, q5, q6, q7, q8, q9, q10, q11, q12, q13, q14, q15, q16, q17⟩ := msg_cells hg
        go_wp2_with fail
        exact frPost_mk rfl (by repeat (first | assumption | exact Below.refl _ _ | refine bch ?_ (by assumption) | refine Below.alloc ?_ (by simp) _)) rfl
      · intro x w' hbw hd
        have d6 : x 6 = .agg #[.int .i64 m.pct, .slice m.pa m.pn m.pc] := hd 6 rfl
        clear hd
        have CC := CSa w' hbw
        go_wp2_with (first | (go_at_call 37; refine (CC).mono ?_; rintro e wx ⟨rfl, hbx⟩))
        exact frPost_mk rfl (by repeat (first | assumption | exact Below.refl _ _ | refine bch ?_ (by assumption) | refine Below.alloc ?_ (by simp) _)) rfl
      · intro x w' hbw hd
        clear hd
        go_wp2_with fail
        exact frPost_mk rfl (by repeat (first | assumption | exact Below.refl _ _ | refine bch ?_ (by assumption) | refine Below.alloc ?_ (by simp) _)) rfl
      · intro x w' hbw hd
        have d8 : x 8 = .pointer (some ⟨w.heap.size, 48, none⟩) := hd 8 rfl
        clear hd
        have hg := cells_of hg9 hbw hgl9
        obtain ⟨q0, q1, q2, q3, q4, q5, q6, q7, q8, q9, q10, q11, q12, q13, q14, q15, q16, q17⟩ := msg_cells hg
        go_wp2_with fail
        exact frPost_mk rfl (by repeat (first | assumption | exact Below.refl _ _ | refine bch ?_ (by assumption) | refine Below.alloc ?_ (by simp) _)) rfl
      · intro x w' hbw hd
        have d9 : x 9 = .agg #[.int .i64 m.cct, .slice m.ca m.cn m.cc] := hd 9 rfl
        clear hd
        have CC := CSb w' hbw
        go_wp2_with (first | (go_at_call 37; refine (CC).mono ?_; rintro e wx ⟨rfl, hbx⟩))
        exact frPost_mk rfl (by repeat (first | assumption | exact Below.refl _ _ | refine bch ?_ (by assumption) | refine Below.alloc ?_ (by simp) _)) rfl
      · intro x w' hbw hd
        have d7 : x 7 = .int .i64 ((a : Int)) := hd 7 rfl
        have d10 : x 10 = .int .i64 ((b : Int)) := hd 10 rfl
        clear hd
        go_wp2_with fail
        exact frPost_mk rfl (by repeat (first | assumption | exact Below.refl _ _ | refine bch ?_ (by assumption) | refine Below.alloc ?_ (by simp) _)) rfl
      · intro x w' hbw hd
        have d11 : x 11 = .int .i64 ((a : Int) + (b : Int)) := hd 11 rfl
        clear hd
        go_wp2_with fail
        exact frPost_mk rfl (by repeat (first | assumption | exact Below.refl _ _ | refine bch ?_ (by assumption) | refine Below.alloc ?_ (by simp) _)) rfl
      · intro x w' hbw hd
        have d4 : x 4 = .int .i64 (1000 + 3 * (s : Int)) := hd 4 rfl
        have d12 : x 12 = .int .i64 (50 * ((a : Int) + (b : Int))) := hd 12 rfl
        clear hd
        go_wp2_with fail
        exact frPost_mk rfl (by repeat (first | assumption | exact Below.refl _ _ | refine bch ?_ (by assumption) | refine Below.alloc ?_ (by simp) _)) rfl
      · intro x w' hbw hd
        have d1 : x 1 = .int .i64 (p) := hd 1 rfl
        have d13 : x 13 = .int .i64 (1000 + 3 * (s : Int) + 50 * ((a : Int) + (b : Int))) := hd 13 rfl
        clear hd
        have hPS := HPS.out
        go_wp2_with fail
        exact frPost_mk rfl (by repeat (first | assumption | exact Below.refl _ _ | refine bch ?_ (by assumption) | refine Below.alloc ?_ (by simp) _)) rfl
      · intro x w' hbw hd
        have d14 : x 14 = .bool true := hd 14 rfl
        clear hd
        go_wp2_with fail
        exact frPost_mk rfl (by repeat (first | assumption | exact Below.refl _ _ | refine bch ?_ (by assumption) | refine Below.alloc ?_ (by simp) _)) rfl
      · intro x w' hbw hd
        have d15 : x 15 = .bool true := hd 15 rfl
        clear hd
        have hg := cells_of hg9 hbw hgl9
        go_wp2_with (first | (refine wpList_load_midG 34 (.tmp 1) rfl w.heap.size 0 rfl m.row.toList _ (rangeAt_row5 hg) Try.underlying34 rfl (msg_info _) (by first | rfl | (simp [Region.wanted, yielded, d15]; done)) ?_; rw [Array.toArray_toList]))
        exact frPost_mk rfl (by repeat (first | assumption | exact Below.refl _ _ | refine bch ?_ (by assumption) | refine Below.alloc ?_ (by simp) _)) rfl
      · intro x w' hbw hd
        have d15 : x 15 = .bool true := hd 15 rfl
        clear hd
        have hg := cells_of hg9 hbw hgl9
        go_wp2_with (first | (refine wpList_load_midG 34 (.tmp 1) rfl w.heap.size 0 rfl m.row.toList _ (rangeAt_row5 hg) Try.underlying34 rfl (msg_info _) (by first | rfl | (simp [Region.wanted, yielded, d15]; done)) ?_; rw [Array.toArray_toList]))
        exact frPost_mk rfl (by repeat (first | assumption | exact Below.refl _ _ | refine bch ?_ (by assumption) | refine Below.alloc ?_ (by simp) _)) rfl
      · intro x w' hbw hd
        have d15 : x 15 = .bool true := hd 15 rfl
        have d16 : x 16 = .agg m.row := hd 16 rfl
        have d17 : x 17 = .agg m.row := hd 17 rfl
        clear hd
        go_wp2_with (first | (refine wpList_slice2 (.tmp 64) (.tmp 65) rfl rfl (by first | exact d16 | (simp [Act.eval]; done)) (by first | exact d17 | (simp [Act.eval]; done)) m.row_size (by first | rfl | (simp [Region.wanted, yielded, d15]; done)) ?_))
        exact frPost_mk rfl (by repeat (first | assumption | exact Below.refl _ _ | refine bch ?_ (by assumption) | refine Below.alloc ?_ (by simp) _)) ⟨_, _, rfl, row_two m _⟩
      · intro x w' hbw hd
        have d15 : x 15 = .bool true := hd 15 rfl
        obtain ⟨a18, cap18, d18, r18⟩ := (show (Fact.row (2) (m.cellsL ++ m.cellsL)).holds (x 18) w' from hd 18 rfl)
        clear hd
        have CC := total_any a18 2 cap18 [m, m] w' (by rw [two_cells]; exact r18) (fun q hq => by simp at hq; rw [hq]; exact hm9.below hbw) (fun q hq => by simp at hq; rw [hq]; exact HEL.out) rfl (by decide)
        rw [sum_two, HP.out] at CC
        go_wp2_with (first | (go_at_call 36; refine (CC).mono ?_; rintro e wx ⟨rfl, hbx⟩))
        exact frPost_mk rfl (by repeat (first | assumption | exact Below.refl _ _ | refine bch ?_ (by assumption) | refine Below.alloc ?_ (by simp) _)) rfl
      · intro x w' hbw hd
        have d15 : x 15 = .bool true := hd 15 rfl
        clear hd
        have hg := cells_of hg9 hbw hgl9
        go_wp2_with (first | (refine wpList_load_midG 34 (.tmp 1) rfl w.heap.size 0 rfl m.row.toList _ (rangeAt_row5 hg) Try.underlying34 rfl (msg_info _) (by first | rfl | (simp [Region.wanted, yielded, d15]; done)) ?_; rw [Array.toArray_toList]))
        exact frPost_mk rfl (by repeat (first | assumption | exact Below.refl _ _ | refine bch ?_ (by assumption) | refine Below.alloc ?_ (by simp) _)) rfl
      · intro x w' hbw hd
        have d15 : x 15 = .bool true := hd 15 rfl
        have d20 : x 20 = .agg m.row := hd 20 rfl
        clear hd
        have CC := CPp w' hbw
        go_wp2_with (first | (go_at_call 34; refine (CC).mono ?_; rintro e wx ⟨rfl, hbx⟩))
        exact frPost_mk rfl (by repeat (first | assumption | exact Below.refl _ _ | refine bch ?_ (by assumption) | refine Below.alloc ?_ (by simp) _)) rfl
      · intro x w' hbw hd
        have d15 : x 15 = .bool true := hd 15 rfl
        have d21 : x 21 = .int .i64 (p) := hd 21 rfl
        clear hd
        go_wp2_with fail
        exact frPost_mk rfl (by repeat (first | assumption | exact Below.refl _ _ | refine bch ?_ (by assumption) | refine Below.alloc ?_ (by simp) _)) rfl
      · intro x w' hbw hd
        have d15 : x 15 = .bool true := hd 15 rfl
        have d19 : x 19 = .int .i64 (2 * p) := hd 19 rfl
        have d22 : x 22 = .int .i64 (2 * p) := hd 22 rfl
        clear hd
        go_wp2_with fail
        exact frPost_mk rfl (by repeat (first | assumption | exact Below.refl _ _ | refine bch ?_ (by assumption) | refine Below.alloc ?_ (by simp) _)) rfl
      · intro x w' hbw hd
        have d15 : x 15 = .bool true := hd 15 rfl
        have d23 : x 23 = .bool true := hd 23 rfl
        clear hd
        go_wp2_with fail
        exact frPost_mk rfl (by repeat (first | assumption | exact Below.refl _ _ | refine bch ?_ (by assumption) | refine Below.alloc ?_ (by simp) _)) rfl
      · intro x w' hbw hd
        have d24 : x 24 = .bool true := hd 24 rfl
        clear hd
        go_wp2_with fail
        exact frPost_mk rfl (by repeat (first | assumption | exact Below.refl _ _ | refine bch ?_ (by assumption) | refine Below.alloc ?_ (by simp) _)) rfl
      · intro x w' hbw hd
        have d25 : x 25 = .bool true := hd 25 rfl
        clear hd
        have CC := total_any none 0 0 [] w' (.inl rfl) (fun q hq => by cases hq) (fun q hq => by cases hq) rfl (by decide)
        rw [show sumP [] = 0 from rfl] at CC
        go_wp2_with (first | (go_at_call 36; refine (CC).mono ?_; rintro e wx ⟨rfl, hbx⟩))
        exact frPost_mk rfl (by repeat (first | assumption | exact Below.refl _ _ | refine bch ?_ (by assumption) | refine Below.alloc ?_ (by simp) _)) rfl
      · intro x w' hbw hd
        have d25 : x 25 = .bool true := hd 25 rfl
        have d26 : x 26 = .int .i64 (0) := hd 26 rfl
        clear hd
        go_wp2_with fail
        exact frPost_mk rfl (by repeat (first | assumption | exact Below.refl _ _ | refine bch ?_ (by assumption) | refine Below.alloc ?_ (by simp) _)) rfl
      · intro x w' hbw hd
        have d25 : x 25 = .bool true := hd 25 rfl
        have d27 : x 27 = .bool true := hd 27 rfl
        clear hd
        go_wp2_with fail
        exact frPost_mk rfl (by repeat (first | assumption | exact Below.refl _ _ | refine bch ?_ (by assumption) | refine Below.alloc ?_ (by simp) _)) rfl
      · intro x w' hbw hd
        have d28 : x 28 = .bool true := hd 28 rfl
        clear hd
        go_wp2_with fail
        exact frPost_mk rfl (by repeat (first | assumption | exact Below.refl _ _ | refine bch ?_ (by assumption) | refine Below.alloc ?_ (by simp) _)) rfl
    intro x w' hbw hd
    have d29 : x 29 = .bool true := hd 29 (by decide)
    go_wp2
    go_ret
    exact ⟨d29 ▸ rfl, hbel9.trans (hbw.mono hbel9.size)⟩
  cases kn
  case false =>
    refine wp_region_below (by kernel_rfl) (by kernel_rfl) ?_
    repeat (first | (go_big_quiet_want; refine quiet_load (v := .agg m.more.row) 34 (.tmp 4) rfl (by rfl) (by rintro _ ⟨n, rfl⟩; exact ln n) ?_; simp only [Act.put, List.setIfInBounds_toArray, List.set_cons_succ, List.set_cons_zero]; go_big_quiet_on) | (go_big_quiet_want; refine quiet_load (v := .agg m.row) 34 (.tmp 1) rfl (by rfl) (by rintro _ ⟨n, rfl⟩; exact lm n) ?_; simp only [Act.put, List.setIfInBounds_toArray, List.set_cons_succ, List.set_cons_zero]; go_big_quiet_on) | go_big_quiet_step (first | (go_at_call 17; with_reducible exact quiet_below (CMn _)) | (go_at_call 34; with_reducible exact quiet_below (CPn _)) | (go_at_call 34; with_reducible exact quiet_below (CPm _)) | (go_at_call 26; with_reducible exact quiet_below (CSn _))))
    intro w9 hw9
    have hb := beyond_below hw9
    go_upto_region 10 with fail
    have hg9 := cells_of hg6 hb hgl
    have hgl9 := Nat.lt_of_lt_of_le hgl hb.size
    have hbel9 := hb6.trans (hb.mono hb6.size)
    have hm9 := hm6.below hb
    obtain ⟨a, ha⟩ : ∃ a, stepsD m.pxs = a := ⟨_, rfl⟩
    obtain ⟨b, hb'⟩ : ∃ a, stepsD m.cxs = a := ⟨_, rfl⟩
    have HPS : Hid (1000 + 3 * (s : Int) + 50 * ((a : Int) + (b : Int)) = p) := Lib.hid (by rw [← hp, ← ha, ← hb', ← HSZ.out]; unfold priceM; rw [if_neg (by have := msgS_pos HEM.out; omega)])
    have HP := Lib.hid hp
    obtain ⟨_, l2, l3⟩ := light_msg HEL.out
    obtain ⟨p1, p2, p3⟩ := light_pf l2
    obtain ⟨c1, c2, c3⟩ := light_pf l3
    rw [hm9.plen] at p1
    rw [hm9.clen] at c1
    rw [ha] at p3
    rw [hb'] at c3
    have CPp := fun W (h : Below w9.heap.size w9 W) => price_light m W (hm9.below h) HEL.out
    simp only [hp] at CPp
    have CSa := fun W (h : Below w9.heap.size w9 W) => steps_any m.pct m.pa m.pn m.pc m.pxs W (hm9.below h).p hm.plen p1 p2
    simp only [ha] at CSa
    have CSb := fun W (h : Below w9.heap.size w9 W) => steps_any m.cct m.ca m.cn m.cc m.cxs W (hm9.below h).c hm.clen c1 c2
    simp only [hb'] at CSb
    clear CPm CMn CSn CPn lm ln z0 hp ha hb' p2 c2 l2 l3 hw9 hb hg6 hx6 hxl hm6
    refine wp_region_facts [Fact.eq (.agg m.row), Fact.eq (.int .i64 (p)), Fact.eq (.int .i64 ((s : Int))), Fact.eq (.int .i64 (3 * (s : Int))), Fact.eq (.int .i64 (1000 + 3 * (s : Int))), Fact.eq (.pointer (some ⟨w.heap.size, 46, none⟩)), Fact.eq (.agg #[.int .i64 m.pct, .slice m.pa m.pn m.pc]), Fact.eq (.int .i64 ((a : Int))), Fact.eq (.pointer (some ⟨w.heap.size, 48, none⟩)), Fact.eq (.agg #[.int .i64 m.cct, .slice m.ca m.cn m.cc]), Fact.eq (.int .i64 ((b : Int))), Fact.eq (.int .i64 ((a : Int) + (b : Int))), Fact.eq (.int .i64 (50 * ((a : Int) + (b : Int)))), Fact.eq (.int .i64 (1000 + 3 * (s : Int) + 50 * ((a : Int) + (b : Int)))), Fact.eq (.bool true), Fact.eq (.bool true), Fact.eq (.agg m.row), Fact.eq (.agg m.row), Fact.row (2) (m.cellsL ++ m.cellsL), Fact.eq (.int .i64 (2 * p)), Fact.eq (.agg m.row), Fact.eq (.int .i64 (p)), Fact.eq (.int .i64 (2 * p)), Fact.eq (.bool true), Fact.eq (.bool true), Fact.eq (.bool true), Fact.eq (.int .i64 (0)), Fact.eq (.bool true), Fact.eq (.bool true), Fact.eq (.bool true)] (by kernel_rfl) (by kernel_rfl) (by kernel_rfl) (by kernel_rfl) (fun x => by simp only [fillFrom, Act.put, List.setIfInBounds_toArray, List.set_cons_succ, List.set_cons_zero]; rfl) ?_ ?_
    · refine ⟨?_, ?_, ?_, ?_, ?_, ?_, ?_, ?_, ?_, ?_, ?_, ?_, ?_, ?_, ?_, ?_, ?_, ?_, ?_, ?_, ?_, ?_, ?_, ?_, ?_, ?_, ?_, ?_, ?_, ?_, trivial⟩
      · intro x w' hbw hd
        clear hd
        have hg := cells_of hg9 hbw hgl9
        go_wp2_with (first | (refine wpList_load_mid rfl 34 (.tmp 1) rfl w.heap.size 0 rfl m.row.toList _ (rangeAt_row5 hg) Try.underlying34 rfl (msg_info _) ?_; rw [Array.toArray_toList]))
        exact frPost_mk rfl (by repeat (first | assumption | exact Below.refl _ _ | refine bch ?_ (by assumption) | refine Below.alloc ?_ (by simp) _)) rfl
      · intro x w' hbw hd
        have d0 : x 0 = .agg m.row := hd 0 rfl
        clear hd
        have CC := CPp w' hbw
        go_wp2_with (first | (go_at_call 34; refine (CC).mono ?_; rintro e wx ⟨rfl, hbx⟩))
        exact frPost_mk rfl (by repeat (first | assumption | exact Below.refl _ _ | refine bch ?_ (by assumption) | refine Below.alloc ?_ (by simp) _)) rfl
      · intro x w' hbw hd
        clear hd
        go_wp2_with fail
        exact frPost_mk rfl (by repeat (first | assumption | exact Below.refl _ _ | refine bch ?_ (by assumption) | refine Below.alloc ?_ (by simp) _)) rfl
      · intro x w' hbw hd
        have d2 : x 2 = .int .i64 ((s : Int)) := hd 2 rfl
        clear hd
        go_wp2_with fail
        exact frPost_mk rfl (by repeat (first | assumption | exact Below.refl _ _ | refine bch ?_ (by assumption) | refine Below.alloc ?_ (by simp) _)) rfl
      · intro x w' hbw hd
        have d3 : x 3 = .int .i64 (3 * (s : Int)) := hd 3 rfl
        clear hd
        go_wp2_with fail
        exact frPost_mk rfl (by repeat (first | assumption | exact Below.refl _ _ | refine bch ?_ (by assumption) | refine Below.alloc ?_ (by simp) _)) rfl
      · intro x w' hbw hd
        clear hd
        go_wp2_with fail
        exact frPost_mk rfl (by repeat (first | assumption | exact Below.refl _ _ | refine bch ?_ (by assumption) | refine Below.alloc ?_ (by simp) _)) rfl
      · intro x w' hbw hd
        have d5 : x 5 = .pointer (some ⟨w.heap.size, 46, none⟩) := hd 5 rfl
        clear hd
        have hg := cells_of hg9 hbw hgl9
        obtain ⟨q0, q1, q2, q3, q4, q5, q6, q7, q8, q9, q10, q11, q12, q13, q14, q15, q16, q17⟩ := msg_cells hg
        go_wp2_with fail
        exact frPost_mk rfl (by repeat (first | assumption | exact Below.refl _ _ | refine bch ?_ (by assumption) | refine Below.alloc ?_ (by simp) _)) rfl
      · intro x w' hbw hd
        have d6 : x 6 = .agg #[.int .i64 m.pct, .slice m.pa m.pn m.pc] := hd 6 rfl
        clear hd
        have CC := CSa w' hbw
        go_wp2_with (first | (go_at_call 37; refine (CC).mono ?_; rintro e wx ⟨rfl, hbx⟩))
        exact frPost_mk rfl (by repeat (first | assumption | exact Below.refl _ _ | refine bch ?_ (by assumption) | refine Below.alloc ?_ (by simp) _)) rfl
      · intro x w' hbw hd
        clear hd
        go_wp2_with fail
        exact frPost_mk rfl (by repeat (first | assumption | exact Below.refl _ _ | refine bch ?_ (by assumption) | refine Below.alloc ?_ (by simp) _)) rfl
      · intro x w' hbw hd
        have d8 : x 8 = .pointer (some ⟨w.heap.size, 48, none⟩) := hd 8 rfl
        clear hd
        have hg := cells_of hg9 hbw hgl9
        obtain ⟨q0, q1, q2, q3, q4, q5, q6, q7, q8, q9, q10, q11, q12, q13, q14, q15, q16, q17⟩ := msg_cells hg
        go_wp2_with fail
        exact frPost_mk rfl (by repeat (first | assumption | exact Below.refl _ _ | refine bch ?_ (by assumption) | refine Below.alloc ?_ (by simp) _)) rfl
      · intro x w' hbw hd
        have d9 : x 9 = .agg #[.int .i64 m.cct, .slice m.ca m.cn m.cc] := hd 9 rfl
        clear hd
        have CC := CSb w' hbw
        go_wp2_with (first | (go_at_call 37; refine (CC).mono ?_; rintro e wx ⟨rfl, hbx⟩))
        exact frPost_mk rfl (by repeat (first | assumption | exact Below.refl _ _ | refine bch ?_ (by assumption) | refine Below.alloc ?_ (by simp) _)) rfl
      · intro x w' hbw hd
        have d7 : x 7 = .int .i64 ((a : Int)) := hd 7 rfl
        have d10 : x 10 = .int .i64 ((b : Int)) := hd 10 rfl
        clear hd
        go_wp2_with fail
        exact frPost_mk rfl (by repeat (first | assumption | exact Below.refl _ _ | refine bch ?_ (by assumption) | refine Below.alloc ?_ (by simp) _)) rfl
      · intro x w' hbw hd
        have d11 : x 11 = .int .i64 ((a : Int) + (b : Int)) := hd 11 rfl
        clear hd
        go_wp2_with fail
        exact frPost_mk rfl (by repeat (first | assumption | exact Below.refl _ _ | refine bch ?_ (by assumption) | refine Below.alloc ?_ (by simp) _)) rfl
      · intro x w' hbw hd
        have d4 : x 4 = .int .i64 (1000 + 3 * (s : Int)) := hd 4 rfl
        have d12 : x 12 = .int .i64 (50 * ((a : Int) + (b : Int))) := hd 12 rfl
        clear hd
        go_wp2_with fail
        exact frPost_mk rfl (by repeat (first | assumption | exact Below.refl _ _ | refine bch ?_ (by assumption) | refine Below.alloc ?_ (by simp) _)) rfl
      · intro x w' hbw hd
        have d1 : x 1 = .int .i64 (p) := hd 1 rfl
        have d13 : x 13 = .int .i64 (1000 + 3 * (s : Int) + 50 * ((a : Int) + (b : Int))) := hd 13 rfl
        clear hd
        have hPS := HPS.out
        go_wp2_with fail
        exact frPost_mk rfl (by repeat (first | assumption | exact Below.refl _ _ | refine bch ?_ (by assumption) | refine Below.alloc ?_ (by simp) _)) rfl
      · intro x w' hbw hd
        have d14 : x 14 = .bool true := hd 14 rfl
        clear hd
        go_wp2_with fail
        exact frPost_mk rfl (by repeat (first | assumption | exact Below.refl _ _ | refine bch ?_ (by assumption) | refine Below.alloc ?_ (by simp) _)) rfl
      · intro x w' hbw hd
        have d15 : x 15 = .bool true := hd 15 rfl
        clear hd
        have hg := cells_of hg9 hbw hgl9
        go_wp2_with (first | (refine wpList_load_midG 34 (.tmp 1) rfl w.heap.size 0 rfl m.row.toList _ (rangeAt_row5 hg) Try.underlying34 rfl (msg_info _) (by first | rfl | (simp [Region.wanted, yielded, d15]; done)) ?_; rw [Array.toArray_toList]))
        exact frPost_mk rfl (by repeat (first | assumption | exact Below.refl _ _ | refine bch ?_ (by assumption) | refine Below.alloc ?_ (by simp) _)) rfl
      · intro x w' hbw hd
        have d15 : x 15 = .bool true := hd 15 rfl
        clear hd
        have hg := cells_of hg9 hbw hgl9
        go_wp2_with (first | (refine wpList_load_midG 34 (.tmp 1) rfl w.heap.size 0 rfl m.row.toList _ (rangeAt_row5 hg) Try.underlying34 rfl (msg_info _) (by first | rfl | (simp [Region.wanted, yielded, d15]; done)) ?_; rw [Array.toArray_toList]))
        exact frPost_mk rfl (by repeat (first | assumption | exact Below.refl _ _ | refine bch ?_ (by assumption) | refine Below.alloc ?_ (by simp) _)) rfl
      · intro x w' hbw hd
        have d15 : x 15 = .bool true := hd 15 rfl
        have d16 : x 16 = .agg m.row := hd 16 rfl
        have d17 : x 17 = .agg m.row := hd 17 rfl
        clear hd
        go_wp2_with (first | (refine wpList_slice2 (.tmp 64) (.tmp 65) rfl rfl (by first | exact d16 | (simp [Act.eval]; done)) (by first | exact d17 | (simp [Act.eval]; done)) m.row_size (by first | rfl | (simp [Region.wanted, yielded, d15]; done)) ?_))
        exact frPost_mk rfl (by repeat (first | assumption | exact Below.refl _ _ | refine bch ?_ (by assumption) | refine Below.alloc ?_ (by simp) _)) ⟨_, _, rfl, row_two m _⟩
      · intro x w' hbw hd
        have d15 : x 15 = .bool true := hd 15 rfl
        obtain ⟨a18, cap18, d18, r18⟩ := (show (Fact.row (2) (m.cellsL ++ m.cellsL)).holds (x 18) w' from hd 18 rfl)
        clear hd
        have CC := total_any a18 2 cap18 [m, m] w' (by rw [two_cells]; exact r18) (fun q hq => by simp at hq; rw [hq]; exact hm9.below hbw) (fun q hq => by simp at hq; rw [hq]; exact HEL.out) rfl (by decide)
        rw [sum_two, HP.out] at CC
        go_wp2_with (first | (go_at_call 36; refine (CC).mono ?_; rintro e wx ⟨rfl, hbx⟩))
        exact frPost_mk rfl (by repeat (first | assumption | exact Below.refl _ _ | refine bch ?_ (by assumption) | refine Below.alloc ?_ (by simp) _)) rfl
      · intro x w' hbw hd
        have d15 : x 15 = .bool true := hd 15 rfl
        clear hd
        have hg := cells_of hg9 hbw hgl9
        go_wp2_with (first | (refine wpList_load_midG 34 (.tmp 1) rfl w.heap.size 0 rfl m.row.toList _ (rangeAt_row5 hg) Try.underlying34 rfl (msg_info _) (by first | rfl | (simp [Region.wanted, yielded, d15]; done)) ?_; rw [Array.toArray_toList]))
        exact frPost_mk rfl (by repeat (first | assumption | exact Below.refl _ _ | refine bch ?_ (by assumption) | refine Below.alloc ?_ (by simp) _)) rfl
      · intro x w' hbw hd
        have d15 : x 15 = .bool true := hd 15 rfl
        have d20 : x 20 = .agg m.row := hd 20 rfl
        clear hd
        have CC := CPp w' hbw
        go_wp2_with (first | (go_at_call 34; refine (CC).mono ?_; rintro e wx ⟨rfl, hbx⟩))
        exact frPost_mk rfl (by repeat (first | assumption | exact Below.refl _ _ | refine bch ?_ (by assumption) | refine Below.alloc ?_ (by simp) _)) rfl
      · intro x w' hbw hd
        have d15 : x 15 = .bool true := hd 15 rfl
        have d21 : x 21 = .int .i64 (p) := hd 21 rfl
        clear hd
        go_wp2_with fail
        exact frPost_mk rfl (by repeat (first | assumption | exact Below.refl _ _ | refine bch ?_ (by assumption) | refine Below.alloc ?_ (by simp) _)) rfl
      · intro x w' hbw hd
        have d15 : x 15 = .bool true := hd 15 rfl
        have d19 : x 19 = .int .i64 (2 * p) := hd 19 rfl
        have d22 : x 22 = .int .i64 (2 * p) := hd 22 rfl
        clear hd
        go_wp2_with fail
        exact frPost_mk rfl (by repeat (first | assumption | exact Below.refl _ _ | refine bch ?_ (by assumption) | refine Below.alloc ?_ (by simp) _)) rfl
      · intro x w' hbw hd
        have d15 : x 15 = .bool true := hd 15 rfl
        have d23 : x 23 = .bool true := hd 23 rfl
        clear hd
        go_wp2_with fail
        exact frPost_mk rfl (by repeat (first | assumption | exact Below.refl _ _ | refine bch ?_ (by assumption) | refine Below.alloc ?_ (by simp) _)) rfl
      · intro x w' hbw hd
        have d24 : x 24 = .bool true := hd 24 rfl
        clear hd
        go_wp2_with fail
        exact frPost_mk rfl (by repeat (first | assumption | exact Below.refl _ _ | refine bch ?_ (by assumption) | refine Below.alloc ?_ (by simp) _)) rfl
      · intro x w' hbw hd
        have d25 : x 25 = .bool true := hd 25 rfl
        clear hd
        have CC := total_any none 0 0 [] w' (.inl rfl) (fun q hq => by cases hq) (fun q hq => by cases hq) rfl (by decide)
        rw [show sumP [] = 0 from rfl] at CC
        go_wp2_with (first | (go_at_call 36; refine (CC).mono ?_; rintro e wx ⟨rfl, hbx⟩))
        exact frPost_mk rfl (by repeat (first | assumption | exact Below.refl _ _ | refine bch ?_ (by assumption) | refine Below.alloc ?_ (by simp) _)) rfl
      · intro x w' hbw hd
        have d25 : x 25 = .bool true := hd 25 rfl
        have d26 : x 26 = .int .i64 (0) := hd 26 rfl
        clear hd
        go_wp2_with fail
        exact frPost_mk rfl (by repeat (first | assumption | exact Below.refl _ _ | refine bch ?_ (by assumption) | refine Below.alloc ?_ (by simp) _)) rfl
      · intro x w' hbw hd
        have d25 : x 25 = .bool true := hd 25 rfl
        have d27 : x 27 = .bool true := hd 27 rfl
        clear hd
        go_wp2_with fail
        exact frPost_mk rfl (by repeat (first | assumption | exact Below.refl _ _ | refine bch ?_ (by assumption) | refine Below.alloc ?_ (by simp) _)) rfl
      · intro x w' hbw hd
        have d28 : x 28 = .bool true := hd 28 rfl
        clear hd
        go_wp2_with fail
        exact frPost_mk rfl (by repeat (first | assumption | exact Below.refl _ _ | refine bch ?_ (by assumption) | refine Below.alloc ?_ (by simp) _)) rfl
    intro x w' hbw hd
    have d29 : x 29 = .bool true := hd 29 (by decide)
    go_wp2
    go_ret
    exact ⟨d29 ▸ rfl, hbel9.trans (hbw.mono hbel9.size)⟩
  have CPn := CPn rfl
  refine wp_region_below (by kernel_rfl) (by kernel_rfl) ?_
  repeat (first | (go_big_quiet_want; refine quiet_load (v := .agg m.more.row) 34 (.tmp 4) rfl (by rfl) (by rintro _ ⟨n, rfl⟩; exact ln n) ?_; simp only [Act.put, List.setIfInBounds_toArray, List.set_cons_succ, List.set_cons_zero]; go_big_quiet_on) | (go_big_quiet_want; refine quiet_load (v := .agg m.row) 34 (.tmp 1) rfl (by rfl) (by rintro _ ⟨n, rfl⟩; exact lm n) ?_; simp only [Act.put, List.setIfInBounds_toArray, List.set_cons_succ, List.set_cons_zero]; go_big_quiet_on) | go_big_quiet_step (first | (go_at_call 17; with_reducible exact quiet_below (CMn _)) | (go_at_call 34; with_reducible exact quiet_below (CPn _)) | (go_at_call 34; with_reducible exact quiet_below (CPm _)) | (go_at_call 26; with_reducible exact quiet_below (CSn _))))
  intro w9 hw9
  have hb := beyond_below hw9
  go_upto_region 10 with fail
  have hg9 := cells_of hg6 hb hgl
  have hgl9 := Nat.lt_of_lt_of_le hgl hb.size
  have hbel9 := hb6.trans (hb.mono hb6.size)
  have hm9 := hm6.below hb
  obtain ⟨a, ha⟩ : ∃ a, stepsD m.pxs = a := ⟨_, rfl⟩
  obtain ⟨b, hb'⟩ : ∃ a, stepsD m.cxs = a := ⟨_, rfl⟩
  have HPS : Hid (1000 + 3 * (s : Int) + 50 * ((a : Int) + (b : Int)) = p) := Lib.hid (by rw [← hp, ← ha, ← hb', ← HSZ.out]; unfold priceM; rw [if_neg (by have := msgS_pos HEM.out; omega)])
  have HP := Lib.hid hp
  obtain ⟨_, l2, l3⟩ := light_msg HEL.out
  obtain ⟨p1, p2, p3⟩ := light_pf l2
  obtain ⟨c1, c2, c3⟩ := light_pf l3
  rw [hm9.plen] at p1
  rw [hm9.clen] at c1
  rw [ha] at p3
  rw [hb'] at c3
  have CPp := fun W (h : Below w9.heap.size w9 W) => price_light m W (hm9.below h) HEL.out
  simp only [hp] at CPp
  have CSa := fun W (h : Below w9.heap.size w9 W) => steps_any m.pct m.pa m.pn m.pc m.pxs W (hm9.below h).p hm.plen p1 p2
  simp only [ha] at CSa
  have CSb := fun W (h : Below w9.heap.size w9 W) => steps_any m.cct m.ca m.cn m.cc m.cxs W (hm9.below h).c hm.clen c1 c2
  simp only [hb'] at CSb
  clear CPm CMn CSn CPn lm ln z0 hp ha hb' p2 c2 l2 l3 hw9 hb hg6 hx6 hxl hm6
  refine wp_region_facts [Fact.eq (.agg m.row), Fact.eq (.int .i64 (p)), Fact.eq (.int .i64 ((s : Int))), Fact.eq (.int .i64 (3 * (s : Int))), Fact.eq (.int .i64 (1000 + 3 * (s : Int))), Fact.eq (.pointer (some ⟨w.heap.size, 46, none⟩)), Fact.eq (.agg #[.int .i64 m.pct, .slice m.pa m.pn m.pc]), Fact.eq (.int .i64 ((a : Int))), Fact.eq (.pointer (some ⟨w.heap.size, 48, none⟩)), Fact.eq (.agg #[.int .i64 m.cct, .slice m.ca m.cn m.cc]), Fact.eq (.int .i64 ((b : Int))), Fact.eq (.int .i64 ((a : Int) + (b : Int))), Fact.eq (.int .i64 (50 * ((a : Int) + (b : Int)))), Fact.eq (.int .i64 (1000 + 3 * (s : Int) + 50 * ((a : Int) + (b : Int)))), Fact.eq (.bool true), Fact.eq (.bool true), Fact.eq (.agg m.row), Fact.eq (.agg m.row), Fact.row (2) (m.cellsL ++ m.cellsL), Fact.eq (.int .i64 (2 * p)), Fact.eq (.agg m.row), Fact.eq (.int .i64 (p)), Fact.eq (.int .i64 (2 * p)), Fact.eq (.bool true), Fact.eq (.bool true), Fact.eq (.bool true), Fact.eq (.int .i64 (0)), Fact.eq (.bool true), Fact.eq (.bool true), Fact.eq (.bool true)] (by kernel_rfl) (by kernel_rfl) (by kernel_rfl) (by kernel_rfl) (fun x => by simp only [fillFrom, Act.put, List.setIfInBounds_toArray, List.set_cons_succ, List.set_cons_zero]; rfl) ?_ ?_
  · refine ⟨?_, ?_, ?_, ?_, ?_, ?_, ?_, ?_, ?_, ?_, ?_, ?_, ?_, ?_, ?_, ?_, ?_, ?_, ?_, ?_, ?_, ?_, ?_, ?_, ?_, ?_, ?_, ?_, ?_, ?_, trivial⟩
    · intro x w' hbw hd
      clear hd
      have hg := cells_of hg9 hbw hgl9
      go_wp2_with (first | (refine wpList_load_mid rfl 34 (.tmp 1) rfl w.heap.size 0 rfl m.row.toList _ (rangeAt_row5 hg) Try.underlying34 rfl (msg_info _) ?_; rw [Array.toArray_toList]))
      exact frPost_mk rfl (by repeat (first | assumption | exact Below.refl _ _ | refine bch ?_ (by assumption) | refine Below.alloc ?_ (by simp) _)) rfl
    · intro x w' hbw hd
      have d0 : x 0 = .agg m.row := hd 0 rfl
      clear hd
      have CC := CPp w' hbw
      go_wp2_with (first | (go_at_call 34; refine (CC).mono ?_; rintro e wx ⟨rfl, hbx⟩))
      exact frPost_mk rfl (by repeat (first | assumption | exact Below.refl _ _ | refine bch ?_ (by assumption) | refine Below.alloc ?_ (by simp) _)) rfl
    · intro x w' hbw hd
      clear hd
      go_wp2_with fail
      exact frPost_mk rfl (by repeat (first | assumption | exact Below.refl _ _ | refine bch ?_ (by assumption) | refine Below.alloc ?_ (by simp) _)) rfl
    · intro x w' hbw hd
      have d2 : x 2 = .int .i64 ((s : Int)) := hd 2 rfl
      clear hd
      go_wp2_with fail
      exact frPost_mk rfl (by repeat (first | assumption | exact Below.refl _ _ | refine bch ?_ (by assumption) | refine Below.alloc ?_ (by simp) _)) rfl
    · intro x w' hbw hd
      have d3 : x 3 = .int .i64 (3 * (s : Int)) := hd 3 rfl
      clear hd
      go_wp2_with fail
      exact frPost_mk rfl (by repeat (first | assumption | exact Below.refl _ _ | refine bch ?_ (by assumption) | refine Below.alloc ?_ (by simp) _)) rfl
    · intro x w' hbw hd
      clear hd
      go_wp2_with fail
      exact frPost_mk rfl (by repeat (first | assumption | exact Below.refl _ _ | refine bch ?_ (by assumption) | refine Below.alloc ?_ (by simp) _)) rfl
    · intro x w' hbw hd
      have d5 : x 5 = .pointer (some ⟨w.heap.size, 46, none⟩) := hd 5 rfl
      clear hd
      have hg := cells_of hg9 hbw hgl9
      obtain ⟨q0, q1, q2, q3, q4, q5, q6, q7, q8, q9, q10, q11, q12, q13, q14, q15, q16, q17⟩ := msg_cells hg
      go_wp2_with fail
      exact frPost_mk rfl (by repeat (first | assumption | exact Below.refl _ _ | refine bch ?_ (by assumption) | refine Below.alloc ?_ (by simp) _)) rfl
    · intro x w' hbw hd
      have d6 : x 6 = .agg #[.int .i64 m.pct, .slice m.pa m.pn m.pc] := hd 6 rfl
      clear hd
      have CC := CSa w' hbw
      go_wp2_with (first | (go_at_call 37; refine (CC).mono ?_; rintro e wx ⟨rfl, hbx⟩))
      exact frPost_mk rfl (by repeat (first | assumption | exact Below.refl _ _ | refine bch ?_ (by assumption) | refine Below.alloc ?_ (by simp) _)) rfl
    · intro x w' hbw hd
      clear hd
      go_wp2_with fail
      exact frPost_mk rfl (by repeat (first | assumption | exact Below.refl _ _ | refine bch ?_ (by assumption) | refine Below.alloc ?_ (by simp) _)) rfl
    · intro x w' hbw hd
      have d8 : x 8 = .pointer (some ⟨w.heap.size, 48, none⟩) := hd 8 rfl
      clear hd
      have hg := cells_of hg9 hbw hgl9
      obtain ⟨q0, q1, q2, q3, q4, q5, q6, q7, q8, q9, q10, q11, q12, q13, q14, q15, q16, q17⟩ := msg_cells hg
      go_wp2_with fail
      exact frPost_mk rfl (by repeat (first | assumption | exact Below.refl _ _ | refine bch ?_ (by assumption) | refine Below.alloc ?_ (by simp) _)) rfl
    · intro x w' hbw hd
      have d9 : x 9 = .agg #[.int .i64 m.cct, .slice m.ca m.cn m.cc] := hd 9 rfl
      clear hd
      have CC := CSb w' hbw
      go_wp2_with (first | (go_at_call 37; refine (CC).mono ?_; rintro e wx ⟨rfl, hbx⟩))
      exact frPost_mk rfl (by repeat (first | assumption | exact Below.refl _ _ | refine bch ?_ (by assumption) | refine Below.alloc ?_ (by simp) _)) rfl
    · intro x w' hbw hd
      have d7 : x 7 = .int .i64 ((a : Int)) := hd 7 rfl
      have d10 : x 10 = .int .i64 ((b : Int)) := hd 10 rfl
      clear hd
      go_wp2_with fail
      exact frPost_mk rfl (by repeat (first | assumption | exact Below.refl _ _ | refine bch ?_ (by assumption) | refine Below.alloc ?_ (by simp) _)) rfl
    · intro x w' hbw hd
      have d11 : x 11 = .int .i64 ((a : Int) + (b : Int)) := hd 11 rfl
      clear hd
      go_wp2_with fail
      exact frPost_mk rfl (by repeat (first | assumption | exact Below.refl _ _ | refine bch ?_ (by assumption) | refine Below.alloc ?_ (by simp) _)) rfl
    · intro x w' hbw hd
      have d4 : x 4 = .int .i64 (1000 + 3 * (s : Int)) := hd 4 rfl
      have d12 : x 12 = .int .i64 (50 * ((a : Int) + (b : Int))) := hd 12 rfl
      clear hd
      go_wp2_with fail
      exact frPost_mk rfl (by repeat (first | assumption | exact Below.refl _ _ | refine bch ?_ (by assumption) | refine Below.alloc ?_ (by simp) _)) rfl
    · intro x w' hbw hd
      have d1 : x 1 = .int .i64 (p) := hd 1 rfl
      have d13 : x 13 = .int .i64 (1000 + 3 * (s : Int) + 50 * ((a : Int) + (b : Int))) := hd 13 rfl
      clear hd
      have hPS := HPS.out
      go_wp2_with fail
      exact frPost_mk rfl (by repeat (first | assumption | exact Below.refl _ _ | refine bch ?_ (by assumption) | refine Below.alloc ?_ (by simp) _)) rfl
    · intro x w' hbw hd
      have d14 : x 14 = .bool true := hd 14 rfl
      clear hd
      go_wp2_with fail
      exact frPost_mk rfl (by repeat (first | assumption | exact Below.refl _ _ | refine bch ?_ (by assumption) | refine Below.alloc ?_ (by simp) _)) rfl
    · intro x w' hbw hd
      have d15 : x 15 = .bool true := hd 15 rfl
      clear hd
      have hg := cells_of hg9 hbw hgl9
      go_wp2_with (first | (refine wpList_load_midG 34 (.tmp 1) rfl w.heap.size 0 rfl m.row.toList _ (rangeAt_row5 hg) Try.underlying34 rfl (msg_info _) (by first | rfl | (simp [Region.wanted, yielded, d15]; done)) ?_; rw [Array.toArray_toList]))
      exact frPost_mk rfl (by repeat (first | assumption | exact Below.refl _ _ | refine bch ?_ (by assumption) | refine Below.alloc ?_ (by simp) _)) rfl
    · intro x w' hbw hd
      have d15 : x 15 = .bool true := hd 15 rfl
      clear hd
      have hg := cells_of hg9 hbw hgl9
      go_wp2_with (first | (refine wpList_load_midG 34 (.tmp 1) rfl w.heap.size 0 rfl m.row.toList _ (rangeAt_row5 hg) Try.underlying34 rfl (msg_info _) (by first | rfl | (simp [Region.wanted, yielded, d15]; done)) ?_; rw [Array.toArray_toList]))
      exact frPost_mk rfl (by repeat (first | assumption | exact Below.refl _ _ | refine bch ?_ (by assumption) | refine Below.alloc ?_ (by simp) _)) rfl
    · intro x w' hbw hd
      have d15 : x 15 = .bool true := hd 15 rfl
      have d16 : x 16 = .agg m.row := hd 16 rfl
      have d17 : x 17 = .agg m.row := hd 17 rfl
      clear hd
      go_wp2_with (first | (refine wpList_slice2 (.tmp 64) (.tmp 65) rfl rfl (by first | exact d16 | (simp [Act.eval]; done)) (by first | exact d17 | (simp [Act.eval]; done)) m.row_size (by first | rfl | (simp [Region.wanted, yielded, d15]; done)) ?_))
      exact frPost_mk rfl (by repeat (first | assumption | exact Below.refl _ _ | refine bch ?_ (by assumption) | refine Below.alloc ?_ (by simp) _)) ⟨_, _, rfl, row_two m _⟩
    · intro x w' hbw hd
      have d15 : x 15 = .bool true := hd 15 rfl
      obtain ⟨a18, cap18, d18, r18⟩ := (show (Fact.row (2) (m.cellsL ++ m.cellsL)).holds (x 18) w' from hd 18 rfl)
      clear hd
      have CC := total_any a18 2 cap18 [m, m] w' (by rw [two_cells]; exact r18) (fun q hq => by simp at hq; rw [hq]; exact hm9.below hbw) (fun q hq => by simp at hq; rw [hq]; exact HEL.out) rfl (by decide)
      rw [sum_two, HP.out] at CC
      go_wp2_with (first | (go_at_call 36; refine (CC).mono ?_; rintro e wx ⟨rfl, hbx⟩))
      exact frPost_mk rfl (by repeat (first | assumption | exact Below.refl _ _ | refine bch ?_ (by assumption) | refine Below.alloc ?_ (by simp) _)) rfl
    · intro x w' hbw hd
      have d15 : x 15 = .bool true := hd 15 rfl
      clear hd
      have hg := cells_of hg9 hbw hgl9
      go_wp2_with (first | (refine wpList_load_midG 34 (.tmp 1) rfl w.heap.size 0 rfl m.row.toList _ (rangeAt_row5 hg) Try.underlying34 rfl (msg_info _) (by first | rfl | (simp [Region.wanted, yielded, d15]; done)) ?_; rw [Array.toArray_toList]))
      exact frPost_mk rfl (by repeat (first | assumption | exact Below.refl _ _ | refine bch ?_ (by assumption) | refine Below.alloc ?_ (by simp) _)) rfl
    · intro x w' hbw hd
      have d15 : x 15 = .bool true := hd 15 rfl
      have d20 : x 20 = .agg m.row := hd 20 rfl
      clear hd
      have CC := CPp w' hbw
      go_wp2_with (first | (go_at_call 34; refine (CC).mono ?_; rintro e wx ⟨rfl, hbx⟩))
      exact frPost_mk rfl (by repeat (first | assumption | exact Below.refl _ _ | refine bch ?_ (by assumption) | refine Below.alloc ?_ (by simp) _)) rfl
    · intro x w' hbw hd
      have d15 : x 15 = .bool true := hd 15 rfl
      have d21 : x 21 = .int .i64 (p) := hd 21 rfl
      clear hd
      go_wp2_with fail
      exact frPost_mk rfl (by repeat (first | assumption | exact Below.refl _ _ | refine bch ?_ (by assumption) | refine Below.alloc ?_ (by simp) _)) rfl
    · intro x w' hbw hd
      have d15 : x 15 = .bool true := hd 15 rfl
      have d19 : x 19 = .int .i64 (2 * p) := hd 19 rfl
      have d22 : x 22 = .int .i64 (2 * p) := hd 22 rfl
      clear hd
      go_wp2_with fail
      exact frPost_mk rfl (by repeat (first | assumption | exact Below.refl _ _ | refine bch ?_ (by assumption) | refine Below.alloc ?_ (by simp) _)) rfl
    · intro x w' hbw hd
      have d15 : x 15 = .bool true := hd 15 rfl
      have d23 : x 23 = .bool true := hd 23 rfl
      clear hd
      go_wp2_with fail
      exact frPost_mk rfl (by repeat (first | assumption | exact Below.refl _ _ | refine bch ?_ (by assumption) | refine Below.alloc ?_ (by simp) _)) rfl
    · intro x w' hbw hd
      have d24 : x 24 = .bool true := hd 24 rfl
      clear hd
      go_wp2_with fail
      exact frPost_mk rfl (by repeat (first | assumption | exact Below.refl _ _ | refine bch ?_ (by assumption) | refine Below.alloc ?_ (by simp) _)) rfl
    · intro x w' hbw hd
      have d25 : x 25 = .bool true := hd 25 rfl
      clear hd
      have CC := total_any none 0 0 [] w' (.inl rfl) (fun q hq => by cases hq) (fun q hq => by cases hq) rfl (by decide)
      rw [show sumP [] = 0 from rfl] at CC
      go_wp2_with (first | (go_at_call 36; refine (CC).mono ?_; rintro e wx ⟨rfl, hbx⟩))
      exact frPost_mk rfl (by repeat (first | assumption | exact Below.refl _ _ | refine bch ?_ (by assumption) | refine Below.alloc ?_ (by simp) _)) rfl
    · intro x w' hbw hd
      have d25 : x 25 = .bool true := hd 25 rfl
      have d26 : x 26 = .int .i64 (0) := hd 26 rfl
      clear hd
      go_wp2_with fail
      exact frPost_mk rfl (by repeat (first | assumption | exact Below.refl _ _ | refine bch ?_ (by assumption) | refine Below.alloc ?_ (by simp) _)) rfl
    · intro x w' hbw hd
      have d25 : x 25 = .bool true := hd 25 rfl
      have d27 : x 27 = .bool true := hd 27 rfl
      clear hd
      go_wp2_with fail
      exact frPost_mk rfl (by repeat (first | assumption | exact Below.refl _ _ | refine bch ?_ (by assumption) | refine Below.alloc ?_ (by simp) _)) rfl
    · intro x w' hbw hd
      have d28 : x 28 = .bool true := hd 28 rfl
      clear hd
      go_wp2_with fail
      exact frPost_mk rfl (by repeat (first | assumption | exact Below.refl _ _ | refine bch ?_ (by assumption) | refine Below.alloc ?_ (by simp) _)) rfl
  intro x w' hbw hd
  have d29 : x 29 = .bool true := hd 29 (by decide)
  go_wp2
  go_ret
  exact ⟨d29 ▸ rfl, hbel9.trans (hbw.mono hbel9.size)⟩
end Go.Proofs.Ythipnkbfdkmhaaa
