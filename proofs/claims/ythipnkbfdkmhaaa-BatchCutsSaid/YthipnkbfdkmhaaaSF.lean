/- Cutting messages into transactions: whole. ligkeep.Ints; the chapter's example of cuts. The chapter's example of cuts. Lists of messages made anew (ligref22.with, with1). -/
import Derived.Test.YthipnkbfdkmhaaaBt4
import Derived.WalkKit
import Derived.ProofKit
import Derived.Handy
import Derived.Below
import Derived.Lib.Hide
import Derived.IntWalk
import Derived.Outline
import Derived.WalkLawsBesides
import Derived.WalkSpells
import Derived.Test.YthipnkbfdkmhaaaBt2
import Derived.BigRegion
import Derived.RegionTactic
import Derived.BigQuiet
import Derived.Deep.QuietTactic
import Derived.Deep.MidRow
import Derived.LoopTactic
import Derived.BigFrame
import Derived.Test.YthipnkbfdkmhaaaSE
import Derived.Laws.OwnMore
import Derived.OwnWalk
namespace Go.Proofs.Ythipnkbfdkmhaaa
open Go.RowKit
attribute [local go_sem] strV
set_option linter.unusedVariables false
theorem bt_cut (lg lb lc : Int) (a : Option Addr) (n cap : Nat) (up : List MsgV) (b : Option Addr) (n2 cap2 : Nat) (ms : List MsgV) (c : Option Addr) (n3 cap3 : Nat) (gs : List Int) (w : World)
    (hu : RowAt w a (up.flatMap MsgV.cellsL)) (hun : up.length = n) (huo : ∀ m ∈ up, m.ok w) (hul : ∀ m ∈ up, lightM m = true)
    (hr : RowAt w b (ms.flatMap MsgV.cellsL)) (hn : ms.length = n2) (hok : ∀ m ∈ ms, m.ok w) (hl : ∀ m ∈ ms, lightM m = true) (h70 : n2 ≤ 70)
    (hg : RowAt w c (gs.map (Value.int .i64))) (hgn : gs.length = n3) (hgw : ∀ z ∈ gs, (Lit.int .i64 z).wf = true) :
    Calls Try.prog 39 #[.agg #[.int .i64 (lg), .int .i64 (lb), .int .i64 (lc)], .slice a n cap, .slice b n2 cap2, .slice c n3 cap3] w fun e w' => cutPost (lg, lb, lc) up ms gs w e w' := by
  by_cases hgl : gs.length = ms.length
  · exact bt_cut1 lg lb lc a n cap up b n2 cap2 ms c n3 cap3 gs w hu hun huo hul hr hn hok hl h70 hg hgn hgw hgl
  · exact bt_cut2 lg lb lc a n cap up b n2 cap2 ms c n3 cap3 gs w hu hun huo hul hr hn hok hl h70 hg hgn hgw hgl
end Go.Proofs.Ythipnkbfdkmhaaa
namespace Go.Proofs.Ythipnkbfdkmhaaa
open Go.RowKit
attribute [local go_sem] strV
set_option linter.unusedVariables false
theorem row_get {w : World} {a : Option Addr} {zs : List Int} (h : RowAt w a (zs.map (Value.int .i64))) {k : Nat} (hk : k < zs.length) :
    ∃ b off, a = some ⟨b, off, none⟩ ∧ b < w.heap.size ∧ w.cell? ⟨b, off + k, none⟩ = some (.int .i64 zs[k]) := by
  rcases h with h | ⟨b, off, ha, hlt, hc⟩
  · have := congrArg List.length h; rw [List.length_map] at this; simp only [List.length_nil] at this; omega
  · refine ⟨b, off, ha, hlt, ?_⟩
    rw [hc k (by simpa using hk)]; simp [hk]

theorem beq_at {x y : List Int} (hl : x.length = y.length) (h : ∀ j, j < x.length → x[j]? = y[j]?) : (x == y) = true := by
  rw [beq_iff_eq]
  refine List.ext_getElem? fun j => ?_
  rcases Nat.lt_or_ge j x.length with h' | h'
  · exact h j h'
  · rw [List.getElem?_eq_none h', List.getElem?_eq_none (by omega)]
/- ligkeep.Ints: are the two lists one? -/
set_option maxRecDepth 100000 in
set_option maxHeartbeats 800000 in
theorem ints_any {a a' : Option Addr} {n n' cap cap' : Nat} {x y : List Int} {w : World} (hx : RowAt w a (x.map (Value.int .i64))) (hy : RowAt w a' (y.map (Value.int .i64))) (hn : x.length = n) (hn' : y.length = n') (hm : n ≤ maxLen) (hm' : n' ≤ maxLen) :
    Calls Try.prog 42 #[.slice a n cap, .slice a' n' cap'] w fun e w' => e = .returned (.bool (x == y)) ∧ Below w.heap.size w w' := by
  unfold maxLen at hm hm'
  have HN := Lib.hid hn; have HN' := Lib.hid hn'; clear hn hn'
  by_cases hne : n = n'
  · subst hne
    go_enter Try.func42, Try.ntmps42
    go_wp2
    go_loopw [5] (fun i wr => ∃ k : Nat, k ≤ n ∧ Hid (∀ j, j < k → x[j]? = y[j]?) ∧ Below w.heap.size w wr ∧ i = .int .i64 k) (fun i _ => n - (intOf i).toNat)
    case atStart => exact ⟨0, by omega, Lib.hid (fun j h => by omega), Below.refl _ _, rfl⟩
    case round =>
      obtain ⟨k, hk, HE, hbel, rfl⟩ := hrel
      by_cases hlt : k < n
      · obtain ⟨b, off, rfl, hbl, hc1⟩ := row_get (hx.below hbel) (k := k) (by rw [HN.out]; exact hlt)
        obtain ⟨b', off', rfl, hbl', hc2⟩ := row_get (hy.below hbel) (k := k) (by rw [HN'.out]; exact hlt)
        have hx1 : x[k]? = some (x[k]'(by rw [HN.out]; exact hlt)) := List.getElem?_eq_getElem _
        have hy1 : y[k]? = some (y[k]'(by rw [HN'.out]; exact hlt)) := List.getElem?_eq_getElem _
        generalize x[k]'(by rw [HN.out]; exact hlt) = X at hc1 hx1
        generalize y[k]'(by rw [HN'.out]; exact hlt) = Y at hc2 hy1
        have HX := Lib.hid hx1; have HY := Lib.hid hy1; clear hx1 hy1
        by_cases hXY : X = Y
        · subst hXY
          have hb0 : (X != X) = false := by simp
          go_wp2
          go_quiet (fail)
          go_wp2
          go_roundw
          case rel => exact ⟨k + 1, by omega, Lib.hid (fun j hj => by
              rcases Nat.lt_or_ge j k with h | h
              · exact HE.out j h
              · obtain rfl : j = k := by omega
                rw [HX.out, HY.out]), hbel.trans ((drewN_below _ _).mono hbel.size), by go_num⟩
          case measure => simp [intOf]; omega
        · have hb0 : (X != Y) = true := by simpa using hXY
          have HF : Hid ((x == y) = false) := Lib.hid (by
            rw [beq_eq_false_iff_ne]; rintro rfl
            have h1 := HX.out; rw [HY.out] at h1; exact hXY (by simpa using h1.symm))
          clear hXY
          go_wp2
          go_quiet (fail)
          go_wp2
          go_ret
          exact ⟨by rw [HF.out]; rfl, hbel.trans ((drewN_below _ _).mono hbel.size)⟩
      · have HT : Hid ((x == y) = true) := Lib.hid (beq_at (by rw [HN.out, HN'.out]) (fun j hj => HE.out j (by rw [HN.out] at hj; omega)))
        go_wp2
        go_ret
        exact ⟨by rw [HT.out]; rfl, hbel⟩
  · have HF : Hid ((x == y) = false) := Lib.hid (by
      rw [beq_eq_false_iff_ne]; rintro rfl
      exact hne (by rw [← HN.out, ← HN'.out]))
    have hb0 : ((n : Int) != (n' : Int)) = true := by rw [bne_iff_ne]; omega
    go_enter Try.func42, Try.ntmps42
    go_wp2
    go_ret
    exact ⟨by rw [HF.out]; rfl, Below.refl _ _⟩
def updM (h : Int) : MsgV := { MsgV.zero 1 with hh := h }
theorem updM_ok (h : Int) (w : World) : (updM h).ok w := ⟨LvsAt.nil _ _, rfl, Nat.le_refl _, Nat.zero_le _, LvsAt.nil _ _, rfl, Nat.le_refl _, Nat.zero_le _, Nat.zero_le _, Nat.zero_le _⟩
def hdA (h : Int) : Value := .agg #[.int .i64 h, .int .i64 0, .int .u8 0, .int .u8 0, .int .u8 0, .int .u8 0, .int .u8 0, .int .u8 0, .int .u8 0, .int .u8 0, .int .u8 0, .int .u8 0, .int .u8 0, .int .u8 0, .int .u8 0, .int .u8 0, .int .u8 0, .int .u8 0, .int .u8 0, .int .u8 0, .int .u8 0, .int .u8 0, .int .u8 0, .int .u8 0, .int .u8 0, .int .u8 0, .int .u8 0, .int .u8 0, .int .u8 0, .int .u8 0, .int .u8 0, .int .u8 0, .int .u8 0, .int .u8 0]
theorem build_hd (h : Int) (W : World) : (Instr.build 25 #[(0, .int .i64 h)]).run Try.prog W = .ok (hdA h) W := by kernel_rfl
theorem build_upd (h : Int) (W : World) : (Instr.build 34 #[(0, .int .i64 1), (1, hdA h)]).run Try.prog W = .ok (.agg (updM h).row) W := by kernel_rfl
theorem wpList_build2 {P : Program} {ops : Array Oper} {rest : List Oper} {op : Oper} {a : Act} {w : World} {Q : Exit → Act → World → Prop} (hgd : op.guard = none) (t : TypeId) (i j : Nat) (x y : Operand) (ho : op.op = .build t #[(i, x), (j, y)]) {u z v : Value} (hx : a.eval x = u) (hy : a.eval y = z)
    (hrun : (Instr.build t #[(i, u), (j, z)]).run P w = .ok v w) (h : wpList P ops Q rest (a.put op.dst v) w) : wpList P ops Q (op :: rest) a w :=
  wpList_plain hgd fun _ hK => by
    subst hx hy
    unfold Oper.wp
    simp [execOp, ho, hrun, Result.andThen]
    exact hK _ _ h
theorem wpList_three {P : Program} {ops : Array Oper} {rest : List Oper} {op : Oper} {a : Act} {w : World} {Q : Exit → Act → World → Prop} {u : Value} {R : Array Value} (hgd : op.guard = none) (x y z : Operand) (t e : TypeId) (ho : op.op = .buildSlice t 3 #[(0, x), (1, y), (2, z)]) (hx : a.eval x = u) (hy : a.eval y = u) (hz : a.eval z = u)
    (hrun : (Instr.buildSlice t 3 #[(0, u), (1, u), (2, u)]).run P w = .ok (.slice (some ⟨w.heap.size, 0, none⟩) 3 3) (w.alloc (.cells R e)))
    (h : wpList P ops Q rest (a.put op.dst (.slice (some ⟨w.heap.size, 0, none⟩) 3 3)) (w.alloc (.cells R e))) : wpList P ops Q (op :: rest) a w :=
  wpList_plain hgd fun _ hK => by
    unfold Oper.wp
    simp [execOp, ho, hx, hy, hz, hrun, Result.andThen]
    exact hK _ _ h
theorem build3u (W : World) : (Instr.buildSlice 48 3 #[(0, .agg (updM 2).row), (1, .agg (updM 2).row), (2, .agg (updM 2).row)]).run Try.prog W = .ok (.slice (some ⟨W.heap.size, 0, none⟩) 3 3) (W.alloc (.cells ((updM 2).row ++ (updM 2).row ++ (updM 2).row) 34)) := by kernel_rfl
theorem light_upd : lightM (updM 1) = true ∧ lightM (updM 2) = true := by decide +kernel
theorem cut_first : cutF (1048576, 1048576, 2) [updM 1] [updM 2, updM 2, updM 2] [] = ([[0], [1, 2]], []) := by decide +kernel
end Go.Proofs.Ythipnkbfdkmhaaa
namespace Go.Proofs.Ythipnkbfdkmhaaa
open Go.RowKit
attribute [local go_sem] strV
set_option linter.unusedVariables false
theorem row_newI (w : World) (cur : Array Value) (t : TypeId) : RowAt (w.alloc (.cells cur t)) (some ⟨w.heap.size, 0, none⟩) cur.toList :=
  .inr ⟨_, 0, rfl, by simp, fun j hj => by
    rw [Nat.zero_add, cell_heap (show (w.heap.push _)[w.heap.size]? = _ by rw [Array.getElem?_push_size]) j]
    simp⟩
theorem rowMsgs3 {W : World} {g : Nat} (h : W.heap[g]? = some (.cells ((updM 2).row ++ (updM 2).row ++ (updM 2).row) 34 (0, 0))) : RowAt W (some ⟨g, 0, none⟩) ([updM 2, updM 2, updM 2].flatMap MsgV.cellsL) := by
  have e : ([updM 2, updM 2, updM 2] : List MsgV).flatMap MsgV.cellsL = ((updM 2).row ++ (updM 2).row ++ (updM 2).row).toList := by
    simp only [List.flatMap_cons, List.flatMap_nil, MsgV.cellsL, Array.toList_append, List.append_nil, List.append_assoc]
  rw [e]
  exact .inr ⟨g, 0, rfl, (Array.getElem?_eq_some_iff.1 h).1, fun j _ => by rw [Nat.zero_add, cell_heap h j, Array.getElem?_toList]⟩
set_option maxRecDepth 100000 in
set_option maxHeartbeats 12800000 in
theorem first28_any (w : World) : Calls Try.prog 38 #[] w fun e w' => e = .returned (.bool true) ∧ Below w.heap.size w w' := by
  have CC := fun (a b : Nat) W (hu : RowAt W (some ⟨a, 0, none⟩) ([updM 1].flatMap MsgV.cellsL)) (hr : RowAt W (some ⟨b, 0, none⟩) ([updM 2, updM 2, updM 2].flatMap MsgV.cellsL)) =>
    bt_cut 1048576 1048576 2 (some ⟨a, 0, none⟩) 1 1 [updM 1] (some ⟨b, 0, none⟩) 3 3 [updM 2, updM 2, updM 2] none 0 0 [] W hu rfl (fun m hm => by rw [List.mem_singleton.1 hm]; exact updM_ok _ _) (fun m hm => by rw [List.mem_singleton.1 hm]; exact light_upd.1)
      hr rfl (fun m hm => by simp at hm; subst hm; exact updM_ok _ _) (fun m hm => by simp at hm; subst hm; exact light_upd.2) (by omega) (.inl rfl) rfl (fun z hz => by cases hz)
  unfold cutPost at CC
  simp only [cut_first] at CC
  have hR2 : (updM 2).row.size = 50 := MsgV.row_size _
  have hO2 := MsgV.row_one (updM 2)
  have hbel := Below.refl w.heap.size w
  go_enter Try.func38, Try.ntmps38
  go_upto_region 1 with fail
  go_step
  refine wpList_build1 rfl 25 0 _ rfl (u := .int .i64 1) rfl (build_hd 1 _) ?_
  refine wpList_build2 rfl 34 0 1 _ _ rfl (u := .int .i64 1) (z := hdA 1) rfl rfl (build_upd 1 _) ?_
  refine wpList_one rfl (.tmp 6) 48 34 rfl (by rfl) (one_msg _ (MsgV.row_size _) _) ?_
  simp only [Act.put, List.setIfInBounds_toArray, List.set_cons_succ, List.set_cons_zero]
  go_upto_region 2 with fail
  go_step
  refine wpList_build1 rfl 25 0 _ rfl (u := .int .i64 2) rfl (build_hd 2 _) ?_
  refine wpList_build2 rfl 34 0 1 _ _ rfl (u := .int .i64 1) (z := hdA 2) rfl rfl (build_upd 2 _) ?_
  simp only [Act.put, List.setIfInBounds_toArray, List.set_cons_succ, List.set_cons_zero]
  go_step
  go_step
  go_step
  refine wpList_storeRowTo (Z := (updM 2).row) rfl (.tmp 2) (.tmp 9) 34 rfl (by rw [MsgV.row_size]; kernel_rfl) rfl (by rfl) (al2_1 _ _ _) (by rw [MsgV.row_size]; first | done | rfl) (MsgV.row_one _) ?_
  go_step
  simp only [Act.put]
  go_upto_region 3 with fail
  refine wp_nameE _ (fun W3 hX => ?_)
  have e1 : (w.alloc (.cells (updM 1).row 34)).heap.size = w.heap.size + 1 := by simp
  have hU : W3.heap[w.heap.size]? = some (.cells (updM 1).row 34 (0, 0)) := by rw [hX, setRow_other _ _ _ _ (by omega)]; exact al2_0 _ _ _
  have hM : W3.heap[w.heap.size + 1]? = some (.cells (updM 2).row 34 (0, 0)) := by
    rw [hX]; exact setRow_heap _ _ _ _ _ _ (al2_1 _ _ _)
  have hbel : Below w.heap.size w W3 := by rw [hX]; exact below_setRow (al2_below _ _ _) (by omega) _
  clear hX e1
  go_step
  go_step
  go_step
  go_step
  go_step
  go_step
  go_step
  refine wpList_load_mid rfl 34 (.tmp 2) rfl (w.heap.size + 1) 0 rfl (updM 2).row.toList _ (rangeAt_row5 hM) Try.underlying34 rfl (msg_info _) ?_
  rw [Array.toArray_toList]
  refine wpList_load_mid rfl 34 (.tmp 2) rfl (w.heap.size + 1) 0 rfl (updM 2).row.toList _ (rangeAt_row5 hM) Try.underlying34 rfl (msg_info _) ?_
  rw [Array.toArray_toList]
  refine wpList_load_mid rfl 34 (.tmp 2) rfl (w.heap.size + 1) 0 rfl (updM 2).row.toList _ (rangeAt_row5 hM) Try.underlying34 rfl (msg_info _) ?_
  rw [Array.toArray_toList]
  refine wpList_three (R := (updM 2).row ++ (updM 2).row ++ (updM 2).row) rfl (.tmp 13) (.tmp 14) (.tmp 15) 48 34 rfl rfl rfl rfl (build3u _) ?_
  simp only [Act.put, List.setIfInBounds_toArray, List.set_cons_succ, List.set_cons_zero]
  have hl3 : w.heap.size < W3.heap.size := (Array.getElem?_eq_some_iff.1 hU).1
  have hb4 : Below W3.heap.size W3 (W3.alloc (.cells ((updM 2).row ++ (updM 2).row ++ (updM 2).row) 34)) := Below.alloc (Below.refl _ _) (Nat.le_refl _) _
  have C4 := CC w.heap.size W3.heap.size (W3.alloc (.cells ((updM 2).row ++ (updM 2).row ++ (updM 2).row) 34)) (msg_rowAt (cells_of hU hb4 hl3)) (rowMsgs3 (heap_push _ _ _))
  obtain ⟨W4, hW4⟩ : ∃ W, W3.alloc (.cells ((updM 2).row ++ (updM 2).row ++ (updM 2).row) 34) = W := ⟨_, rfl⟩
  simp only [hW4] at C4 hb4 ⊢
  have hbel := hbel.trans (hb4.mono hbel.size)
  clear hW4 hb4 CC hU hM
  go_upto_region 4 with (go_at_call 39; with_reducible refine C4.mono ?_; rintro e w5 ⟨tv, sv, vs, base, rfl, hN, hB, hb⟩; have hbel := hbel.trans (hb.mono hbel.size); clear hb)
  obtain ⟨v0, v1, rfl⟩ : ∃ v0 v1, vs = [v0, v1] := by
    have hlen := hN.len
    match vs, hlen with
    | [v0, v1], _ => exact ⟨v0, v1, rfl⟩
  obtain ⟨g, cap, rfl, hgb, hgl⟩ := hN.o.form (by show 0 < 2; decide)
  have q0 : w5.cell? ⟨g, 0, none⟩ = some v0 := hN.o.cellAt 0 (by show 0 < 2 * 1; decide)
  have q1 : w5.cell? ⟨g, 1, none⟩ = some v1 := hN.o.cellAt 1 (by show 1 < 2 * 1; decide)
  obtain ⟨aS, cS, rfl, _⟩ := own_slice hN.s.1
  obtain ⟨a0, c0, rfl, r0, _⟩ := own_slice (hN.i 0 v0 [0] rfl rfl).1
  obtain ⟨a1, c1, rfl, r1, _⟩ := own_slice (hN.i 1 v1 [1, 2] rfl rfl).1
  have C1 := ints_any (cap := c0) (cap' := 1) (x := [0]) (y := [0]) (n := 1) (n' := 1) (a := a0) (a' := some ⟨w5.heap.size, 0, none⟩) (w := w5.alloc (.cells #[.int .i64 0] 3)) (r0.below (Below.alloc (Below.refl _ _) (Nat.le_refl _) _)) (row_newI _ _ _) rfl rfl (by unfold maxLen; omega) (by unfold maxLen; omega)
  have C2 := fun (W : World) (hb : Below w5.heap.size w5 W) => ints_any (cap := c1) (cap' := 2) (x := [1, 2]) (y := [1, 2]) (n := 2) (n' := 2) (a := a1) (a' := some ⟨W.heap.size, 0, none⟩) (w := W.alloc (.cells #[.int .i64 1, .int .i64 2] 3)) (r1.below (hb.trans (Below.alloc (Below.refl _ _) hb.size _))) (row_newI _ _ _) rfl rfl (by unfold maxLen; omega) (by unfold maxLen; omega)
  rw [show (([0] : List Int) == [0]) = true from rfl] at C1
  simp only [show (([1, 2] : List Int) == [1, 2]) = true from rfl] at C2
  clear hN r0 r1
  go_wp2_with (first | (go_at_call 42; with_reducible refine C1.mono ?_; rintro e w6 ⟨rfl, hb6⟩; have hb6 := (Below.alloc (Below.refl w5.heap.size w5) (Nat.le_refl _) (.cells #[.int .i64 0] 3)).trans (hb6.mono (by simp)); have q1 := (hb6.cell (p := ⟨g, 1, none⟩) hgl).trans q1; have C3 := C2 _ hb6; have hbel := hbel.trans (hb6.mono hbel.size); clear C1 C2) | (go_at_call 42; with_reducible refine C3.mono ?_; rintro e w7 ⟨rfl, hb7⟩; have hbel := hbel.trans (((Below.alloc (Below.refl w6.heap.size w6) (Nat.le_refl _) (.cells #[.int .i64 1, .int .i64 2] 3)).trans (hb7.mono (by simp))).mono hbel.size)))
  go_ret
  exact ⟨by first | rfl | simp, hbel⟩
end Go.Proofs.Ythipnkbfdkmhaaa
namespace Go.Proofs.Ythipnkbfdkmhaaa
open Go.RowKit
attribute [local go_sem] strV
set_option linter.unusedVariables false
theorem wpList_append_ownA {P : Program} (w : World) {ops : Array Oper} {rest : List Oper} {o : Oper} {a : Act} {Q : Exit → Act → World → Prop} (hgd : o.guard = none) (s x : Operand) (t : TypeId)
    (ho : o.op = .call { callee := .builtin .append, args := #[s, x], argTypes := #[t, t] })
    (base : Nat) (e : TypeId) (i : TypeInfo) (z : Value) (size bytes : Nat) (ht : P.underlying t = some (.slice e)) (hi : P.info? e = some i) (hz : i.zero = some z)
    (hsize : i.size = size) (hby : i.bytes = bytes) (hzs : z.cells.size = size) (hsz : 0 < size)
    (v : Value) (n : Nat) (xs : List Value) (hs : a.eval s = v) (hown : w.ownsRow base e size v n xs)
    (ao : Option Addr) (m c : Nat) (news : List Value) (hx : a.eval x = .slice ao m c) (hnone : ao = none → m = 0 ∧ c = 0) (hl : news.length = m * size) (hnews : ∀ ad, ao = some ad → ∀ j u, news[j]? = some u → w.cell? (ad.add j) = some u) (h1 : ∀ u ∈ news, u.oneCell' = true)
    (h63 : n + m ≤ maxLen) (hbytes : (n + m) * bytes ≤ 140737488355328) (hbase : base ≤ w.heap.size)
    (h : ∀ v' w', w'.ownsRow base e size v' (n + m) (xs ++ news) → w.grownBy w' v.ownBlock → wpList P ops Q rest (a.put o.dst v') w') : wpList P ops Q (o :: rest) a w := by
  cases ao with
  | some ad => exact wpList_append_own w hgd s x t ho base e i z size bytes ht hi hz hsize hby hzs hsz v n xs hs hown ad m c news hx hl (hnews ad rfl) h1 h63 hbytes hbase (fun v' w' q1 q2 _ => h v' w' q1 q2)
  | none =>
    obtain ⟨rfl, rfl⟩ := hnone rfl
    have hn9 : news = [] := List.eq_nil_of_length_eq_zero (by simpa using hl)
    subst hn9
    refine wpList_plain hgd fun K hK' => ?_
    have hrun := run_append_owned_none (P := P) w base t o.type e i size ht hi _ n xs hown
    unfold Oper.wp
    simp [execOp, ho, resolve, invoke, builtin, hs, hx, hrun, Result.andThen]
    exact hK' _ _ (by simpa using h v w (by simpa using hown) (World.grownBy.refl _ _))
theorem row_newsM {w : World} {a : Option Addr} {vs : List Value} (h : RowAt w a vs) : ∀ ad, a = some ad → ∀ (j : Nat) (u : Value), vs[j]? = some u → w.cell? (ad.add j) = some u := by
  intro ad e j u hu
  rcases h with rfl | ⟨b, off, rfl, _, hc⟩
  · simp at hu
  · obtain rfl := Option.some.inj e
    rw [Addr.add_lit, hc j (List.getElem?_eq_some_iff.1 hu).1]; exact hu
theorem msgs_flat_len (l : List MsgV) : (l.flatMap MsgV.cellsL).length = l.length * 50 := flat_length MsgV.cellsL 50 MsgV.cells_len l
theorem msgs_one (l : List MsgV) : ∀ u ∈ l.flatMap MsgV.cellsL, u.oneCell' = true := by
  intro u hu
  obtain ⟨m, _, hm⟩ := List.mem_flatMap.1 hu
  exact (Array.all_eq_true_iff_forall_mem.1 (MsgV.row_one m)) u (by unfold MsgV.cellsL at hm; simpa using hm)
def Fact.msgs (B : Nat) (l : List MsgV) : Fact := ⟨fun v w => w.ownsRow B 34 50 v l.length (l.flatMap MsgV.cellsL), fun _ _ _ h hb => own_kept9 h hb⟩
theorem grown_lowM {w w' : World} {base : Nat} {row : Option Nat} (hg : w.grownBy w' row) (hr : ∀ k, row = some k → base ≤ k) (hb : base ≤ w.heap.size) : Below base w w' := (Below.refl base w).grown hg hb hr
theorem own_lowerM {w : World} {base B : Nat} {e : TypeId} {size n : Nat} {v : Value} {xs : List Value} (h : w.ownsRow base e size v n xs) (hb : B ≤ base) : w.ownsRow B e size v n xs := by
  refine ⟨h.1, ?_⟩
  rcases h.2 with hn | ⟨g, cap, cur, h1, h2, h3⟩
  · exact .inl hn
  · exact .inr ⟨g, cap, cur, h1, Nat.le_trans hb h2, h3⟩
set_option maxRecDepth 100000 in
set_option maxHeartbeats 6400000 in
theorem with1_any (a : Option Addr) (n cap : Nat) (up : List MsgV) (w : World) (hr : RowAt w a (up.flatMap MsgV.cellsL)) (hn : up.length = n) (hn6 : n ≤ 1000) (ha : a = none → n = 0 ∧ cap = 0) :
    Calls Try.prog 90 #[.slice a n cap] w fun e w' => ∃ v, e = .returned v ∧ w'.ownsRow w.heap.size 34 50 v up.length (up.flatMap MsgV.cellsL) ∧ Below w.heap.size w w' := by
  obtain ⟨i0, hi, hz0, hz1, hz2⟩ := info_parts Try.infoMsg
  have hnil : ∀ W : World, W.ownsRow w.heap.size 34 50 (.slice none 0 0) 0 [] := fun W => World.ownsRow_nil _ _ _ _
  have HL := Lib.hid (show (up.flatMap MsgV.cellsL).length = n * 50 by rw [msgs_flat_len, hn])
  have HN := Lib.hid hn
  clear hn
  go_enter Try.func90, Try.ntmps90
  go_wp2_with (at_builtin; refine wpList_append_ownA _ rfl (.const (.slice none 0 0)) (.tmp 3) 48 rfl w.heap.size 34 i0 (.agg #[.int .i64 0, .int .i64 0, .int .i64 0, .int .u8 0, .int .u8 0, .int .u8 0, .int .u8 0, .int .u8 0, .int .u8 0, .int .u8 0, .int .u8 0, .int .u8 0, .int .u8 0, .int .u8 0, .int .u8 0, .int .u8 0, .int .u8 0, .int .u8 0, .int .u8 0, .int .u8 0, .int .u8 0, .int .u8 0, .int .u8 0, .int .u8 0, .int .u8 0, .int .u8 0, .int .u8 0, .int .u8 0, .int .u8 0, .int .u8 0, .int .u8 0, .int .u8 0, .int .u8 0, .int .u8 0, .int .u8 0, .string ⟨#[]⟩, .int .i64 0, .string ⟨#[]⟩, .int .i64 0, .int .i64 0, .string ⟨#[]⟩, .int .i64 0, .int .i64 0, .string ⟨#[]⟩, .int .i64 0, .int .i64 0, .int .i64 0, .slice none 0 0, .int .i64 0, .slice none 0 0]) 50 240 Try.underlying48 hi hz0 hz1 hz2 rfl (by decide) _ _ _ rfl (hnil _) a n cap (up.flatMap MsgV.cellsL) rfl ha HL.out (row_newsM hr) (msgs_one _) (by unfold maxLen; omega) (by omega) (Nat.le_refl _) ?_; intro v5 w5 hown5 hgr5)
  go_ret
  refine ⟨_, rfl, ?_, grown_lowM hgr5 (fun k h => by cases h) (Nat.le_refl _)⟩
  rw [HN.out]
  simpa using hown5
set_option maxRecDepth 100000 in
set_option maxHeartbeats 6400000 in
theorem with_any (a : Option Addr) (n cap : Nat) (up : List MsgV) (m : MsgV) (w : World) (hr : RowAt w a (up.flatMap MsgV.cellsL)) (hn : up.length = n) (hn6 : n ≤ 1000) (ha : a = none → n = 0 ∧ cap = 0) :
    Calls Try.prog 91 #[.slice a n cap, .agg m.row] w fun e w' => ∃ v, e = .returned v ∧ w'.ownsRow w.heap.size 34 50 v (up ++ [m]).length ((up ++ [m]).flatMap MsgV.cellsL) ∧ Below w.heap.size w w' := by
  obtain ⟨i0, hi, hz0, hz1, hz2⟩ := info_parts Try.infoMsg
  have HL := Lib.hid (show (up.flatMap MsgV.cellsL).length = n * 50 by rw [msgs_flat_len, hn])
  have HN := Lib.hid hn
  have hl6 : up.length ≤ 1000 := by omega
  clear hn
  have hq := heap_push w m.row 34
  have hb0 : Below w.heap.size w (w.alloc (.cells m.row 34)) := Below.alloc (Below.refl _ _) (Nat.le_refl _) _
  go_enter Try.func91, Try.ntmps91
  go_upto_region 1 with fail
  refine wp_nameE _ (fun W1 hX => ?_)
  have hX1 : W1.heap[w.heap.size]? = some (.cells m.row 34 (0, 0)) := by rw [hX]; exact hq
  have hbel : Below w.heap.size w W1 := by rw [hX]; exact hb0
  clear hX hq hb0
  have hX1l := (Array.getElem?_eq_some_iff.1 hX1).1
  have hbs1 := hbel.size
  have hnil : ∀ W : World, W.ownsRow W1.heap.size 34 50 (.slice none 0 0) 0 [] := fun W => World.ownsRow_nil _ _ _ _
  refine wp_region_facts_chain 4 (by decide) [Fact.eq (.slice a n cap), (Fact.msgs W1.heap.size up), Fact.eq (.agg m.row), Fact.row (1) (m.cellsL)] (by kernel_rfl) (by kernel_rfl) (by kernel_rfl) (by kernel_rfl) (by kernel_rfl) (by kernel_rfl) (by kernel_rfl) (fun x => by simp only [List.take_succ_cons, List.take_zero, fillFrom, Act.put, List.setIfInBounds_toArray, List.set_cons_succ, List.set_cons_zero]; rfl) ?_ ?_
  · refine ⟨?_, ?_, ?_, ?_, trivial⟩
    · intro x w' hbw hd
      clear hd
      go_wp2_with fail
      exact frPost_mk rfl (by repeat (first | assumption | exact Below.refl _ _ | refine bch ?_ (by assumption) | refine Below.alloc ?_ (by simp) _)) rfl
    · intro x w' hbw hd
      have d0 : x 0 = .slice a n cap := hd 0 rfl
      clear hd
      go_wp2_with (first | (at_builtin; refine wpList_append_ownA _ rfl (.const (.slice none 0 0)) (.tmp 5) 48 rfl W1.heap.size 34 i0 (.agg #[.int .i64 0, .int .i64 0, .int .i64 0, .int .u8 0, .int .u8 0, .int .u8 0, .int .u8 0, .int .u8 0, .int .u8 0, .int .u8 0, .int .u8 0, .int .u8 0, .int .u8 0, .int .u8 0, .int .u8 0, .int .u8 0, .int .u8 0, .int .u8 0, .int .u8 0, .int .u8 0, .int .u8 0, .int .u8 0, .int .u8 0, .int .u8 0, .int .u8 0, .int .u8 0, .int .u8 0, .int .u8 0, .int .u8 0, .int .u8 0, .int .u8 0, .int .u8 0, .int .u8 0, .int .u8 0, .int .u8 0, .string ⟨#[]⟩, .int .i64 0, .string ⟨#[]⟩, .int .i64 0, .int .i64 0, .string ⟨#[]⟩, .int .i64 0, .int .i64 0, .string ⟨#[]⟩, .int .i64 0, .int .i64 0, .int .i64 0, .slice none 0 0, .int .i64 0, .slice none 0 0]) 50 240 Try.underlying48 hi hz0 hz1 hz2 rfl (by decide) _ _ _ rfl (hnil _) a n cap (up.flatMap MsgV.cellsL) (by first | exact d0 | rfl) ha HL.out (row_newsM ((hr.below hbel).below hbw)) (msgs_one _) (by unfold maxLen; omega) (by omega) hbw.size ?_; intro v5 w5 hown5 hgr5))
      refine frPost_mk rfl (grown_lowM hgr5 (fun k h => by cases h) (Nat.le_refl _)) ?_; show World.ownsRow _ _ _ _ _ _ _; rw [HN.out]; simpa using hown5
    · intro x w' hbw hd
      clear hd
      have hrg := rangeAt_row5 (cells_of hX1 hbw hX1l)
      go_wp2_with (first | (refine wpList_load_mid rfl 34 (.tmp 3) rfl w.heap.size 0 rfl m.row.toList _ hrg Try.underlying34 rfl (msg_info _) ?_; rw [Array.toArray_toList]))
      exact frPost_mk rfl (by repeat (first | assumption | exact Below.refl _ _ | refine bch ?_ (by assumption) | refine Below.alloc ?_ (by simp) _)) rfl
    · intro x w' hbw hd
      have d2 : x 2 = .agg m.row := hd 2 rfl
      clear hd
      go_wp2_with (first | (refine wpList_one rfl (.tmp 7) 48 34 rfl (by first | exact d2 | rfl) (one_msg _ (MsgV.row_size _) _) ?_))
      refine frPost_mk rfl (by repeat (first | assumption | exact Below.refl _ _ | refine bch ?_ (by assumption) | refine Below.alloc ?_ (by simp) _)) ?_; show (Fact.row (1) (m.cellsL)).holds _ _; exact ⟨_, _, rfl, by unfold MsgV.cellsL; exact row_newI _ _ _⟩
  · intro x9 w' hbw hall
    have o1 : w'.ownsRow W1.heap.size 34 50 (x9 1) up.length (up.flatMap MsgV.cellsL) := hall 1 (by decide)
    obtain ⟨a9, c9, hx3, hr9⟩ := (show (Fact.row (1) (m.cellsL)).holds (x9 3) w' from hall 3 (by decide))
    clear hall
    obtain ⟨v1, hv1⟩ : ∃ v, x9 1 = v := ⟨_, rfl⟩
    rw [hv1] at o1
    have hbel := hbel.trans (hbw.mono hbel.size)
    have hlm := MsgV.cells_len m
    have hne : a9 = none → (1 : Nat) = 0 ∧ c9 = 0 := fun e => by
      rcases hr9 with h | ⟨b9, o9, h, _⟩
      · rw [h] at hlm; cases hlm
      · rw [e] at h; cases h
    have hnews := row_newsM hr9
    simp only [hv1, hx3, List.drop_succ_cons, List.drop_zero]
    go_wp2_with (at_builtin; refine wpList_append_ownA _ rfl (.tmp 6) (.tmp 8) 48 rfl W1.heap.size 34 i0 (.agg #[.int .i64 0, .int .i64 0, .int .i64 0, .int .u8 0, .int .u8 0, .int .u8 0, .int .u8 0, .int .u8 0, .int .u8 0, .int .u8 0, .int .u8 0, .int .u8 0, .int .u8 0, .int .u8 0, .int .u8 0, .int .u8 0, .int .u8 0, .int .u8 0, .int .u8 0, .int .u8 0, .int .u8 0, .int .u8 0, .int .u8 0, .int .u8 0, .int .u8 0, .int .u8 0, .int .u8 0, .int .u8 0, .int .u8 0, .int .u8 0, .int .u8 0, .int .u8 0, .int .u8 0, .int .u8 0, .int .u8 0, .string ⟨#[]⟩, .int .i64 0, .string ⟨#[]⟩, .int .i64 0, .int .i64 0, .string ⟨#[]⟩, .int .i64 0, .int .i64 0, .string ⟨#[]⟩, .int .i64 0, .int .i64 0, .int .i64 0, .slice none 0 0, .int .i64 0, .slice none 0 0]) 50 240 Try.underlying48 hi hz0 hz1 hz2 rfl (by decide) _ _ _ rfl o1 a9 1 c9 m.cellsL rfl hne (by rw [hlm]) hnews (fun u hu => msgs_one [m] u (by simpa using hu)) (by unfold maxLen; omega) (by omega) hbw.size ?_; intro v7 w7 hown7 hgr7)
    go_ret
    have hb7 := below_grown o1 hgr7 hbw.size
    refine ⟨_, rfl, ?_, hbel.trans (hb7.mono hbs1)⟩
    first | exact own_lowerM hown7 hbs1 | (rw [List.flatMap_append, List.length_append, List.flatMap_cons, List.flatMap_nil, List.append_nil]; exact own_lowerM hown7 hbs1)
end Go.Proofs.Ythipnkbfdkmhaaa
