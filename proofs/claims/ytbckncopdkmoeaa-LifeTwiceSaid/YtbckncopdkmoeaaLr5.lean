/- liglaw22.Same. -/
import Derived.Test.YtbckncopdkmoeaaLr4
import Derived.Test.YtbckncopdkmoeaaLf14
import Derived.Deep.MidRow
import Derived.Deep.Cut
import Derived.BigRegion
import Derived.RegionTactic
import Derived.BigQuiet
import Derived.Deep.QuietTactic
import Derived.Deep.RegionLaw
import Derived.OneCell
import Derived.Laws.OwnMore
import Derived.Deep.RegionHeld
import Derived.LoopTactic
import Derived.BigFrame
import Derived.WalkKit
import Derived.ProofKit
import Derived.Handy
import Derived.Below
import Derived.Lib.Hide
import Derived.IntWalk
import Derived.Outline
import Derived.WalkLawsBesides
import Derived.WalkSpells
namespace Go.Proofs.Ytbckncopdkmoeaa
open Go.RowKit
attribute [local go_sem] strV
set_option linter.unusedVariables false
set_option linter.unusedSimpArgs false
theorem wpList_loadEnt2H {ops : Array Oper} {rest : List Oper} {op : Oper} {a : Act} {w : World} {Q : Exit → Act → World → Prop} (x : Operand) (ho : op.op = .load 82 x)
    (b o : Nat) (hx : a.eval x = .pointer (some ⟨b, o, none⟩)) (e : Ent) (hc : w.rangeAt b o e.L) (hw : Region.wanted op (yielded ops a.tmps) = true)
    (hK : wpList Try.prog ops Q rest (a.put op.dst (.agg e.row)) w) : wpList Try.prog ops Q (op :: rest) a w := wpList_loadEnt2 x ho b o hx e hc hw hK
def Ent.pkL (e : Ent) : List Value := [.string e.sp, .int .i64 e.sc, .string e.dp, .int .i64 e.dc, .int .i64 e.sq, .string e.da, .int .i64 e.th, .int .i64 e.ta]
theorem pk_range {w : World} {g : Nat} {e : Ent} {t : TypeId} (hz : w.heap[g]? = some (.cells e.row t (0, 0))) : w.rangeAt g 0 e.pkL := fun j v hv => by
  have hj : j < 8 := by have := (List.getElem?_eq_some_iff.1 hv).1; simpa [Ent.pkL] using this
  rw [Nat.zero_add, cell_heap hz]
  have h1 : e.L = e.pkL ++ [.string e.ack, .bool e.se, .bool e.re, .bool e.wr, .bool e.ac, .bool e.ti] := rfl
  have h2 : e.row[j]? = e.L[j]? := by simp [Ent.row]
  rw [h2, h1, List.getElem?_append_left (by simpa [Ent.pkL] using hj)]; exact hv
theorem exec_loadPkE {o : Oper} {a : Act} {w : World} (x : Operand) (ho : o.op = .load 74 x) (b : Nat) (hx : a.eval x = .pointer (some ⟨b, 0, none⟩)) (e : Ent) (hz : w.rangeAt b 0 e.pkL) : (execOp a.eval o).run Try.prog w = .ok (.value (.agg e.pkL.toArray)) w := by
  have h1 := run_loadAt_mid (P := Try.prog) w b 0 74 e.pkL _ hz Try.underlying74 rfl (by rw [show e.pkL.length = 8 from rfl]; kernel_rfl)
  simp [execOp, ho, hx, h1, Result.andThen]
theorem exec_neqPkE {o : Oper} {a : Act} {w : World} (i j : Nat) (ho : o.op = .binOp .neq 74 (.tmp i) (.tmp j) 74) (e : Ent) (hx : a.eval (.tmp i) = .agg e.pkL.toArray) (hy : a.eval (.tmp j) = .agg e.pkL.toArray) : (execOp a.eval o).run Try.prog w = .ok (.value (.bool false)) w := by
  obtain ⟨sp, sc, dp, dc, sq, da, th, ta, ack, se, re, wr, ac, ti⟩ := e
  simp only [execOp, ho]
  rw [hx, hy]
  simp [Ent.pkL, go_sem, Result.andThen]
theorem exec_loadPeAt {o : Oper} {a : Act} {w : World} (x : Operand) (ho : o.op = .load 60 x) (b off : Nat) (hx : a.eval x = .pointer (some ⟨b, off, none⟩)) (e : Pe) (hz : w.rangeAt b off e.L) : (execOp a.eval o).run Try.prog w = .ok (.value (.agg e.row)) w := by
  have h1 := run_loadAt_mid (P := Try.prog) w b off 60 e.L _ hz Try.underlying60 rfl (by rw [show e.L.length = 2 from rfl]; kernel_rfl)
  simp [execOp, ho, hx, h1, Result.andThen]
  rfl
theorem exec_neqPe {o : Oper} {a : Act} {w : World} (i j : Nat) (ho : o.op = .binOp .neq 60 (.tmp i) (.tmp j) 60) (e : Pe) (hx : a.eval (.tmp i) = .agg e.row) (hy : a.eval (.tmp j) = .agg e.row) : (execOp a.eval o).run Try.prog w = .ok (.value (.bool false)) w := by
  obtain ⟨p, c⟩ := e
  simp only [execOp, ho]
  rw [hx, hy]
  simp [Pe.row, go_sem, Result.andThen]
theorem pe_at {w : World} {a : Option Addr} {es : List Pe} (h : RowAt w a (es.flatMap Pe.L)) {k : Nat} (hk : k < es.length) : ∃ b off, a = some ⟨b, off, none⟩ ∧ b < w.heap.size ∧ w.rangeAt b (off + k * 2) es[k].L := by
  have hl : ∀ x : Pe, (Pe.L x).length = 2 := fun x => rfl
  obtain ⟨b, off, ha, hb, hc⟩ := h.elem hl hk (by omega)
  refine ⟨b, off, ha, hb, fun j v hv => ?_⟩
  have hj : j < 2 := by have := (List.getElem?_eq_some_iff.1 hv).1; simpa [Pe.L] using this
  rw [Nat.add_assoc, hc j hj]; exact hv
theorem range_pe {w : World} {b o : Nat} {k : Lk} (h : w.rangeAt b o k.L) : w.rangeAt b o (⟨k.po, k.ch⟩ : Pe).L := fun j v hv => h j v (by
  rcases j with _ | _ | j
  · exact hv
  · exact hv
  · simp [Pe.L] at hv)
set_option maxRecDepth 100000 in
set_option maxHeartbeats 12800000 in
theorem same_any (g b c n : Nat) (f : Lk → Option Ent) (cl : ByteArray → Int → Bool) (d : Nat) (ak : Option Addr) (ck : Nat) (ae : Option Addr) (ce : Nat) (ac : Option Addr) (cc : Nat) (ks : List Lk) (qs : List Pe) (w : World) (hT : TabAt w g b c n f cl) (hn : n ≤ 100000) (hks : KeysOf ⟨f, cl⟩ ks) (hqs : EndsOf ⟨f, cl⟩ qs)
    (hd : w.heap[d]? = some (.cells #[.slice ak ks.length ck, .slice ae ks.length ce, .slice ac qs.length cc] 71 (0, 0))) (hr : RowAt w ak (ks.flatMap Lk.L)) (hre : RowAt w ae ((ks.map fun y => (f y).getD zeroEnt).flatMap Ent.L)) (hrc : RowAt w ac (qs.flatMap Pe.L)) :
    Calls Try.prog 38 #[.pointer (some ⟨g, 0, none⟩), .pointer (some ⟨d, 0, none⟩)] w fun e w' => e = .returned (.bool true) ∧ Below w.heap.size w w' := by
  have CK := lfKeys_any g b c n f cl w hT hn ks hks.1 hks.2.1 hks.2.2
  obtain ⟨N, hN⟩ : ∃ m, ks.length = m := ⟨_, rfl⟩
  obtain ⟨M, hM⟩ : ∃ m, qs.length = m := ⟨_, rfl⟩
  rw [hN] at CK
  rw [hN] at hd
  rw [hM] at hd
  have HN := Lib.hid hN
  have HM := Lib.hid hM
  clear hN hM
  go_enter Try.func38, Try.ntmps38
  go_upto_region 2 with (go_at_call 40; refine CK.mono ?_; rintro e w1 ⟨v, rfl, ho, hb1⟩; obtain ⟨a5, c5, rfl, hr5, hc5, hm5, _⟩ := own_sliceN ho)
  have hN9 : N ≤ maxLen := Nat.le_trans hc5 hm5
  unfold maxLen at hN9
  have hT := hT.kept hb1
  have hd1 := cells_of hd hb1 (row_lt hd)
  have dc0 : w1.cell? ⟨d, 0, none⟩ = some (.slice ak N ck) := cell_heap hd1 0
  clear CK ho hc5 hm5
  have hr1 := hr.below hb1
  have hre1 := hre.below hb1
  have hrc1 := hrc.below hb1
  go_wp2
  go_loopw [6] (fun i wr => ∃ k : Nat, k ≤ N ∧ i = .int .i64 k ∧ Below w1.heap.size w1 wr) (fun i _ => N - (intOf i).toNat)
  case atStart => exact ⟨0, Nat.zero_le _, rfl, Below.refl _ _⟩
  case round =>
    obtain ⟨k, hk, rfl, hb2⟩ := hrel
    have hbw := hb1.trans (hb2.mono hb1.size)
    by_cases hlt : k < N
    rotate_left
    · obtain rfl : N = k := by omega
      have d9 : decide ((N : Int) < (N : Int)) = false := decide_eq_false (by omega)
      have d9n : decide (N < N) = false := decide_eq_false (by omega)
      obtain ⟨wO, rfl⟩ : ∃ x, x = wr := ⟨wr, rfl⟩
      have hT2 := hT.kept hb2
      have CQ := lfClosed_any g b c n f cl wO hT2 hn qs hqs.1 hqs.2.1 hqs.2.2
      rw [HM.out] at CQ
      go_upto_region 12 with (go_at_call 42; refine CQ.mono ?_; rintro e w3 ⟨v, rfl, ho, hb3⟩; obtain ⟨a6, c6, rfl, hr6, hc6, hm6, _⟩ := own_sliceN ho)
      have hM9 : M ≤ maxLen := Nat.le_trans hc6 hm6
      unfold maxLen at hM9
      have hd3 := cells_of (cells_of hd1 hb2 (row_lt hd1)) hb3 (row_lt (cells_of hd1 hb2 (row_lt hd1)))
      have dc2 : w3.cell? ⟨d, 2, none⟩ = some (.slice ac M cc) := cell_heap hd3 2
      have hrc3 := (hrc1.below hb2).below hb3
      have hbel := hbw.trans (hb3.mono hbw.size)
      clear CQ ho hc6 hm6 hb3 hT2 hT hd1
      go_wp2
      go_loopw [11] (fun i wr => ∃ q : Nat, q ≤ M ∧ i = .int .i64 q ∧ Below w3.heap.size w3 wr) (fun i _ => M - (intOf i).toNat)
      case atStart => exact ⟨0, Nat.zero_le _, rfl, Below.refl _ _⟩
      case round =>
        obtain ⟨q, hq, rfl, hb4⟩ := hrel
        have hb5 := hbel.trans (hb4.mono hbel.size)
        by_cases hlq : q < M
        rotate_left
        · obtain rfl : M = q := by omega
          have d9 : decide ((M : Int) < (M : Int)) = false := decide_eq_false (by omega)
          have d9n : decide (M < M) = false := decide_eq_false (by omega)
          go_wp2
          go_ret
          exact ⟨by first | rfl | simp, hb5⟩
        have hql : q < qs.length := by rw [HM.out]; exact hlq
        obtain ⟨b6, o6, rfl, hx6, hg6⟩ := pe_at (hr6.below hb4) hql
        obtain ⟨b7, o7, rfl, hx7, hg7⟩ := pe_at (hrc3.below hb4) hql
        obtain ⟨x, hx⟩ : ∃ x, qs[q] = x := ⟨_, rfl⟩
        rw [hx] at hg6 hg7
        clear hx
        have hd4 := cells_of hd3 hb4 (row_lt hd3)
        have hdl := row_lt hd4
        have hdc : wr.cell? ⟨d, 2, none⟩ = some (.slice (some ⟨b7, o7, none⟩) M cc) := cell_heap hd4 2
        have d9 : decide ((q : Int) < (M : Int)) = true := decide_eq_true (by omega)
        have d9n : decide (q < M) = true := decide_eq_true (by omega)
        have n0 : (0 : Int) ≤ (q : Int) := by omega
        have n1 : (q : Int) < (M : Int) := by omega
        have n2' : ((q : Nat) : Int).toNat = q := by omega
        go_upto_region 17 with fail
        refine wp_region_held_drew (S := fun X => Below wr.heap.size wr X) (by kernel_rfl) ((Below.refl _ _).drew) (fun hS0 => ?_)
        refine wpAnyH_take (i := 0) (v := .slice (some ⟨b6, o6, none⟩) M c6) rfl (by kernel_rfl) (by kernel_rfl) (by kernel_rfl) (fun _ _ _ h => h) (Yields.yieldsIf (Or.inl ⟨by rfl, fun w9 => by (go_simp; first | done | with_reducible rfl | (intro h9; exfalso; omega))⟩)) hS0 ?_
        change wpAnyH _ _ _ _ _ _ _ (Act.put _ (some 159) _) _; dsimp only [Act.put]; simp only [List.setIfInBounds_toArray, List.set_cons_succ, List.set_cons_zero]
        refine wpAnyH_take (i := 1) (v := .int .i64 (q : Int)) rfl (by kernel_rfl) (by kernel_rfl) (by kernel_rfl) (fun _ _ _ h => h) (Yields.yieldsIf (Or.inl ⟨by rfl, fun w9 => by (go_simp; first | done | with_reducible rfl | (intro h9; exfalso; omega))⟩)) hS0 ?_
        change wpAnyH _ _ _ _ _ _ _ (Act.put _ (some 160) _) _; dsimp only [Act.put]; simp only [List.setIfInBounds_toArray, List.set_cons_succ, List.set_cons_zero]
        refine wpAnyH_take (i := 2) (v := .pointer (some ⟨b6, o6 + q * 2, none⟩)) rfl (by kernel_rfl) (by kernel_rfl) (by kernel_rfl) (fun _ _ _ h => h) (Yields.yieldsIf (Or.inl ⟨by rfl, fun w9 => by (go_simp; first | done | with_reducible rfl | (intro h9; exfalso; omega))⟩)) hS0 ?_
        change wpAnyH _ _ _ _ _ _ _ (Act.put _ (some 161) _) _; dsimp only [Act.put]; simp only [List.setIfInBounds_toArray, List.set_cons_succ, List.set_cons_zero]
        refine wpAnyH_take (i := 3) (v := .agg x.row) rfl (by kernel_rfl) (by kernel_rfl) (by kernel_rfl) (fun _ _ _ h => h) (Or.inl ⟨by rfl, fun w9 hS9 => exec_loadPeAt (.tmp 161) rfl b6 (o6 + q * 2) (by first | rfl | simp [Act.eval, Act.put]) x (range_belowS hg6 hS9 hx6)⟩) hS0 ?_
        change wpAnyH _ _ _ _ _ _ _ (Act.put _ (some 162) _) _; dsimp only [Act.put]; simp only [List.setIfInBounds_toArray, List.set_cons_succ, List.set_cons_zero]
        refine wpAnyH_take (i := 4) (v := .pointer (some ⟨d, 0, none⟩)) rfl (by kernel_rfl) (by kernel_rfl) (by kernel_rfl) (fun _ _ _ h => h) (Yields.yieldsIf (Or.inl ⟨by rfl, fun w9 => by (go_simp; first | done | with_reducible rfl | (intro h9; exfalso; omega))⟩)) hS0 ?_
        change wpAnyH _ _ _ _ _ _ _ (Act.put _ (some 163) _) _; dsimp only [Act.put]; simp only [List.setIfInBounds_toArray, List.set_cons_succ, List.set_cons_zero]
        refine wpAnyH_take (i := 5) (v := .pointer (some ⟨d, 0, none⟩)) rfl (by kernel_rfl) (by kernel_rfl) (by kernel_rfl) (fun _ _ _ h => h) (Yields.yieldsIf (Or.inl ⟨by rfl, fun w9 => by (go_simp; first | done | with_reducible rfl | (intro h9; exfalso; omega))⟩)) hS0 ?_
        change wpAnyH _ _ _ _ _ _ _ (Act.put _ (some 164) _) _; dsimp only [Act.put]; simp only [List.setIfInBounds_toArray, List.set_cons_succ, List.set_cons_zero]
        refine wpAnyH_take (i := 6) (v := .pointer (some ⟨d, 2, none⟩)) rfl (by kernel_rfl) (by kernel_rfl) (by kernel_rfl) (fun _ _ _ h => h) (Yields.yieldsIf (Or.inl ⟨by rfl, fun w9 => by (go_simp; first | done | with_reducible rfl | (intro h9; exfalso; omega))⟩)) hS0 ?_
        change wpAnyH _ _ _ _ _ _ _ (Act.put _ (some 165) _) _; dsimp only [Act.put]; simp only [List.setIfInBounds_toArray, List.set_cons_succ, List.set_cons_zero]
        refine wpAnyH_take (i := 7) (v := .slice (some ⟨b7, o7, none⟩) M cc) rfl (by kernel_rfl) (by kernel_rfl) (by kernel_rfl) (fun _ _ _ h => h) (Or.inl ⟨by rfl, fun w9 hS9 => by have hc9 := (hS9.cell hdl).trans hdc; go_simp; try with_reducible rfl⟩) hS0 ?_
        change wpAnyH _ _ _ _ _ _ _ (Act.put _ (some 166) _) _; dsimp only [Act.put]; simp only [List.setIfInBounds_toArray, List.set_cons_succ, List.set_cons_zero]
        refine wpAnyH_take (i := 8) (v := .int .i64 (q : Int)) rfl (by kernel_rfl) (by kernel_rfl) (by kernel_rfl) (fun _ _ _ h => h) (Yields.yieldsIf (Or.inl ⟨by rfl, fun w9 => by (go_simp; first | done | with_reducible rfl | (intro h9; exfalso; omega))⟩)) hS0 ?_
        change wpAnyH _ _ _ _ _ _ _ (Act.put _ (some 167) _) _; dsimp only [Act.put]; simp only [List.setIfInBounds_toArray, List.set_cons_succ, List.set_cons_zero]
        refine wpAnyH_take (i := 9) (v := .pointer (some ⟨b7, o7 + q * 2, none⟩)) rfl (by kernel_rfl) (by kernel_rfl) (by kernel_rfl) (fun _ _ _ h => h) (Yields.yieldsIf (Or.inl ⟨by rfl, fun w9 => by (go_simp; first | done | with_reducible rfl | (intro h9; exfalso; omega))⟩)) hS0 ?_
        change wpAnyH _ _ _ _ _ _ _ (Act.put _ (some 168) _) _; dsimp only [Act.put]; simp only [List.setIfInBounds_toArray, List.set_cons_succ, List.set_cons_zero]
        refine wpAnyH_take (i := 10) (v := .agg x.row) rfl (by kernel_rfl) (by kernel_rfl) (by kernel_rfl) (fun _ _ _ h => h) (Or.inl ⟨by rfl, fun w9 hS9 => exec_loadPeAt (.tmp 168) rfl b7 (o7 + q * 2) (by first | rfl | simp [Act.eval, Act.put]) x (range_belowS hg7 hS9 hx7)⟩) hS0 ?_
        change wpAnyH _ _ _ _ _ _ _ (Act.put _ (some 169) _) _; dsimp only [Act.put]; simp only [List.setIfInBounds_toArray, List.set_cons_succ, List.set_cons_zero]
        refine wpAnyH_take (i := 11) (v := .bool false) rfl (by kernel_rfl) (by kernel_rfl) (by kernel_rfl) (fun _ _ _ h => h) (Or.inl ⟨by rfl, fun w9 hS9 => exec_neqPe 162 169 rfl x (by first | rfl | simp [Act.eval, Act.put]) (by first | rfl | simp [Act.eval, Act.put])⟩) hS0 ?_
        change wpAnyH _ _ _ _ _ _ _ (Act.put _ (some 170) _) _; dsimp only [Act.put]; simp only [List.setIfInBounds_toArray, List.set_cons_succ, List.set_cons_zero]
        refine wpAnyH_done (by kernel_rfl) ?_ _
        go_wp2
        go_roundw
        case rel => exact ⟨q + 1, by omega, by go_num, hb4.trans (hS0.mono hb4.size)⟩
        case measure => (simp [intOf]) <;> omega
    have hkl : k < ks.length := by rw [HN.out]; exact hlt
    obtain ⟨b3, o3, rfl, hx3, hg3⟩ := lk_range (hr5.below hb2) hkl
    obtain ⟨b4, o4, rfl, hx4, hg4⟩ := lk_range (hr1.below hb2) hkl
    have hel : k < (ks.map fun y => (f y).getD zeroEnt).length := by rw [List.length_map]; exact hkl
    obtain ⟨b5, o5, rfl, hx5, hg5⟩ := ent_at (hre1.below hb2) hel
    rw [List.getElem_map] at hg5
    have hwx := hks.2.1 _ (List.getElem_mem hkl)
    have hsx := (hks.2.2 _ hwx).2 (List.getElem_mem hkl)
    obtain ⟨x, hx⟩ : ∃ x, ks[k] = x := ⟨_, rfl⟩
    rw [hx] at hg3 hg4 hg5 hwx hsx
    clear hx
    have d9 : decide ((k : Int) < (N : Int)) = true := decide_eq_true (by omega)
    have d9n : decide (k < N) = true := decide_eq_true (by omega)
    have n0 : (0 : Int) ≤ (k : Int) := by omega
    have n1 : (k : Int) < (N : Int) := by omega
    have n2' : ((k : Nat) : Int).toNat = k := by omega
    have hTr := hT.kept hb2
    have CG := lfGet_any g b c n f cl x hwx wr hTr
    rw [hsx] at CG
    generalize (f x).getD zeroEnt = e at CG hg5
    clear hsx hTr
    go_upto_region 8 with (first | (refine wpList_loadLkR (.tmp 32) rfl b3 (o3 + k * 4) rfl x hg3 (by rfl) ?_) | (go_at_call 34; refine CG.mono ?_; rintro e9 w5 ⟨rfl, hb5⟩) | (refine wpList_storeRowTo (Z := e.row) rfl (.tmp 7) (.tmp 35) 78 rfl (infoEnt_row _) rfl rfl (heap_push _ zeroEnt.row 78) rfl (Ent.row_one _) ?_))
    refine wp_nameE _ (fun wU hwU => ?_)
    have hU1 : wU.heap[w5.heap.size]? = some (.cells e.row 78 (0, 0)) := by rw [hwU]; exact setRow_heap _ _ zeroEnt.row e.row _ _ (heap_push w5 zeroEnt.row 78)
    have hbU : Below w5.heap.size w5 wU := by rw [hwU]; exact below_setRow ((Below.refl _ _).alloc (Nat.le_refl _) _) (Nat.le_refl _) _
    clear hwU CG
    have hbU := hb5.trans (hbU.mono hb5.size)
    clear hb5
    have hd2 := cells_of (cells_of hd1 hb2 (row_lt hd1)) hbU (row_lt (cells_of hd1 hb2 (row_lt hd1)))
    have dc1 : wU.cell? ⟨d, 1, none⟩ = some (.slice (some ⟨b5, o5, none⟩) N ce) := cell_heap hd2 1
    have hg5 := range_belowS hg5 hbU hx5
    go_upto_region 9 with (first | (refine wpList_loadEnt2 (.tmp 42) rfl b5 (o5 + k * 14) rfl e hg5 (by rfl) ?_) | (refine wpList_storeRowTo (Z := e.row) rfl (.tmp 9) (.tmp 43) 82 rfl (infoEnt2_row _) rfl rfl (heap_push _ zeroEnt.row 82) rfl (Ent.row_one _) ?_))
    refine wp_nameE _ (fun wV hwV => ?_)
    have hV1 : wV.heap[wU.heap.size]? = some (.cells e.row 82 (0, 0)) := by rw [hwV]; exact setRow_heap _ _ zeroEnt.row e.row _ _ (heap_push wU zeroEnt.row 82)
    have hbV : Below wU.heap.size wU wV := by rw [hwV]; exact below_setRow ((Below.refl _ _).alloc (Nat.le_refl _) _) (Nat.le_refl _) _
    clear hwV
    have hU1 := cells_of hU1 hbV (row_lt hU1)
    have hd3 := cells_of hd2 hbV (row_lt hd2)
    have hdl := row_lt hd3
    have hdc : wV.cell? ⟨d, 0, none⟩ = some (.slice (some ⟨b4, o4, none⟩) N ck) := cell_heap hd3 0
    have hg3 := range_belowS (range_belowS hg3 hbU hx3) hbV (Nat.lt_of_lt_of_le hx3 hbU.size)
    have hg4 := range_belowS (range_belowS hg4 hbU hx4) hbV (Nat.lt_of_lt_of_le hx4 hbU.size)
    have hx3 := Nat.lt_of_lt_of_le (Nat.lt_of_lt_of_le hx3 hbU.size) hbV.size
    have hx4 := Nat.lt_of_lt_of_le (Nat.lt_of_lt_of_le hx4 hbU.size) hbV.size
    have hb6 := hb2.trans ((hbU.trans (hbV.mono hbU.size)).mono hb2.size)
    have k2 : wV.cell? ⟨b3, o3 + k * 4 + 2, none⟩ = some (.bool x.ou) := hg3 2 _ rfl
    have k3 : wV.cell? ⟨b3, o3 + k * 4 + 3, none⟩ = some (.int .i64 x.sq) := hg3 3 _ rfl
    have m2 : wV.cell? ⟨b4, o4 + k * 4 + 2, none⟩ = some (.bool x.ou) := hg4 2 _ rfl
    have m3 : wV.cell? ⟨b4, o4 + k * 4 + 3, none⟩ = some (.int .i64 x.sq) := hg4 3 _ rfl
    have u8 : wV.cell? ⟨w5.heap.size, 8, none⟩ = some (.string e.ack) := cell_heap hU1 8
    have v8 : wV.cell? ⟨wU.heap.size, 8, none⟩ = some (.string e.ack) := cell_heap hV1 8
    have u9 : wV.cell? ⟨w5.heap.size, 9, none⟩ = some (.bool e.se) := cell_heap hU1 9
    have v9 : wV.cell? ⟨wU.heap.size, 9, none⟩ = some (.bool e.se) := cell_heap hV1 9
    have u10 : wV.cell? ⟨w5.heap.size, 10, none⟩ = some (.bool e.re) := cell_heap hU1 10
    have v10 : wV.cell? ⟨wU.heap.size, 10, none⟩ = some (.bool e.re) := cell_heap hV1 10
    have u11 : wV.cell? ⟨w5.heap.size, 11, none⟩ = some (.bool e.wr) := cell_heap hU1 11
    have v11 : wV.cell? ⟨wU.heap.size, 11, none⟩ = some (.bool e.wr) := cell_heap hV1 11
    have u12 : wV.cell? ⟨w5.heap.size, 12, none⟩ = some (.bool e.ac) := cell_heap hU1 12
    have v12 : wV.cell? ⟨wU.heap.size, 12, none⟩ = some (.bool e.ac) := cell_heap hV1 12
    have u13 : wV.cell? ⟨w5.heap.size, 13, none⟩ = some (.bool e.ti) := cell_heap hU1 13
    have v13 : wV.cell? ⟨wU.heap.size, 13, none⟩ = some (.bool e.ti) := cell_heap hV1 13
    as_aux_lemma =>
      simp only [List.append_eq, List.cons_append, List.nil_append]
      refine wp_region_held_drew (S := fun X => Below wV.heap.size wV X) (by kernel_rfl) ((Below.refl _ _).drew) (fun hS0 => ?_)
      refine wpAnyH_take (i := 0) (v := .slice (some ⟨b3, o3, none⟩) N c5) rfl (by kernel_rfl) (by kernel_rfl) (by kernel_rfl) (fun _ _ _ h => h) (Yields.yieldsIf (Or.inl ⟨by rfl, fun w9 => by (go_simp; first | done | with_reducible rfl | (intro h9; exfalso; omega))⟩)) hS0 ?_
      change wpAnyH _ _ _ _ _ _ _ (Act.put _ (some 44) _) _; dsimp only [Act.put]; simp only [List.setIfInBounds_toArray, List.set_cons_succ, List.set_cons_zero]
      refine wpAnyH_take (i := 1) (v := .int .i64 (k : Int)) rfl (by kernel_rfl) (by kernel_rfl) (by kernel_rfl) (fun _ _ _ h => h) (Yields.yieldsIf (Or.inl ⟨by rfl, fun w9 => by (go_simp; first | done | with_reducible rfl | (intro h9; exfalso; omega))⟩)) hS0 ?_
      change wpAnyH _ _ _ _ _ _ _ (Act.put _ (some 45) _) _; dsimp only [Act.put]; simp only [List.setIfInBounds_toArray, List.set_cons_succ, List.set_cons_zero]
      refine wpAnyH_take (i := 2) (v := .pointer (some ⟨b3, o3 + k * 4, none⟩)) rfl (by kernel_rfl) (by kernel_rfl) (by kernel_rfl) (fun _ _ _ h => h) (Yields.yieldsIf (Or.inl ⟨by rfl, fun w9 => by (go_simp; first | done | with_reducible rfl | (intro h9; exfalso; omega))⟩)) hS0 ?_
      change wpAnyH _ _ _ _ _ _ _ (Act.put _ (some 46) _) _; dsimp only [Act.put]; simp only [List.setIfInBounds_toArray, List.set_cons_succ, List.set_cons_zero]
      refine wpAnyH_take (i := 3) (v := .pointer (some ⟨b3, o3 + k * 4, none⟩)) rfl (by kernel_rfl) (by kernel_rfl) (by kernel_rfl) (fun _ _ _ h => h) (Yields.yieldsIf (Or.inl ⟨by rfl, fun w9 => by (go_simp; first | done | with_reducible rfl | (intro h9; exfalso; omega))⟩)) hS0 ?_
      change wpAnyH _ _ _ _ _ _ _ (Act.put _ (some 47) _) _; dsimp only [Act.put]; simp only [List.setIfInBounds_toArray, List.set_cons_succ, List.set_cons_zero]
      refine wpAnyH_take (i := 4) (v := .agg (⟨x.po, x.ch⟩ : Pe).row) rfl (by kernel_rfl) (by kernel_rfl) (by kernel_rfl) (fun _ _ _ h => h) (Or.inl ⟨by rfl, fun w9 hS9 => exec_loadPeAt (.tmp 47) rfl b3 (o3 + k * 4) (by first | rfl | simp [Act.eval, Act.put]) ⟨x.po, x.ch⟩ (range_belowS (range_pe hg3) hS9 hx3)⟩) hS0 ?_
      change wpAnyH _ _ _ _ _ _ _ (Act.put _ (some 48) _) _; dsimp only [Act.put]; simp only [List.setIfInBounds_toArray, List.set_cons_succ, List.set_cons_zero]
      refine wpAnyH_take (i := 5) (v := .pointer (some ⟨d, 0, none⟩)) rfl (by kernel_rfl) (by kernel_rfl) (by kernel_rfl) (fun _ _ _ h => h) (Yields.yieldsIf (Or.inl ⟨by rfl, fun w9 => by (go_simp; first | done | with_reducible rfl | (intro h9; exfalso; omega))⟩)) hS0 ?_
      change wpAnyH _ _ _ _ _ _ _ (Act.put _ (some 49) _) _; dsimp only [Act.put]; simp only [List.setIfInBounds_toArray, List.set_cons_succ, List.set_cons_zero]
      refine wpAnyH_take (i := 6) (v := .pointer (some ⟨d, 0, none⟩)) rfl (by kernel_rfl) (by kernel_rfl) (by kernel_rfl) (fun _ _ _ h => h) (Yields.yieldsIf (Or.inl ⟨by rfl, fun w9 => by (go_simp; first | done | with_reducible rfl | (intro h9; exfalso; omega))⟩)) hS0 ?_
      change wpAnyH _ _ _ _ _ _ _ (Act.put _ (some 50) _) _; dsimp only [Act.put]; simp only [List.setIfInBounds_toArray, List.set_cons_succ, List.set_cons_zero]
      refine wpAnyH_take (i := 7) (v := .pointer (some ⟨d, 0, none⟩)) rfl (by kernel_rfl) (by kernel_rfl) (by kernel_rfl) (fun _ _ _ h => h) (Yields.yieldsIf (Or.inl ⟨by rfl, fun w9 => by (go_simp; first | done | with_reducible rfl | (intro h9; exfalso; omega))⟩)) hS0 ?_
      change wpAnyH _ _ _ _ _ _ _ (Act.put _ (some 51) _) _; dsimp only [Act.put]; simp only [List.setIfInBounds_toArray, List.set_cons_succ, List.set_cons_zero]
      refine wpAnyH_take (i := 8) (v := .slice (some ⟨b4, o4, none⟩) N ck) rfl (by kernel_rfl) (by kernel_rfl) (by kernel_rfl) (fun _ _ _ h => h) (Or.inl ⟨by rfl, fun w9 hS9 => by have hc9 := (hS9.cell hdl).trans hdc; go_simp; try with_reducible rfl⟩) hS0 ?_
      change wpAnyH _ _ _ _ _ _ _ (Act.put _ (some 52) _) _; dsimp only [Act.put]; simp only [List.setIfInBounds_toArray, List.set_cons_succ, List.set_cons_zero]
      refine wpAnyH_take (i := 9) (v := .int .i64 (k : Int)) rfl (by kernel_rfl) (by kernel_rfl) (by kernel_rfl) (fun _ _ _ h => h) (Yields.yieldsIf (Or.inl ⟨by rfl, fun w9 => by (go_simp; first | done | with_reducible rfl | (intro h9; exfalso; omega))⟩)) hS0 ?_
      change wpAnyH _ _ _ _ _ _ _ (Act.put _ (some 53) _) _; dsimp only [Act.put]; simp only [List.setIfInBounds_toArray, List.set_cons_succ, List.set_cons_zero]
      refine wpAnyH_take (i := 10) (v := .pointer (some ⟨b4, o4 + k * 4, none⟩)) rfl (by kernel_rfl) (by kernel_rfl) (by kernel_rfl) (fun _ _ _ h => h) (Yields.yieldsIf (Or.inl ⟨by rfl, fun w9 => by (go_simp; first | done | with_reducible rfl | (intro h9; exfalso; omega))⟩)) hS0 ?_
      change wpAnyH _ _ _ _ _ _ _ (Act.put _ (some 54) _) _; dsimp only [Act.put]; simp only [List.setIfInBounds_toArray, List.set_cons_succ, List.set_cons_zero]
      refine wpAnyH_take (i := 11) (v := .pointer (some ⟨b4, o4 + k * 4, none⟩)) rfl (by kernel_rfl) (by kernel_rfl) (by kernel_rfl) (fun _ _ _ h => h) (Yields.yieldsIf (Or.inl ⟨by rfl, fun w9 => by (go_simp; first | done | with_reducible rfl | (intro h9; exfalso; omega))⟩)) hS0 ?_
      change wpAnyH _ _ _ _ _ _ _ (Act.put _ (some 55) _) _; dsimp only [Act.put]; simp only [List.setIfInBounds_toArray, List.set_cons_succ, List.set_cons_zero]
      refine wpAnyH_take (i := 12) (v := .agg (⟨x.po, x.ch⟩ : Pe).row) rfl (by kernel_rfl) (by kernel_rfl) (by kernel_rfl) (fun _ _ _ h => h) (Or.inl ⟨by rfl, fun w9 hS9 => exec_loadPeAt (.tmp 55) rfl b4 (o4 + k * 4) (by first | rfl | simp [Act.eval, Act.put]) ⟨x.po, x.ch⟩ (range_belowS (range_pe hg4) hS9 hx4)⟩) hS0 ?_
      change wpAnyH _ _ _ _ _ _ _ (Act.put _ (some 56) _) _; dsimp only [Act.put]; simp only [List.setIfInBounds_toArray, List.set_cons_succ, List.set_cons_zero]
      refine wpAnyH_take (i := 13) (v := .bool false) rfl (by kernel_rfl) (by kernel_rfl) (by kernel_rfl) (fun _ _ _ h => h) (Or.inl ⟨by rfl, fun w9 hS9 => exec_neqPe 48 56 rfl ⟨x.po, x.ch⟩ (by first | rfl | simp [Act.eval, Act.put]) (by first | rfl | simp [Act.eval, Act.put])⟩) hS0 ?_
      change wpAnyH _ _ _ _ _ _ _ (Act.put _ (some 57) _) _; dsimp only [Act.put]; simp only [List.setIfInBounds_toArray, List.set_cons_succ, List.set_cons_zero]
      refine wpAnyH_take (i := 14) (v := .bool false) rfl (by kernel_rfl) (by kernel_rfl) (by kernel_rfl) (fun _ _ _ h => h) (Yields.yieldsIf (Or.inl ⟨by rfl, fun w9 => by (go_simp; first | done | with_reducible rfl | (intro h9; exfalso; omega))⟩)) hS0 ?_
      change wpAnyH _ _ _ _ _ _ _ (Act.put _ (some 58) _) _; dsimp only [Act.put]; simp only [List.setIfInBounds_toArray, List.set_cons_succ, List.set_cons_zero]
      refine wpAnyH_take (i := 15) (v := .slice (some ⟨b3, o3, none⟩) N c5) rfl (by kernel_rfl) (by kernel_rfl) (by kernel_rfl) (fun _ _ _ h => h) (Yields.yieldsIf (Or.inl ⟨by rfl, fun w9 => by (go_simp; first | done | with_reducible rfl | (intro h9; exfalso; omega))⟩)) hS0 ?_
      change wpAnyH _ _ _ _ _ _ _ (Act.put _ (some 59) _) _; dsimp only [Act.put]; simp only [List.setIfInBounds_toArray, List.set_cons_succ, List.set_cons_zero]
      refine wpAnyH_take (i := 16) (v := .int .i64 (k : Int)) rfl (by kernel_rfl) (by kernel_rfl) (by kernel_rfl) (fun _ _ _ h => h) (Yields.yieldsIf (Or.inl ⟨by rfl, fun w9 => by (go_simp; first | done | with_reducible rfl | (intro h9; exfalso; omega))⟩)) hS0 ?_
      change wpAnyH _ _ _ _ _ _ _ (Act.put _ (some 60) _) _; dsimp only [Act.put]; simp only [List.setIfInBounds_toArray, List.set_cons_succ, List.set_cons_zero]
      refine wpAnyH_take (i := 17) (v := .pointer (some ⟨b3, o3 + k * 4, none⟩)) rfl (by kernel_rfl) (by kernel_rfl) (by kernel_rfl) (fun _ _ _ h => h) (Yields.yieldsIf (Or.inl ⟨by rfl, fun w9 => by (go_simp; first | done | with_reducible rfl | (intro h9; exfalso; omega))⟩)) hS0 ?_
      change wpAnyH _ _ _ _ _ _ _ (Act.put _ (some 61) _) _; dsimp only [Act.put]; simp only [List.setIfInBounds_toArray, List.set_cons_succ, List.set_cons_zero]
      refine wpAnyH_take (i := 18) (v := .pointer (some ⟨b3, o3 + k * 4 + 2, none⟩)) rfl (by kernel_rfl) (by kernel_rfl) (by kernel_rfl) (fun _ _ _ h => h) (Yields.yieldsIf (Or.inl ⟨by rfl, fun w9 => by (go_simp; first | done | with_reducible rfl | (intro h9; exfalso; omega))⟩)) hS0 ?_
      change wpAnyH _ _ _ _ _ _ _ (Act.put _ (some 62) _) _; dsimp only [Act.put]; simp only [List.setIfInBounds_toArray, List.set_cons_succ, List.set_cons_zero]
      as_aux_lemma =>
        refine wpAnyH_take (i := 19) (v := .bool x.ou) rfl (by kernel_rfl) (by kernel_rfl) (by kernel_rfl) (fun _ _ _ h => h) (Or.inl ⟨by rfl, fun w9 hS9 => by have hc9 := (hS9.cell hx3).trans k2; go_simp; try with_reducible rfl⟩) hS0 ?_
        change wpAnyH _ _ _ _ _ _ _ (Act.put _ (some 63) _) _; dsimp only [Act.put]; simp only [List.setIfInBounds_toArray, List.set_cons_succ, List.set_cons_zero]
        refine wpAnyH_take (i := 20) (v := .pointer (some ⟨d, 0, none⟩)) rfl (by kernel_rfl) (by kernel_rfl) (by kernel_rfl) (fun _ _ _ h => h) (Yields.yieldsIf (Or.inl ⟨by rfl, fun w9 => by (go_simp; first | done | with_reducible rfl | (intro h9; exfalso; omega))⟩)) hS0 ?_
        change wpAnyH _ _ _ _ _ _ _ (Act.put _ (some 64) _) _; dsimp only [Act.put]; simp only [List.setIfInBounds_toArray, List.set_cons_succ, List.set_cons_zero]
        refine wpAnyH_take (i := 21) (v := .pointer (some ⟨d, 0, none⟩)) rfl (by kernel_rfl) (by kernel_rfl) (by kernel_rfl) (fun _ _ _ h => h) (Yields.yieldsIf (Or.inl ⟨by rfl, fun w9 => by (go_simp; first | done | with_reducible rfl | (intro h9; exfalso; omega))⟩)) hS0 ?_
        change wpAnyH _ _ _ _ _ _ _ (Act.put _ (some 65) _) _; dsimp only [Act.put]; simp only [List.setIfInBounds_toArray, List.set_cons_succ, List.set_cons_zero]
        refine wpAnyH_take (i := 22) (v := .pointer (some ⟨d, 0, none⟩)) rfl (by kernel_rfl) (by kernel_rfl) (by kernel_rfl) (fun _ _ _ h => h) (Yields.yieldsIf (Or.inl ⟨by rfl, fun w9 => by (go_simp; first | done | with_reducible rfl | (intro h9; exfalso; omega))⟩)) hS0 ?_
        change wpAnyH _ _ _ _ _ _ _ (Act.put _ (some 66) _) _; dsimp only [Act.put]; simp only [List.setIfInBounds_toArray, List.set_cons_succ, List.set_cons_zero]
        refine wpAnyH_take (i := 23) (v := .slice (some ⟨b4, o4, none⟩) N ck) rfl (by kernel_rfl) (by kernel_rfl) (by kernel_rfl) (fun _ _ _ h => h) (Or.inl ⟨by rfl, fun w9 hS9 => by have hc9 := (hS9.cell hdl).trans hdc; go_simp; try with_reducible rfl⟩) hS0 ?_
        change wpAnyH _ _ _ _ _ _ _ (Act.put _ (some 67) _) _; dsimp only [Act.put]; simp only [List.setIfInBounds_toArray, List.set_cons_succ, List.set_cons_zero]
        refine wpAnyH_take (i := 24) (v := .int .i64 (k : Int)) rfl (by kernel_rfl) (by kernel_rfl) (by kernel_rfl) (fun _ _ _ h => h) (Yields.yieldsIf (Or.inl ⟨by rfl, fun w9 => by (go_simp; first | done | with_reducible rfl | (intro h9; exfalso; omega))⟩)) hS0 ?_
        change wpAnyH _ _ _ _ _ _ _ (Act.put _ (some 68) _) _; dsimp only [Act.put]; simp only [List.setIfInBounds_toArray, List.set_cons_succ, List.set_cons_zero]
        refine wpAnyH_take (i := 25) (v := .pointer (some ⟨b4, o4 + k * 4, none⟩)) rfl (by kernel_rfl) (by kernel_rfl) (by kernel_rfl) (fun _ _ _ h => h) (Yields.yieldsIf (Or.inl ⟨by rfl, fun w9 => by (go_simp; first | done | with_reducible rfl | (intro h9; exfalso; omega))⟩)) hS0 ?_
        change wpAnyH _ _ _ _ _ _ _ (Act.put _ (some 69) _) _; dsimp only [Act.put]; simp only [List.setIfInBounds_toArray, List.set_cons_succ, List.set_cons_zero]
        refine wpAnyH_take (i := 26) (v := .pointer (some ⟨b4, o4 + k * 4 + 2, none⟩)) rfl (by kernel_rfl) (by kernel_rfl) (by kernel_rfl) (fun _ _ _ h => h) (Yields.yieldsIf (Or.inl ⟨by rfl, fun w9 => by (go_simp; first | done | with_reducible rfl | (intro h9; exfalso; omega))⟩)) hS0 ?_
        change wpAnyH _ _ _ _ _ _ _ (Act.put _ (some 70) _) _; dsimp only [Act.put]; simp only [List.setIfInBounds_toArray, List.set_cons_succ, List.set_cons_zero]
        refine wpAnyH_take (i := 27) (v := .bool x.ou) rfl (by kernel_rfl) (by kernel_rfl) (by kernel_rfl) (fun _ _ _ h => h) (Or.inl ⟨by rfl, fun w9 hS9 => by have hc9 := (hS9.cell hx4).trans m2; go_simp; try with_reducible rfl⟩) hS0 ?_
        change wpAnyH _ _ _ _ _ _ _ (Act.put _ (some 71) _) _; dsimp only [Act.put]; simp only [List.setIfInBounds_toArray, List.set_cons_succ, List.set_cons_zero]
        refine wpAnyH_take (i := 28) (v := .bool false) rfl (by kernel_rfl) (by kernel_rfl) (by kernel_rfl) (fun _ _ _ h => h) (Yields.yieldsIf (Or.inl ⟨by rfl, fun w9 => by (go_simp; first | done | with_reducible rfl | (intro h9; exfalso; omega))⟩)) hS0 ?_
        change wpAnyH _ _ _ _ _ _ _ (Act.put _ (some 72) _) _; dsimp only [Act.put]; simp only [List.setIfInBounds_toArray, List.set_cons_succ, List.set_cons_zero]
        refine wpAnyH_take (i := 29) (v := .bool false) rfl (by kernel_rfl) (by kernel_rfl) (by kernel_rfl) (fun _ _ _ h => h) (Yields.yieldsIf (Or.inl ⟨by rfl, fun w9 => by (go_simp; first | done | with_reducible rfl | (intro h9; exfalso; omega))⟩)) hS0 ?_
        change wpAnyH _ _ _ _ _ _ _ (Act.put _ (some 73) _) _; dsimp only [Act.put]; simp only [List.setIfInBounds_toArray, List.set_cons_succ, List.set_cons_zero]
        refine wpAnyH_take (i := 30) (v := .bool false) rfl (by kernel_rfl) (by kernel_rfl) (by kernel_rfl) (fun _ _ _ h => h) (Yields.yieldsIf (Or.inl ⟨by rfl, fun w9 => by (go_simp; first | done | with_reducible rfl | (intro h9; exfalso; omega))⟩)) hS0 ?_
        change wpAnyH _ _ _ _ _ _ _ (Act.put _ (some 74) _) _; dsimp only [Act.put]; simp only [List.setIfInBounds_toArray, List.set_cons_succ, List.set_cons_zero]
        refine wpAnyH_take (i := 31) (v := .slice (some ⟨b3, o3, none⟩) N c5) rfl (by kernel_rfl) (by kernel_rfl) (by kernel_rfl) (fun _ _ _ h => h) (Yields.yieldsIf (Or.inl ⟨by rfl, fun w9 => by (go_simp; first | done | with_reducible rfl | (intro h9; exfalso; omega))⟩)) hS0 ?_
        change wpAnyH _ _ _ _ _ _ _ (Act.put _ (some 75) _) _; dsimp only [Act.put]; simp only [List.setIfInBounds_toArray, List.set_cons_succ, List.set_cons_zero]
        refine wpAnyH_take (i := 32) (v := .int .i64 (k : Int)) rfl (by kernel_rfl) (by kernel_rfl) (by kernel_rfl) (fun _ _ _ h => h) (Yields.yieldsIf (Or.inl ⟨by rfl, fun w9 => by (go_simp; first | done | with_reducible rfl | (intro h9; exfalso; omega))⟩)) hS0 ?_
        change wpAnyH _ _ _ _ _ _ _ (Act.put _ (some 76) _) _; dsimp only [Act.put]; simp only [List.setIfInBounds_toArray, List.set_cons_succ, List.set_cons_zero]
        refine wpAnyH_take (i := 33) (v := .pointer (some ⟨b3, o3 + k * 4, none⟩)) rfl (by kernel_rfl) (by kernel_rfl) (by kernel_rfl) (fun _ _ _ h => h) (Yields.yieldsIf (Or.inl ⟨by rfl, fun w9 => by (go_simp; first | done | with_reducible rfl | (intro h9; exfalso; omega))⟩)) hS0 ?_
        change wpAnyH _ _ _ _ _ _ _ (Act.put _ (some 77) _) _; dsimp only [Act.put]; simp only [List.setIfInBounds_toArray, List.set_cons_succ, List.set_cons_zero]
        refine wpAnyH_take (i := 34) (v := .pointer (some ⟨b3, o3 + k * 4 + 3, none⟩)) rfl (by kernel_rfl) (by kernel_rfl) (by kernel_rfl) (fun _ _ _ h => h) (Yields.yieldsIf (Or.inl ⟨by rfl, fun w9 => by (go_simp; first | done | with_reducible rfl | (intro h9; exfalso; omega))⟩)) hS0 ?_
        change wpAnyH _ _ _ _ _ _ _ (Act.put _ (some 78) _) _; dsimp only [Act.put]; simp only [List.setIfInBounds_toArray, List.set_cons_succ, List.set_cons_zero]
        refine wpAnyH_take (i := 35) (v := .int .i64 x.sq) rfl (by kernel_rfl) (by kernel_rfl) (by kernel_rfl) (fun _ _ _ h => h) (Or.inl ⟨by rfl, fun w9 hS9 => by have hc9 := (hS9.cell hx3).trans k3; go_simp; try with_reducible rfl⟩) hS0 ?_
        change wpAnyH _ _ _ _ _ _ _ (Act.put _ (some 79) _) _; dsimp only [Act.put]; simp only [List.setIfInBounds_toArray, List.set_cons_succ, List.set_cons_zero]
        refine wpAnyH_take (i := 36) (v := .pointer (some ⟨d, 0, none⟩)) rfl (by kernel_rfl) (by kernel_rfl) (by kernel_rfl) (fun _ _ _ h => h) (Yields.yieldsIf (Or.inl ⟨by rfl, fun w9 => by (go_simp; first | done | with_reducible rfl | (intro h9; exfalso; omega))⟩)) hS0 ?_
        change wpAnyH _ _ _ _ _ _ _ (Act.put _ (some 80) _) _; dsimp only [Act.put]; simp only [List.setIfInBounds_toArray, List.set_cons_succ, List.set_cons_zero]
        refine wpAnyH_take (i := 37) (v := .pointer (some ⟨d, 0, none⟩)) rfl (by kernel_rfl) (by kernel_rfl) (by kernel_rfl) (fun _ _ _ h => h) (Yields.yieldsIf (Or.inl ⟨by rfl, fun w9 => by (go_simp; first | done | with_reducible rfl | (intro h9; exfalso; omega))⟩)) hS0 ?_
        change wpAnyH _ _ _ _ _ _ _ (Act.put _ (some 81) _) _; dsimp only [Act.put]; simp only [List.setIfInBounds_toArray, List.set_cons_succ, List.set_cons_zero]
        refine wpAnyH_take (i := 38) (v := .pointer (some ⟨d, 0, none⟩)) rfl (by kernel_rfl) (by kernel_rfl) (by kernel_rfl) (fun _ _ _ h => h) (Yields.yieldsIf (Or.inl ⟨by rfl, fun w9 => by (go_simp; first | done | with_reducible rfl | (intro h9; exfalso; omega))⟩)) hS0 ?_
        change wpAnyH _ _ _ _ _ _ _ (Act.put _ (some 82) _) _; dsimp only [Act.put]; simp only [List.setIfInBounds_toArray, List.set_cons_succ, List.set_cons_zero]
        as_aux_lemma =>
          refine wpAnyH_take (i := 39) (v := .slice (some ⟨b4, o4, none⟩) N ck) rfl (by kernel_rfl) (by kernel_rfl) (by kernel_rfl) (fun _ _ _ h => h) (Or.inl ⟨by rfl, fun w9 hS9 => by have hc9 := (hS9.cell hdl).trans hdc; go_simp; try with_reducible rfl⟩) hS0 ?_
          change wpAnyH _ _ _ _ _ _ _ (Act.put _ (some 83) _) _; dsimp only [Act.put]; simp only [List.setIfInBounds_toArray, List.set_cons_succ, List.set_cons_zero]
          refine wpAnyH_take (i := 40) (v := .int .i64 (k : Int)) rfl (by kernel_rfl) (by kernel_rfl) (by kernel_rfl) (fun _ _ _ h => h) (Yields.yieldsIf (Or.inl ⟨by rfl, fun w9 => by (go_simp; first | done | with_reducible rfl | (intro h9; exfalso; omega))⟩)) hS0 ?_
          change wpAnyH _ _ _ _ _ _ _ (Act.put _ (some 84) _) _; dsimp only [Act.put]; simp only [List.setIfInBounds_toArray, List.set_cons_succ, List.set_cons_zero]
          refine wpAnyH_take (i := 41) (v := .pointer (some ⟨b4, o4 + k * 4, none⟩)) rfl (by kernel_rfl) (by kernel_rfl) (by kernel_rfl) (fun _ _ _ h => h) (Yields.yieldsIf (Or.inl ⟨by rfl, fun w9 => by (go_simp; first | done | with_reducible rfl | (intro h9; exfalso; omega))⟩)) hS0 ?_
          change wpAnyH _ _ _ _ _ _ _ (Act.put _ (some 85) _) _; dsimp only [Act.put]; simp only [List.setIfInBounds_toArray, List.set_cons_succ, List.set_cons_zero]
          refine wpAnyH_take (i := 42) (v := .pointer (some ⟨b4, o4 + k * 4 + 3, none⟩)) rfl (by kernel_rfl) (by kernel_rfl) (by kernel_rfl) (fun _ _ _ h => h) (Yields.yieldsIf (Or.inl ⟨by rfl, fun w9 => by (go_simp; first | done | with_reducible rfl | (intro h9; exfalso; omega))⟩)) hS0 ?_
          change wpAnyH _ _ _ _ _ _ _ (Act.put _ (some 86) _) _; dsimp only [Act.put]; simp only [List.setIfInBounds_toArray, List.set_cons_succ, List.set_cons_zero]
          refine wpAnyH_take (i := 43) (v := .int .i64 x.sq) rfl (by kernel_rfl) (by kernel_rfl) (by kernel_rfl) (fun _ _ _ h => h) (Or.inl ⟨by rfl, fun w9 hS9 => by have hc9 := (hS9.cell hx4).trans m3; go_simp; try with_reducible rfl⟩) hS0 ?_
          change wpAnyH _ _ _ _ _ _ _ (Act.put _ (some 87) _) _; dsimp only [Act.put]; simp only [List.setIfInBounds_toArray, List.set_cons_succ, List.set_cons_zero]
          refine wpAnyH_take (i := 44) (v := .bool false) rfl (by kernel_rfl) (by kernel_rfl) (by kernel_rfl) (fun _ _ _ h => h) (Yields.yieldsIf (Or.inl ⟨by rfl, fun w9 => by (go_simp; first | done | with_reducible rfl | (intro h9; exfalso; omega))⟩)) hS0 ?_
          change wpAnyH _ _ _ _ _ _ _ (Act.put _ (some 88) _) _; dsimp only [Act.put]; simp only [List.setIfInBounds_toArray, List.set_cons_succ, List.set_cons_zero]
          refine wpAnyH_take (i := 45) (v := .bool false) rfl (by kernel_rfl) (by kernel_rfl) (by kernel_rfl) (fun _ _ _ h => h) (Yields.yieldsIf (Or.inl ⟨by rfl, fun w9 => by (go_simp; first | done | with_reducible rfl | (intro h9; exfalso; omega))⟩)) hS0 ?_
          change wpAnyH _ _ _ _ _ _ _ (Act.put _ (some 89) _) _; dsimp only [Act.put]; simp only [List.setIfInBounds_toArray, List.set_cons_succ, List.set_cons_zero]
          refine wpAnyH_take (i := 46) (v := .bool false) rfl (by kernel_rfl) (by kernel_rfl) (by kernel_rfl) (fun _ _ _ h => h) (Yields.yieldsIf (Or.inl ⟨by rfl, fun w9 => by (go_simp; first | done | with_reducible rfl | (intro h9; exfalso; omega))⟩)) hS0 ?_
          change wpAnyH _ _ _ _ _ _ _ (Act.put _ (some 90) _) _; dsimp only [Act.put]; simp only [List.setIfInBounds_toArray, List.set_cons_succ, List.set_cons_zero]
          refine wpAnyH_take (i := 47) (v := .bool true) rfl (by kernel_rfl) (by kernel_rfl) (by kernel_rfl) (fun _ _ _ h => h) (Yields.yieldsIf (Or.inl ⟨by rfl, fun w9 => by (go_simp; first | done | with_reducible rfl | (intro h9; exfalso; omega))⟩)) hS0 ?_
          change wpAnyH _ _ _ _ _ _ _ (Act.put _ (some 91) _) _; dsimp only [Act.put]; simp only [List.setIfInBounds_toArray, List.set_cons_succ, List.set_cons_zero]
          refine wpAnyH_take (i := 48) (v := .bool false) rfl (by kernel_rfl) (by kernel_rfl) (by kernel_rfl) (fun _ _ _ h => h) (Yields.yieldsIf (Or.inl ⟨by rfl, fun w9 => by (go_simp; first | done | with_reducible rfl | (intro h9; exfalso; omega))⟩)) hS0 ?_
          change wpAnyH _ _ _ _ _ _ _ (Act.put _ (some 92) _) _; dsimp only [Act.put]; simp only [List.setIfInBounds_toArray, List.set_cons_succ, List.set_cons_zero]
          refine wpAnyH_take (i := 49) (v := .bool false) rfl (by kernel_rfl) (by kernel_rfl) (by kernel_rfl) (fun _ _ _ h => h) (Yields.yieldsIf (Or.inl ⟨by rfl, fun w9 => by (go_simp; first | done | with_reducible rfl | (intro h9; exfalso; omega))⟩)) hS0 ?_
          change wpAnyH _ _ _ _ _ _ _ (Act.put _ (some 93) _) _; dsimp only [Act.put]; simp only [List.setIfInBounds_toArray, List.set_cons_succ, List.set_cons_zero]
          refine wpAnyH_take (i := 50) (v := .bool false) rfl (by kernel_rfl) (by kernel_rfl) (by kernel_rfl) (fun _ _ _ h => h) (Yields.yieldsIf (Or.inl ⟨by rfl, fun w9 => by (go_simp; first | done | with_reducible rfl | (intro h9; exfalso; omega))⟩)) hS0 ?_
          change wpAnyH _ _ _ _ _ _ _ (Act.put _ (some 94) _) _; dsimp only [Act.put]; simp only [List.setIfInBounds_toArray, List.set_cons_succ, List.set_cons_zero]
          refine wpAnyH_take (i := 51) (v := .pointer (some ⟨w5.heap.size, 0, none⟩)) rfl (by kernel_rfl) (by kernel_rfl) (by kernel_rfl) (fun _ _ _ h => h) (Yields.yieldsIf (Or.inl ⟨by rfl, fun w9 => by (go_simp; first | done | with_reducible rfl | (intro h9; exfalso; omega))⟩)) hS0 ?_
          change wpAnyH _ _ _ _ _ _ _ (Act.put _ (some 95) _) _; dsimp only [Act.put]; simp only [List.setIfInBounds_toArray, List.set_cons_succ, List.set_cons_zero]
          refine wpAnyH_take (i := 52) (v := .agg e.pkL.toArray) rfl (by kernel_rfl) (by kernel_rfl) (by kernel_rfl) (fun _ _ _ h => h) (Or.inl ⟨by rfl, fun w9 hS9 => exec_loadPkE (.tmp 95) rfl w5.heap.size (by first | rfl | simp [Act.eval, Act.put]) e (pk_range (cells_of hU1 hS9 (row_lt hU1)))⟩) hS0 ?_
          change wpAnyH _ _ _ _ _ _ _ (Act.put _ (some 96) _) _; dsimp only [Act.put]; simp only [List.setIfInBounds_toArray, List.set_cons_succ, List.set_cons_zero]
          refine wpAnyH_take (i := 53) (v := .pointer (some ⟨wU.heap.size, 0, none⟩)) rfl (by kernel_rfl) (by kernel_rfl) (by kernel_rfl) (fun _ _ _ h => h) (Yields.yieldsIf (Or.inl ⟨by rfl, fun w9 => by (go_simp; first | done | with_reducible rfl | (intro h9; exfalso; omega))⟩)) hS0 ?_
          change wpAnyH _ _ _ _ _ _ _ (Act.put _ (some 97) _) _; dsimp only [Act.put]; simp only [List.setIfInBounds_toArray, List.set_cons_succ, List.set_cons_zero]
          refine wpAnyH_take (i := 54) (v := .agg e.pkL.toArray) rfl (by kernel_rfl) (by kernel_rfl) (by kernel_rfl) (fun _ _ _ h => h) (Or.inl ⟨by rfl, fun w9 hS9 => exec_loadPkE (.tmp 97) rfl wU.heap.size (by first | rfl | simp [Act.eval, Act.put]) e (pk_range (cells_of hV1 hS9 (row_lt hV1)))⟩) hS0 ?_
          change wpAnyH _ _ _ _ _ _ _ (Act.put _ (some 98) _) _; dsimp only [Act.put]; simp only [List.setIfInBounds_toArray, List.set_cons_succ, List.set_cons_zero]
          refine wpAnyH_take (i := 55) (v := .bool false) rfl (by kernel_rfl) (by kernel_rfl) (by kernel_rfl) (fun _ _ _ h => h) (Or.inl ⟨by rfl, fun w9 hS9 => exec_neqPkE 96 98 rfl e (by first | rfl | simp [Act.eval, Act.put]) (by first | rfl | simp [Act.eval, Act.put])⟩) hS0 ?_
          change wpAnyH _ _ _ _ _ _ _ (Act.put _ (some 99) _) _; dsimp only [Act.put]; simp only [List.setIfInBounds_toArray, List.set_cons_succ, List.set_cons_zero]
          refine wpAnyH_take (i := 56) (v := .bool false) rfl (by kernel_rfl) (by kernel_rfl) (by kernel_rfl) (fun _ _ _ h => h) (Yields.yieldsIf (Or.inl ⟨by rfl, fun w9 => by (go_simp; first | done | with_reducible rfl | (intro h9; exfalso; omega))⟩)) hS0 ?_
          change wpAnyH _ _ _ _ _ _ _ (Act.put _ (some 100) _) _; dsimp only [Act.put]; simp only [List.setIfInBounds_toArray, List.set_cons_succ, List.set_cons_zero]
          refine wpAnyH_take (i := 57) (v := .bool false) rfl (by kernel_rfl) (by kernel_rfl) (by kernel_rfl) (fun _ _ _ h => h) (Yields.yieldsIf (Or.inl ⟨by rfl, fun w9 => by (go_simp; first | done | with_reducible rfl | (intro h9; exfalso; omega))⟩)) hS0 ?_
          change wpAnyH _ _ _ _ _ _ _ (Act.put _ (some 101) _) _; dsimp only [Act.put]; simp only [List.setIfInBounds_toArray, List.set_cons_succ, List.set_cons_zero]
          refine wpAnyH_take (i := 58) (v := .pointer (some ⟨w5.heap.size, 8, none⟩)) rfl (by kernel_rfl) (by kernel_rfl) (by kernel_rfl) (fun _ _ _ h => h) (Yields.yieldsIf (Or.inl ⟨by rfl, fun w9 => by (go_simp; first | done | with_reducible rfl | (intro h9; exfalso; omega))⟩)) hS0 ?_
          change wpAnyH _ _ _ _ _ _ _ (Act.put _ (some 102) _) _; dsimp only [Act.put]; simp only [List.setIfInBounds_toArray, List.set_cons_succ, List.set_cons_zero]
          as_aux_lemma =>
            refine wpAnyH_take (i := 59) (v := .string e.ack) rfl (by kernel_rfl) (by kernel_rfl) (by kernel_rfl) (fun _ _ _ h => h) (Or.inl ⟨by rfl, fun w9 hS9 => by have hc9 := (hS9.cell (row_lt hU1)).trans u8; go_simp; try with_reducible rfl⟩) hS0 ?_
            change wpAnyH _ _ _ _ _ _ _ (Act.put _ (some 103) _) _; dsimp only [Act.put]; simp only [List.setIfInBounds_toArray, List.set_cons_succ, List.set_cons_zero]
            refine wpAnyH_take (i := 60) (v := .pointer (some ⟨wU.heap.size, 8, none⟩)) rfl (by kernel_rfl) (by kernel_rfl) (by kernel_rfl) (fun _ _ _ h => h) (Yields.yieldsIf (Or.inl ⟨by rfl, fun w9 => by (go_simp; first | done | with_reducible rfl | (intro h9; exfalso; omega))⟩)) hS0 ?_
            change wpAnyH _ _ _ _ _ _ _ (Act.put _ (some 104) _) _; dsimp only [Act.put]; simp only [List.setIfInBounds_toArray, List.set_cons_succ, List.set_cons_zero]
            refine wpAnyH_take (i := 61) (v := .string e.ack) rfl (by kernel_rfl) (by kernel_rfl) (by kernel_rfl) (fun _ _ _ h => h) (Or.inl ⟨by rfl, fun w9 hS9 => by have hc9 := (hS9.cell (row_lt hV1)).trans v8; go_simp; try with_reducible rfl⟩) hS0 ?_
            change wpAnyH _ _ _ _ _ _ _ (Act.put _ (some 105) _) _; dsimp only [Act.put]; simp only [List.setIfInBounds_toArray, List.set_cons_succ, List.set_cons_zero]
            refine wpAnyH_take (i := 62) (v := .bool false) rfl (by kernel_rfl) (by kernel_rfl) (by kernel_rfl) (fun _ _ _ h => h) (Yields.yieldsIf (Or.inl ⟨by rfl, fun w9 => by (go_simp; first | done | with_reducible rfl | (intro h9; exfalso; omega))⟩)) hS0 ?_
            change wpAnyH _ _ _ _ _ _ _ (Act.put _ (some 106) _) _; dsimp only [Act.put]; simp only [List.setIfInBounds_toArray, List.set_cons_succ, List.set_cons_zero]
            refine wpAnyH_take (i := 63) (v := .bool false) rfl (by kernel_rfl) (by kernel_rfl) (by kernel_rfl) (fun _ _ _ h => h) (Yields.yieldsIf (Or.inl ⟨by rfl, fun w9 => by (go_simp; first | done | with_reducible rfl | (intro h9; exfalso; omega))⟩)) hS0 ?_
            change wpAnyH _ _ _ _ _ _ _ (Act.put _ (some 107) _) _; dsimp only [Act.put]; simp only [List.setIfInBounds_toArray, List.set_cons_succ, List.set_cons_zero]
            refine wpAnyH_take (i := 64) (v := .bool false) rfl (by kernel_rfl) (by kernel_rfl) (by kernel_rfl) (fun _ _ _ h => h) (Yields.yieldsIf (Or.inl ⟨by rfl, fun w9 => by (go_simp; first | done | with_reducible rfl | (intro h9; exfalso; omega))⟩)) hS0 ?_
            change wpAnyH _ _ _ _ _ _ _ (Act.put _ (some 108) _) _; dsimp only [Act.put]; simp only [List.setIfInBounds_toArray, List.set_cons_succ, List.set_cons_zero]
            refine wpAnyH_take (i := 65) (v := .pointer (some ⟨w5.heap.size, 9, none⟩)) rfl (by kernel_rfl) (by kernel_rfl) (by kernel_rfl) (fun _ _ _ h => h) (Yields.yieldsIf (Or.inl ⟨by rfl, fun w9 => by (go_simp; first | done | with_reducible rfl | (intro h9; exfalso; omega))⟩)) hS0 ?_
            change wpAnyH _ _ _ _ _ _ _ (Act.put _ (some 109) _) _; dsimp only [Act.put]; simp only [List.setIfInBounds_toArray, List.set_cons_succ, List.set_cons_zero]
            refine wpAnyH_take (i := 66) (v := .bool e.se) rfl (by kernel_rfl) (by kernel_rfl) (by kernel_rfl) (fun _ _ _ h => h) (Or.inl ⟨by rfl, fun w9 hS9 => by have hc9 := (hS9.cell (row_lt hU1)).trans u9; go_simp; try with_reducible rfl⟩) hS0 ?_
            change wpAnyH _ _ _ _ _ _ _ (Act.put _ (some 110) _) _; dsimp only [Act.put]; simp only [List.setIfInBounds_toArray, List.set_cons_succ, List.set_cons_zero]
            refine wpAnyH_take (i := 67) (v := .pointer (some ⟨wU.heap.size, 9, none⟩)) rfl (by kernel_rfl) (by kernel_rfl) (by kernel_rfl) (fun _ _ _ h => h) (Yields.yieldsIf (Or.inl ⟨by rfl, fun w9 => by (go_simp; first | done | with_reducible rfl | (intro h9; exfalso; omega))⟩)) hS0 ?_
            change wpAnyH _ _ _ _ _ _ _ (Act.put _ (some 111) _) _; dsimp only [Act.put]; simp only [List.setIfInBounds_toArray, List.set_cons_succ, List.set_cons_zero]
            refine wpAnyH_take (i := 68) (v := .bool e.se) rfl (by kernel_rfl) (by kernel_rfl) (by kernel_rfl) (fun _ _ _ h => h) (Or.inl ⟨by rfl, fun w9 hS9 => by have hc9 := (hS9.cell (row_lt hV1)).trans v9; go_simp; try with_reducible rfl⟩) hS0 ?_
            change wpAnyH _ _ _ _ _ _ _ (Act.put _ (some 112) _) _; dsimp only [Act.put]; simp only [List.setIfInBounds_toArray, List.set_cons_succ, List.set_cons_zero]
            refine wpAnyH_take (i := 69) (v := .bool false) rfl (by kernel_rfl) (by kernel_rfl) (by kernel_rfl) (fun _ _ _ h => h) (Yields.yieldsIf (Or.inl ⟨by rfl, fun w9 => by (go_simp; first | done | with_reducible rfl | (intro h9; exfalso; omega))⟩)) hS0 ?_
            change wpAnyH _ _ _ _ _ _ _ (Act.put _ (some 113) _) _; dsimp only [Act.put]; simp only [List.setIfInBounds_toArray, List.set_cons_succ, List.set_cons_zero]
            refine wpAnyH_take (i := 70) (v := .bool false) rfl (by kernel_rfl) (by kernel_rfl) (by kernel_rfl) (fun _ _ _ h => h) (Yields.yieldsIf (Or.inl ⟨by rfl, fun w9 => by (go_simp; first | done | with_reducible rfl | (intro h9; exfalso; omega))⟩)) hS0 ?_
            change wpAnyH _ _ _ _ _ _ _ (Act.put _ (some 114) _) _; dsimp only [Act.put]; simp only [List.setIfInBounds_toArray, List.set_cons_succ, List.set_cons_zero]
            refine wpAnyH_take (i := 71) (v := .bool false) rfl (by kernel_rfl) (by kernel_rfl) (by kernel_rfl) (fun _ _ _ h => h) (Yields.yieldsIf (Or.inl ⟨by rfl, fun w9 => by (go_simp; first | done | with_reducible rfl | (intro h9; exfalso; omega))⟩)) hS0 ?_
            change wpAnyH _ _ _ _ _ _ _ (Act.put _ (some 115) _) _; dsimp only [Act.put]; simp only [List.setIfInBounds_toArray, List.set_cons_succ, List.set_cons_zero]
            refine wpAnyH_take (i := 72) (v := .pointer (some ⟨w5.heap.size, 10, none⟩)) rfl (by kernel_rfl) (by kernel_rfl) (by kernel_rfl) (fun _ _ _ h => h) (Yields.yieldsIf (Or.inl ⟨by rfl, fun w9 => by (go_simp; first | done | with_reducible rfl | (intro h9; exfalso; omega))⟩)) hS0 ?_
            change wpAnyH _ _ _ _ _ _ _ (Act.put _ (some 116) _) _; dsimp only [Act.put]; simp only [List.setIfInBounds_toArray, List.set_cons_succ, List.set_cons_zero]
            refine wpAnyH_take (i := 73) (v := .bool e.re) rfl (by kernel_rfl) (by kernel_rfl) (by kernel_rfl) (fun _ _ _ h => h) (Or.inl ⟨by rfl, fun w9 hS9 => by have hc9 := (hS9.cell (row_lt hU1)).trans u10; go_simp; try with_reducible rfl⟩) hS0 ?_
            change wpAnyH _ _ _ _ _ _ _ (Act.put _ (some 117) _) _; dsimp only [Act.put]; simp only [List.setIfInBounds_toArray, List.set_cons_succ, List.set_cons_zero]
            refine wpAnyH_take (i := 74) (v := .pointer (some ⟨wU.heap.size, 10, none⟩)) rfl (by kernel_rfl) (by kernel_rfl) (by kernel_rfl) (fun _ _ _ h => h) (Yields.yieldsIf (Or.inl ⟨by rfl, fun w9 => by (go_simp; first | done | with_reducible rfl | (intro h9; exfalso; omega))⟩)) hS0 ?_
            change wpAnyH _ _ _ _ _ _ _ (Act.put _ (some 118) _) _; dsimp only [Act.put]; simp only [List.setIfInBounds_toArray, List.set_cons_succ, List.set_cons_zero]
            refine wpAnyH_take (i := 75) (v := .bool e.re) rfl (by kernel_rfl) (by kernel_rfl) (by kernel_rfl) (fun _ _ _ h => h) (Or.inl ⟨by rfl, fun w9 hS9 => by have hc9 := (hS9.cell (row_lt hV1)).trans v10; go_simp; try with_reducible rfl⟩) hS0 ?_
            change wpAnyH _ _ _ _ _ _ _ (Act.put _ (some 119) _) _; dsimp only [Act.put]; simp only [List.setIfInBounds_toArray, List.set_cons_succ, List.set_cons_zero]
            refine wpAnyH_take (i := 76) (v := .bool false) rfl (by kernel_rfl) (by kernel_rfl) (by kernel_rfl) (fun _ _ _ h => h) (Yields.yieldsIf (Or.inl ⟨by rfl, fun w9 => by (go_simp; first | done | with_reducible rfl | (intro h9; exfalso; omega))⟩)) hS0 ?_
            change wpAnyH _ _ _ _ _ _ _ (Act.put _ (some 120) _) _; dsimp only [Act.put]; simp only [List.setIfInBounds_toArray, List.set_cons_succ, List.set_cons_zero]
            refine wpAnyH_take (i := 77) (v := .bool false) rfl (by kernel_rfl) (by kernel_rfl) (by kernel_rfl) (fun _ _ _ h => h) (Yields.yieldsIf (Or.inl ⟨by rfl, fun w9 => by (go_simp; first | done | with_reducible rfl | (intro h9; exfalso; omega))⟩)) hS0 ?_
            change wpAnyH _ _ _ _ _ _ _ (Act.put _ (some 121) _) _; dsimp only [Act.put]; simp only [List.setIfInBounds_toArray, List.set_cons_succ, List.set_cons_zero]
            refine wpAnyH_take (i := 78) (v := .bool false) rfl (by kernel_rfl) (by kernel_rfl) (by kernel_rfl) (fun _ _ _ h => h) (Yields.yieldsIf (Or.inl ⟨by rfl, fun w9 => by (go_simp; first | done | with_reducible rfl | (intro h9; exfalso; omega))⟩)) hS0 ?_
            change wpAnyH _ _ _ _ _ _ _ (Act.put _ (some 122) _) _; dsimp only [Act.put]; simp only [List.setIfInBounds_toArray, List.set_cons_succ, List.set_cons_zero]
            as_aux_lemma =>
              refine wpAnyH_take (i := 79) (v := .pointer (some ⟨w5.heap.size, 11, none⟩)) rfl (by kernel_rfl) (by kernel_rfl) (by kernel_rfl) (fun _ _ _ h => h) (Yields.yieldsIf (Or.inl ⟨by rfl, fun w9 => by (go_simp; first | done | with_reducible rfl | (intro h9; exfalso; omega))⟩)) hS0 ?_
              change wpAnyH _ _ _ _ _ _ _ (Act.put _ (some 123) _) _; dsimp only [Act.put]; simp only [List.setIfInBounds_toArray, List.set_cons_succ, List.set_cons_zero]
              refine wpAnyH_take (i := 80) (v := .bool e.wr) rfl (by kernel_rfl) (by kernel_rfl) (by kernel_rfl) (fun _ _ _ h => h) (Or.inl ⟨by rfl, fun w9 hS9 => by have hc9 := (hS9.cell (row_lt hU1)).trans u11; go_simp; try with_reducible rfl⟩) hS0 ?_
              change wpAnyH _ _ _ _ _ _ _ (Act.put _ (some 124) _) _; dsimp only [Act.put]; simp only [List.setIfInBounds_toArray, List.set_cons_succ, List.set_cons_zero]
              refine wpAnyH_take (i := 81) (v := .pointer (some ⟨wU.heap.size, 11, none⟩)) rfl (by kernel_rfl) (by kernel_rfl) (by kernel_rfl) (fun _ _ _ h => h) (Yields.yieldsIf (Or.inl ⟨by rfl, fun w9 => by (go_simp; first | done | with_reducible rfl | (intro h9; exfalso; omega))⟩)) hS0 ?_
              change wpAnyH _ _ _ _ _ _ _ (Act.put _ (some 125) _) _; dsimp only [Act.put]; simp only [List.setIfInBounds_toArray, List.set_cons_succ, List.set_cons_zero]
              refine wpAnyH_take (i := 82) (v := .bool e.wr) rfl (by kernel_rfl) (by kernel_rfl) (by kernel_rfl) (fun _ _ _ h => h) (Or.inl ⟨by rfl, fun w9 hS9 => by have hc9 := (hS9.cell (row_lt hV1)).trans v11; go_simp; try with_reducible rfl⟩) hS0 ?_
              change wpAnyH _ _ _ _ _ _ _ (Act.put _ (some 126) _) _; dsimp only [Act.put]; simp only [List.setIfInBounds_toArray, List.set_cons_succ, List.set_cons_zero]
              refine wpAnyH_take (i := 83) (v := .bool false) rfl (by kernel_rfl) (by kernel_rfl) (by kernel_rfl) (fun _ _ _ h => h) (Yields.yieldsIf (Or.inl ⟨by rfl, fun w9 => by (go_simp; first | done | with_reducible rfl | (intro h9; exfalso; omega))⟩)) hS0 ?_
              change wpAnyH _ _ _ _ _ _ _ (Act.put _ (some 127) _) _; dsimp only [Act.put]; simp only [List.setIfInBounds_toArray, List.set_cons_succ, List.set_cons_zero]
              refine wpAnyH_take (i := 84) (v := .bool false) rfl (by kernel_rfl) (by kernel_rfl) (by kernel_rfl) (fun _ _ _ h => h) (Yields.yieldsIf (Or.inl ⟨by rfl, fun w9 => by (go_simp; first | done | with_reducible rfl | (intro h9; exfalso; omega))⟩)) hS0 ?_
              change wpAnyH _ _ _ _ _ _ _ (Act.put _ (some 128) _) _; dsimp only [Act.put]; simp only [List.setIfInBounds_toArray, List.set_cons_succ, List.set_cons_zero]
              refine wpAnyH_take (i := 85) (v := .bool false) rfl (by kernel_rfl) (by kernel_rfl) (by kernel_rfl) (fun _ _ _ h => h) (Yields.yieldsIf (Or.inl ⟨by rfl, fun w9 => by (go_simp; first | done | with_reducible rfl | (intro h9; exfalso; omega))⟩)) hS0 ?_
              change wpAnyH _ _ _ _ _ _ _ (Act.put _ (some 129) _) _; dsimp only [Act.put]; simp only [List.setIfInBounds_toArray, List.set_cons_succ, List.set_cons_zero]
              refine wpAnyH_take (i := 86) (v := .pointer (some ⟨w5.heap.size, 12, none⟩)) rfl (by kernel_rfl) (by kernel_rfl) (by kernel_rfl) (fun _ _ _ h => h) (Yields.yieldsIf (Or.inl ⟨by rfl, fun w9 => by (go_simp; first | done | with_reducible rfl | (intro h9; exfalso; omega))⟩)) hS0 ?_
              change wpAnyH _ _ _ _ _ _ _ (Act.put _ (some 130) _) _; dsimp only [Act.put]; simp only [List.setIfInBounds_toArray, List.set_cons_succ, List.set_cons_zero]
              refine wpAnyH_take (i := 87) (v := .bool e.ac) rfl (by kernel_rfl) (by kernel_rfl) (by kernel_rfl) (fun _ _ _ h => h) (Or.inl ⟨by rfl, fun w9 hS9 => by have hc9 := (hS9.cell (row_lt hU1)).trans u12; go_simp; try with_reducible rfl⟩) hS0 ?_
              change wpAnyH _ _ _ _ _ _ _ (Act.put _ (some 131) _) _; dsimp only [Act.put]; simp only [List.setIfInBounds_toArray, List.set_cons_succ, List.set_cons_zero]
              refine wpAnyH_take (i := 88) (v := .pointer (some ⟨wU.heap.size, 12, none⟩)) rfl (by kernel_rfl) (by kernel_rfl) (by kernel_rfl) (fun _ _ _ h => h) (Yields.yieldsIf (Or.inl ⟨by rfl, fun w9 => by (go_simp; first | done | with_reducible rfl | (intro h9; exfalso; omega))⟩)) hS0 ?_
              change wpAnyH _ _ _ _ _ _ _ (Act.put _ (some 132) _) _; dsimp only [Act.put]; simp only [List.setIfInBounds_toArray, List.set_cons_succ, List.set_cons_zero]
              refine wpAnyH_take (i := 89) (v := .bool e.ac) rfl (by kernel_rfl) (by kernel_rfl) (by kernel_rfl) (fun _ _ _ h => h) (Or.inl ⟨by rfl, fun w9 hS9 => by have hc9 := (hS9.cell (row_lt hV1)).trans v12; go_simp; try with_reducible rfl⟩) hS0 ?_
              change wpAnyH _ _ _ _ _ _ _ (Act.put _ (some 133) _) _; dsimp only [Act.put]; simp only [List.setIfInBounds_toArray, List.set_cons_succ, List.set_cons_zero]
              refine wpAnyH_take (i := 90) (v := .bool false) rfl (by kernel_rfl) (by kernel_rfl) (by kernel_rfl) (fun _ _ _ h => h) (Yields.yieldsIf (Or.inl ⟨by rfl, fun w9 => by (go_simp; first | done | with_reducible rfl | (intro h9; exfalso; omega))⟩)) hS0 ?_
              change wpAnyH _ _ _ _ _ _ _ (Act.put _ (some 134) _) _; dsimp only [Act.put]; simp only [List.setIfInBounds_toArray, List.set_cons_succ, List.set_cons_zero]
              refine wpAnyH_take (i := 91) (v := .bool false) rfl (by kernel_rfl) (by kernel_rfl) (by kernel_rfl) (fun _ _ _ h => h) (Yields.yieldsIf (Or.inl ⟨by rfl, fun w9 => by (go_simp; first | done | with_reducible rfl | (intro h9; exfalso; omega))⟩)) hS0 ?_
              change wpAnyH _ _ _ _ _ _ _ (Act.put _ (some 135) _) _; dsimp only [Act.put]; simp only [List.setIfInBounds_toArray, List.set_cons_succ, List.set_cons_zero]
              refine wpAnyH_take (i := 92) (v := .bool false) rfl (by kernel_rfl) (by kernel_rfl) (by kernel_rfl) (fun _ _ _ h => h) (Yields.yieldsIf (Or.inl ⟨by rfl, fun w9 => by (go_simp; first | done | with_reducible rfl | (intro h9; exfalso; omega))⟩)) hS0 ?_
              change wpAnyH _ _ _ _ _ _ _ (Act.put _ (some 136) _) _; dsimp only [Act.put]; simp only [List.setIfInBounds_toArray, List.set_cons_succ, List.set_cons_zero]
              refine wpAnyH_take (i := 93) (v := .pointer (some ⟨w5.heap.size, 13, none⟩)) rfl (by kernel_rfl) (by kernel_rfl) (by kernel_rfl) (fun _ _ _ h => h) (Yields.yieldsIf (Or.inl ⟨by rfl, fun w9 => by (go_simp; first | done | with_reducible rfl | (intro h9; exfalso; omega))⟩)) hS0 ?_
              change wpAnyH _ _ _ _ _ _ _ (Act.put _ (some 137) _) _; dsimp only [Act.put]; simp only [List.setIfInBounds_toArray, List.set_cons_succ, List.set_cons_zero]
              refine wpAnyH_take (i := 94) (v := .bool e.ti) rfl (by kernel_rfl) (by kernel_rfl) (by kernel_rfl) (fun _ _ _ h => h) (Or.inl ⟨by rfl, fun w9 hS9 => by have hc9 := (hS9.cell (row_lt hU1)).trans u13; go_simp; try with_reducible rfl⟩) hS0 ?_
              change wpAnyH _ _ _ _ _ _ _ (Act.put _ (some 138) _) _; dsimp only [Act.put]; simp only [List.setIfInBounds_toArray, List.set_cons_succ, List.set_cons_zero]
              refine wpAnyH_take (i := 95) (v := .pointer (some ⟨wU.heap.size, 13, none⟩)) rfl (by kernel_rfl) (by kernel_rfl) (by kernel_rfl) (fun _ _ _ h => h) (Yields.yieldsIf (Or.inl ⟨by rfl, fun w9 => by (go_simp; first | done | with_reducible rfl | (intro h9; exfalso; omega))⟩)) hS0 ?_
              change wpAnyH _ _ _ _ _ _ _ (Act.put _ (some 139) _) _; dsimp only [Act.put]; simp only [List.setIfInBounds_toArray, List.set_cons_succ, List.set_cons_zero]
              refine wpAnyH_take (i := 96) (v := .bool e.ti) rfl (by kernel_rfl) (by kernel_rfl) (by kernel_rfl) (fun _ _ _ h => h) (Or.inl ⟨by rfl, fun w9 hS9 => by have hc9 := (hS9.cell (row_lt hV1)).trans v13; go_simp; try with_reducible rfl⟩) hS0 ?_
              change wpAnyH _ _ _ _ _ _ _ (Act.put _ (some 140) _) _; dsimp only [Act.put]; simp only [List.setIfInBounds_toArray, List.set_cons_succ, List.set_cons_zero]
              refine wpAnyH_take (i := 97) (v := .bool false) rfl (by kernel_rfl) (by kernel_rfl) (by kernel_rfl) (fun _ _ _ h => h) (Yields.yieldsIf (Or.inl ⟨by rfl, fun w9 => by (go_simp; first | done | with_reducible rfl | (intro h9; exfalso; omega))⟩)) hS0 ?_
              change wpAnyH _ _ _ _ _ _ _ (Act.put _ (some 141) _) _; dsimp only [Act.put]; simp only [List.setIfInBounds_toArray, List.set_cons_succ, List.set_cons_zero]
              refine wpAnyH_take (i := 98) (v := .bool false) rfl (by kernel_rfl) (by kernel_rfl) (by kernel_rfl) (fun _ _ _ h => h) (Yields.yieldsIf (Or.inl ⟨by rfl, fun w9 => by (go_simp; first | done | with_reducible rfl | (intro h9; exfalso; omega))⟩)) hS0 ?_
              change wpAnyH _ _ _ _ _ _ _ (Act.put _ (some 142) _) _; dsimp only [Act.put]; simp only [List.setIfInBounds_toArray, List.set_cons_succ, List.set_cons_zero]
              refine wpAnyH_done (by kernel_rfl) ?_ _
              go_wp2
              go_roundw
              case rel => exact ⟨k + 1, by omega, by go_num, hb6.trans (hS0.mono hb6.size)⟩
              case measure => (simp [intOf]) <;> omega
end Go.Proofs.Ytbckncopdkmoeaa
