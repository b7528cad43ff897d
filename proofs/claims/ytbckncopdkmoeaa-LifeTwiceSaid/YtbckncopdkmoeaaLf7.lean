/- life.Table.Fold: events of packets. -/
import Derived.Test.YtbckncopdkmoeaaLf6
import Derived.Test.YtbckncopdkmoeaaEv3
import Derived.BigRegion
import Derived.RegionTactic
import Derived.BigQuiet
import Derived.Deep.QuietTactic
import Derived.Deep.MidRow
import Derived.Deep.RegionLaw
import Derived.OneCell
import Derived.Laws.OwnMore
import Derived.Deep.RegionHeld
import Derived.Deep.Cut
import Derived.WalkKit
import Derived.ProofKit
import Derived.Handy
import Derived.Below
import Derived.Lib.Hide
import Derived.IntWalk
import Derived.Outline
import Derived.WalkLawsBesides
import Derived.WalkSpells
namespace Go.Proofs.Ytbckncopdkmoeaa
open Go.RowKit
attribute [local go_sem] strV
set_option linter.unusedVariables false
set_option linter.unusedSimpArgs false
/-- Whose entry an event is about. -/
def keyE (e : Ev) : Lk := if e.kd = 2 ∨ e.kd = 3 then ⟨e.dp, e.dc, outB e.kd, e.sq⟩ else ⟨e.sp, e.sc, outB e.kd, e.sq⟩
/-- An entry with an event's packet. -/
def entP (x : Ent) (e : Ev) : Ent := { x with sp := e.sp, sc := e.sc, dp := e.dp, dc := e.dc, sq := e.sq, da := e.da, th := e.th, ta := e.ta }
def pkX (x : Ent) : PkT := ((x.sp, x.sc), (x.dp, x.dc), x.sq, x.da, x.th, x.ta)
def pkV (e : Ev) : PkT := ((e.sp, e.sc), (e.dp, e.dc), e.sq, e.da, e.th, e.ta)
/-- What Fold says of an event of a packet; the entry behind it. -/
def foldE (f : Lk → Option Ent) (e : Ev) : Int := if (f (keyE e)).isSome = true ∧ pkEq (pkX ((f (keyE e)).getD zeroEnt)) (pkV e) = false then 3 else markE (entP ((f (keyE e)).getD zeroEnt) e) e.kd
def foldR (f : Lk → Option Ent) (e : Ev) : Ent := markR (entP ((f (keyE e)).getD zeroEnt) e) e.kd e.ack
theorem own_row (e : Ev) : (bif e.kd == 2 || e.kd == 3 then .agg #[.string e.dp, .int .i64 e.dc] else .agg #[.string e.sp, .int .i64 e.sc] : Value) = .agg #[.string (keyE e).po, .int .i64 (keyE e).ch] := by
  unfold keyE
  by_cases h : e.kd = 2 ∨ e.kd = 3
  · rw [if_pos h]; rcases h with h | h <;> simp [h]
  · rw [if_neg h]
    have h2 : e.kd ≠ 2 := fun q => h (.inl q)
    have h3 : e.kd ≠ 3 := fun q => h (.inr q)
    rw [beq_eq_false_iff_ne.2 h2, beq_eq_false_iff_ne.2 h3]; rfl
theorem key_parts (e : Ev) : (keyE e).ou = outB e.kd ∧ (keyE e).sq = e.sq := by
  unfold keyE; split <;> exact ⟨rfl, rfl⟩
theorem entP_row (x : Ent) (kd : Int) (sp : ByteArray) (sc : Int) (dp : ByteArray) (dc sq : Int) (da : ByteArray) (th ta : Int) (ack ep : ByteArray) (ec ht : Int) :
    (((((((x.row.setIfInBounds 0 (.string sp)).setIfInBounds 1 (.int .i64 sc)).setIfInBounds 2 (.string dp)).setIfInBounds 3 (.int .i64 dc)).setIfInBounds 4 (.int .i64 sq)).setIfInBounds 5 (.string da)).setIfInBounds 6 (.int .i64 th)).setIfInBounds 7 (.int .i64 ta) = (entP x ⟨kd, sp, sc, dp, dc, sq, da, th, ta, ack, ep, ec, ht⟩).row := by
  cases x
  simp [Ent.row, Ent.L, entP]
theorem set_below (g : Nat) {X Y : World} (h : Below g X Y) (k : Nat) (v : Value) : Below g X (Y.setCell ⟨g, k, none⟩ v) := h.setCell (Nat.le_refl _) v
theorem set8_below (g : Nat) (X : World) (v0 v1 v2 v3 v4 v5 v6 v7 : Value) : Below g X ((((((((X.setCell ⟨g, 0, none⟩ v0).setCell ⟨g, 1, none⟩ v1).setCell ⟨g, 2, none⟩ v2).setCell ⟨g, 3, none⟩ v3).setCell ⟨g, 4, none⟩ v4).setCell ⟨g, 5, none⟩ v5).setCell ⟨g, 6, none⟩ v6).setCell ⟨g, 7, none⟩ v7) :=
  set_below g (set_below g (set_below g (set_below g (set_below g (set_below g (set_below g (set_below g (Below.refl _ _) 0 v0) 1 v1) 2 v2) 3 v3) 4 v4) 5 v5) 6 v6) 7 v7
theorem exec_loadEntH {o : Oper} {a : Act} {w : World} (x : Operand) (ho : o.op = .load 78 x) (b : Nat) (hx : a.eval x = .pointer (some ⟨b, 0, none⟩)) (e : Ent) (hz : w.heap[b]? = some (.cells e.row 78 (0, 0))) : (execOp a.eval o).run Try.prog w = .ok (.value (.agg e.row)) w := by
  have h1 := run_loadAt_mid (P := Try.prog) w b 0 78 e.L _ (ent_range hz) Try.underlying78 rfl (infoEnt_row e)
  simp [execOp, ho, hx, h1, Result.andThen]
  rfl
theorem build_lk (p : ByteArray) (c : Int) (u : Bool) (s : Int) (W : World) : (Instr.build 62 #[(0, .agg #[.string p, .int .i64 c]), (1, .bool u), (2, .int .i64 s)]).run Try.prog W = .ok (.agg #[.string p, .int .i64 c, .bool u, .int .i64 s]) W := by kernel_rfl
theorem exec_buildLk {o : Oper} {a : Act} {w : World} (x y z : Operand) (ho : o.op = .build 62 #[(0, x), (1, y), (2, z)]) (p : ByteArray) (c : Int) (u : Bool) (s : Int) (hx : a.eval x = .agg #[.string p, .int .i64 c]) (hy : a.eval y = .bool u) (hz : a.eval z = .int .i64 s) : (execOp a.eval o).run Try.prog w = .ok (.value (.agg #[.string p, .int .i64 c, .bool u, .int .i64 s])) w := by
  have h1 := build_lk p c u s w
  simp [execOp, ho, hx, hy, hz, h1, Result.andThen]
set_option maxRecDepth 100000 in
set_option maxHeartbeats 6400000 in
theorem foldPk_any (g b c n : Nat) (f : Lk → Option Ent) (cl : ByteArray → Int → Bool) (kd : Int) (sp : ByteArray) (sc : Int) (dp : ByteArray) (dc : Int) (sq : Int) (da : ByteArray) (th : Int) (ta : Int) (ack : ByteArray) (ep : ByteArray) (ec : Int) (ht : Int) (w : World) (h1 : sp.size ≤ maxLen) (h2 : dp.size ≤ maxLen) (h3 : ep.size ≤ maxLen) (hM : mayEv ⟨kd, sp, sc, dp, dc, sq, da, th, ta, ack, ep, ec, ht⟩ = true) (hH : hasP kd = true) (hk : (keyE ⟨kd, sp, sc, dp, dc, sq, da, th, ta, ack, ep, ec, ht⟩).wf) (hT : TabAt w g b c n f cl) (hn : n < maxLen) :
    Calls Try.prog 32 #[.pointer (some ⟨g, 0, none⟩), .agg #[.int .i64 kd, .string sp, .int .i64 sc, .string dp, .int .i64 dc, .int .i64 sq, .string da, .int .i64 th, .int .i64 ta, .string ack, .string ep, .int .i64 ec, .int .i64 ht]] w fun e w' => e = .returned (.int .i64 (foldE f ⟨kd, sp, sc, dp, dc, sq, da, th, ta, ack, ep, ec, ht⟩)) ∧ TabAt w' g b c (n + 1) (if foldE f ⟨kd, sp, sc, dp, dc, sq, da, th, ta, ack, ep, ec, ht⟩ = 0 then setF f (keyE ⟨kd, sp, sc, dp, dc, sq, da, th, ta, ack, ep, ec, ht⟩) (foldR f ⟨kd, sp, sc, dp, dc, sq, da, th, ta, ack, ep, ec, ht⟩) else f) cl ∧ w.grownBy w' (some b) := by
  have CM := fun W => mayEv_any kd sp sc dp dc sq da th ta ack ep ec ht W h1 h2 h3
  have CO := fun W => own_any kd sp sc dp dc sq da th ta ack ep ec ht W h1 h2 h3 hM hH
  have COU := fun W => outgoing_any kd W
  have CK := fun (nx : Nat) y (Y : World) hy => mark_any nx y kd sp sc dp dc sq da th ta ack ep ec ht Y hy hH
  simp only [hM] at CM
  have ho := own_row ⟨kd, sp, sc, dp, dc, sq, da, th, ta, ack, ep, ec, ht⟩
  obtain ⟨op, oc, ou, osq, hkk⟩ : ∃ p c u s, keyE ⟨kd, sp, sc, dp, dc, sq, da, th, ta, ack, ep, ec, ht⟩ = ⟨p, c, u, s⟩ := ⟨_, _, _, _, rfl⟩
  obtain ⟨kp1, kp2⟩ := key_parts ⟨kd, sp, sc, dp, dc, sq, da, th, ta, ack, ep, ec, ht⟩
  obtain ⟨x, hx⟩ : ∃ x, (f (keyE ⟨kd, sp, sc, dp, dc, sq, da, th, ta, ack, ep, ec, ht⟩)).getD zeroEnt = x := ⟨_, rfl⟩
  obtain ⟨r, hr⟩ : ∃ r, (f (keyE ⟨kd, sp, sc, dp, dc, sq, da, th, ta, ack, ep, ec, ht⟩)).isSome = r := ⟨_, rfl⟩
  have hFE : foldE f ⟨kd, sp, sc, dp, dc, sq, da, th, ta, ack, ep, ec, ht⟩ = if r = true ∧ pkEq (pkX x) (pkV ⟨kd, sp, sc, dp, dc, sq, da, th, ta, ack, ep, ec, ht⟩) = false then 3 else markE (entP x ⟨kd, sp, sc, dp, dc, sq, da, th, ta, ack, ep, ec, ht⟩) kd := by unfold foldE; rw [hx, hr]
  have hFR : foldR f ⟨kd, sp, sc, dp, dc, sq, da, th, ta, ack, ep, ec, ht⟩ = markR (entP x ⟨kd, sp, sc, dp, dc, sq, da, th, ta, ack, ep, ec, ht⟩) kd ack := by unfold foldR; rw [hx]
  obtain ⟨E, hE⟩ : ∃ E, (if r = true ∧ pkEq (pkX x) (pkV ⟨kd, sp, sc, dp, dc, sq, da, th, ta, ack, ep, ec, ht⟩) = false then 3 else markE (entP x ⟨kd, sp, sc, dp, dc, sq, da, th, ta, ack, ep, ec, ht⟩) kd) = E := ⟨_, rfl⟩
  obtain ⟨R, hR⟩ : ∃ R, markR (entP x ⟨kd, sp, sc, dp, dc, sq, da, th, ta, ack, ep, ec, ht⟩) kd ack = R := ⟨_, rfl⟩
  rw [hFE, hFR, hE, hR]
  have HE := Lib.hid hE
  have HR := Lib.hid hR
  clear hFE hFR hM hE hR
  rw [hkk] at kp1 kp2 ho hx hr hk
  simp only at kp1 kp2 ho
  obtain rfl : sq = osq := kp2.symm
  rw [← kp1] at COU
  clear kp1
  simp only [ho] at CO
  rw [hkk]
  clear ho
  have d7 : (kd == 7) = false := by unfold hasP at hH; rw [Bool.and_eq_true, decide_eq_true_eq, decide_eq_true_eq] at hH; rw [beq_eq_false_iff_ne]; omega
  have d6 : (kd == 6) = false := by unfold hasP at hH; rw [Bool.and_eq_true, decide_eq_true_eq, decide_eq_true_eq] at hH; rw [beq_eq_false_iff_ne]; omega
  have hq0 := heap_push w #[.int .i64 kd, .string sp, .int .i64 sc, .string dp, .int .i64 dc, .int .i64 sq, .string da, .int .i64 th, .int .i64 ta, .string ack, .string ep, .int .i64 ec, .int .i64 ht] 76
  have hb0 : Below w.heap.size w (w.alloc (.cells #[.int .i64 kd, .string sp, .int .i64 sc, .string dp, .int .i64 dc, .int .i64 sq, .string da, .int .i64 th, .int .i64 ta, .string ack, .string ep, .int .i64 ec, .int .i64 ht] 76)) := (Below.refl _ _).alloc (Nat.le_refl _) _
  go_enter Try.func32, Try.ntmps32
  go_upto_region 9 with (first | (go_at_call 57; refine (CM _).mono ?_; rintro e w1 ⟨rfl, hb1⟩; have hq1 := cells_of hq0 hb1 (row_lt hq0); have hbel := hb0.trans (hb1.mono hb0.size); have q0 := cell_heap hq1 0; have q1 := cell_heap hq1 1; have q2 := cell_heap hq1 2; have q3 := cell_heap hq1 3; have q4 := cell_heap hq1 4; have q5 := cell_heap hq1 5; have q6 := cell_heap hq1 6; have q7 := cell_heap hq1 7; have q8 := cell_heap hq1 8; have q9 := cell_heap hq1 9; have q10 := cell_heap hq1 10; have q11 := cell_heap hq1 11; have q12 := cell_heap hq1 12) | (go_at_call 59; refine (CO _).mono ?_; rintro e w2 ⟨rfl, hb2⟩; have hq2 := cells_of hq1 hb2 (row_lt hq1); have hbel := hbel.trans (hb2.mono hbel.size); have q0 := cell_heap hq2 0; have q1 := cell_heap hq2 1; have q2 := cell_heap hq2 2; have q3 := cell_heap hq2 3; have q4 := cell_heap hq2 4; have q5 := cell_heap hq2 5; have q6 := cell_heap hq2 6; have q7 := cell_heap hq2 7; have q8 := cell_heap hq2 8; have q9 := cell_heap hq2 9; have q10 := cell_heap hq2 10; have q11 := cell_heap hq2 11; have q12 := cell_heap hq2 12))
  refine wp_nameE _ (fun wr hwr => ?_)
  have hq1 : wr.heap[w.heap.size]? = some (.cells #[.int .i64 kd, .string sp, .int .i64 sc, .string dp, .int .i64 dc, .int .i64 sq, .string da, .int .i64 th, .int .i64 ta, .string ack, .string ep, .int .i64 ec, .int .i64 ht] 76 (0, 0)) := by rw [hwr]; exact cells_of hq2 ((Below.refl _ _).alloc (Nat.le_refl _) _) (row_lt hq2)
  have he1 : wr.heap[w2.heap.size]? = some (.cells #[.string op, .int .i64 oc] 60 (0, 0)) := by rw [hwr]; exact heap_push w2 _ _
  have hbr : Below w.heap.size w wr := by rw [hwr]; exact hbel.alloc hbel.size _
  clear hwr hb1 hb2 hq2 hq0 hb0 hbel q0 q1 q2 q3 q4 q5 q6 q7 q8 q9 q10 q11 q12 CM CO
  have q0 : wr.cell? ⟨w.heap.size, 0, none⟩ = some (.int .i64 kd) := cell_heap hq1 0
  have hql := row_lt hq1
  rename_i K9 a9
  have HK : ∀ W : World, Below wr.heap.size wr W → W.heap[wr.heap.size]? = some (.cells (⟨op, oc, ou, sq⟩ : Lk).row 62 (0, 0)) → K9 { tmps := #[.pointer (some ⟨g, 0, none⟩), .agg #[.int .i64 kd, .string sp, .int .i64 sc, .string dp, .int .i64 dc, .int .i64 sq, .string da, .int .i64 th, .int .i64 ta, .string ack, .string ep, .int .i64 ec, .int .i64 ht], undef, .pointer (some ⟨w.heap.size, 0, none⟩), .int .i64 0, .pointer (some ⟨w2.heap.size, 0, none⟩), .int .i64 sq, .bool true, .pointer (some ⟨wr.heap.size, 0, none⟩), undef, undef, undef, .agg #[.int .i64 kd, .string sp, .int .i64 sc, .string dp, .int .i64 dc, .int .i64 sq, .string da, .int .i64 th, .int .i64 ta, .string ack, .string ep, .int .i64 ec, .int .i64 ht], .bool true, .bool false, .pointer (some ⟨w.heap.size, 0, none⟩), .int .i64 kd, .bool false, .bool false, .bool false, .bool false, undef, undef, undef, undef, .tuple #[.agg #[.string op, .int .i64 oc], .int .i64 sq, .bool true], .agg #[.int .i64 kd, .string sp, .int .i64 sc, .string dp, .int .i64 dc, .int .i64 sq, .string da, .int .i64 th, .int .i64 ta, .string ack, .string ep, .int .i64 ec, .int .i64 ht], .tuple #[.agg #[.string op, .int .i64 oc], .int .i64 sq, .bool true], .agg #[.string op, .int .i64 oc], .int .i64 sq, .bool true, .agg #[.string op, .int .i64 oc], .pointer (some ⟨w.heap.size, 0, none⟩), .int .i64 kd, .bool ou, .int .i64 sq, .agg #[.string op, .int .i64 oc, .bool ou, .int .i64 sq], undef, undef, undef, undef, undef, undef, undef, undef, undef, undef, undef, undef, undef, undef, undef, undef, undef, undef, undef, undef, undef, undef, undef, undef, undef, undef, undef, undef, undef, undef, undef, undef], defers := [] } W := by
    intro W hbW hk8
    refine a9 _ _ ?_
    have hq1 := cells_of hq1 hbW (row_lt hq1)
    have hbr := hbr.trans (hbW.mono hbr.size)
    have hnk := hbW.size
    clear hbW he1 q0 hql
    go_upto_region 10 with fail
    have hbrW := hbr
    have hlk8W := row_lt hk8
    have hlq1W := row_lt hq1
    have hTW := hT.kept hbr
    have hTq := hTW
    obtain ⟨hgc, ⟨D, hm, hD⟩, _⟩ := hTq
    have hgl := row_lt hgc
    have hcg : W.cell? ⟨g, 0, none⟩ = some (.map (some b)) := cell_heap hgc 0
    refine wp_region_held_drew (S := fun X => Below W.heap.size W X) (by kernel_rfl) ((Below.refl _ _).drew) (fun hS0 => ?_)
    refine wpAnyH_take (i := 0) (v := .pointer (some ⟨g, 0, none⟩)) rfl (by kernel_rfl) (by kernel_rfl) (by kernel_rfl) (fun _ _ _ h => h) (Yields.yieldsIf (Or.inl ⟨by rfl, fun w9 => by (go_simp; first | done | with_reducible rfl | (intro h9; exfalso; omega))⟩)) hS0 ?_
    change wpAnyH _ _ _ _ _ _ _ (Act.put _ (some 38) _) _; dsimp only [Act.put]; simp only [List.setIfInBounds_toArray, List.set_cons_succ, List.set_cons_zero]
    refine wpAnyH_take (i := 1) (v := .pointer (some ⟨g, 0, none⟩)) rfl (by kernel_rfl) (by kernel_rfl) (by kernel_rfl) (fun _ _ _ h => h) (Yields.yieldsIf (Or.inl ⟨by rfl, fun w9 => by (go_simp; first | done | with_reducible rfl | (intro h9; exfalso; omega))⟩)) hS0 ?_
    change wpAnyH _ _ _ _ _ _ _ (Act.put _ (some 39) _) _; dsimp only [Act.put]; simp only [List.setIfInBounds_toArray, List.set_cons_succ, List.set_cons_zero]
    refine wpAnyH_take (i := 2) (v := .pointer (some ⟨g, 0, none⟩)) rfl (by kernel_rfl) (by kernel_rfl) (by kernel_rfl) (fun _ _ _ h => h) (Yields.yieldsIf (Or.inl ⟨by rfl, fun w9 => by (go_simp; first | done | with_reducible rfl | (intro h9; exfalso; omega))⟩)) hS0 ?_
    change wpAnyH _ _ _ _ _ _ _ (Act.put _ (some 40) _) _; dsimp only [Act.put]; simp only [List.setIfInBounds_toArray, List.set_cons_succ, List.set_cons_zero]
    refine wpAnyH_take (i := 3) (v := .map (some b)) rfl (by kernel_rfl) (by kernel_rfl) (by kernel_rfl) (fun _ _ _ h => h) (Or.inl ⟨by rfl, fun w9 hS9 => by have hc9 := (hS9.cell hgl).trans hcg; go_simp; try with_reducible rfl⟩) hS0 ?_
    change wpAnyH _ _ _ _ _ _ _ (Act.put _ (some 41) _) _; dsimp only [Act.put]; simp only [List.setIfInBounds_toArray, List.set_cons_succ, List.set_cons_zero]
    refine wpAnyH_take (i := 4) (v := .agg (⟨op, oc, ou, sq⟩ : Lk).row) rfl (by kernel_rfl) (by kernel_rfl) (by kernel_rfl) (fun _ _ _ h => h) (Or.inl ⟨by rfl, fun w9 hS9 => exec_loadLk (.tmp 8) rfl wr.heap.size (by first | rfl | simp [Act.eval, Act.put]) ⟨op, oc, ou, sq⟩ (cells_of hk8 hS9 (row_lt hk8))⟩) hS0 ?_
    change wpAnyH _ _ _ _ _ _ _ (Act.put _ (some 42) _) _; dsimp only [Act.put]; simp only [List.setIfInBounds_toArray, List.set_cons_succ, List.set_cons_zero]
    refine wpAnyH_take (i := 5) (v := .tuple #[.agg x.row, .bool r]) rfl (by kernel_rfl) (by kernel_rfl) (by kernel_rfl) (fun _ _ _ h => h) (Or.inl ⟨by rfl, fun w9 hS9 => by rw [← hx, ← hr]; exact exec_lookLf (.tmp 41) (.tmp 42) rfl (by first | rfl | simp [Act.eval, Act.put]) (by first | rfl | simp [Act.eval, Act.put]) (hm.kept (grown_below hS9) (by simp)) hD hk⟩) hS0 ?_
    change wpAnyH _ _ _ _ _ _ _ (Act.put _ (some 43) _) _; dsimp only [Act.put]; simp only [List.setIfInBounds_toArray, List.set_cons_succ, List.set_cons_zero]
    refine wpAnyH_take (i := 6) (v := .tuple #[.agg x.row, .bool r]) rfl (by kernel_rfl) (by kernel_rfl) (by kernel_rfl) (fun _ _ _ h => h) (Yields.yieldsIf (Or.inl ⟨by rfl, fun w9 => by (go_simp; first | done | with_reducible rfl | (intro h9; exfalso; omega))⟩)) hS0 ?_
    change wpAnyH _ _ _ _ _ _ _ (Act.put _ (some 37) _) _; dsimp only [Act.put]; simp only [List.setIfInBounds_toArray, List.set_cons_succ, List.set_cons_zero]
    refine wpAnyH_take (i := 7) (v := .agg x.row) rfl (by kernel_rfl) (by kernel_rfl) (by kernel_rfl) (fun _ _ _ h => h) (Yields.yieldsIf (Or.inl ⟨by rfl, fun w9 => by (go_simp; first | done | with_reducible rfl | (intro h9; exfalso; omega))⟩)) hS0 ?_
    change wpAnyH _ _ _ _ _ _ _ (Act.put _ (some 44) _) _; dsimp only [Act.put]; simp only [List.setIfInBounds_toArray, List.set_cons_succ, List.set_cons_zero]
    refine wpAnyH_take (i := 8) (v := .bool r) rfl (by kernel_rfl) (by kernel_rfl) (by kernel_rfl) (fun _ _ _ h => h) (Yields.yieldsIf (Or.inl ⟨by rfl, fun w9 => by (go_simp; first | done | with_reducible rfl | (intro h9; exfalso; omega))⟩)) hS0 ?_
    change wpAnyH _ _ _ _ _ _ _ (Act.put _ (some 45) _) _; dsimp only [Act.put]; simp only [List.setIfInBounds_toArray, List.set_cons_succ, List.set_cons_zero]
    refine wpAnyH_ready (rs := [9]) (by kernel_rfl) (by simp) ?_
    refine AllReadyH.cons rfl (fun K hK => ?_) (fun j hj => by cases hj)
    go_simp
    have hS1 := hS0.alloc hS0.size (.cells zeroEnt.row 78)
    refine (Shut.out hK) _ _ hS1 (fun _ => ?_)
    clear hK K
    refine wpAnyH_ready (rs := [10]) (by kernel_rfl) (by simp) ?_
    refine AllReadyH.cons rfl (fun K hK => ?_) (fun j hj => by cases hj)
    refine step_storeRowG (Z := x.row) rfl (.tmp 9) (.tmp 44) 78 rfl (infoEnt_row _) (by first | rfl | simp [Act.eval, Act.put]) (by first | rfl | simp [Act.eval, Act.put]) (heap_push W.drew zeroEnt.row 78) rfl (Ent.row_one _) ?_
    have hS2 := below_setRow (g := W.heap.size) (cs := x.row) hS1 (Nat.le_refl _)
    refine (Shut.out hK) _ _ hS2 (fun _ => ?_)
    clear hK K
    refine wpAnyH_take (i := 11) (v := .bool r) rfl (by kernel_rfl) (by kernel_rfl) (by kernel_rfl) (fun _ _ _ h => h) (Yields.yieldsIf (Or.inl ⟨by rfl, fun w9 => by (go_simp; first | done | with_reducible rfl | (intro h9; exfalso; omega))⟩)) hS2 ?_
    change wpAnyH _ _ _ _ _ _ _ (Act.put _ (some 10) _) _; dsimp only [Act.put]; simp only [List.setIfInBounds_toArray, List.set_cons_succ, List.set_cons_zero]
    refine wpAnyH_done (by kernel_rfl) ?_ _
    go_upto_region 11 with fail
    refine wp_nameE _ (fun X hX => ?_)
    have hbX : Below W.heap.size W X := by rw [hX]; exact hS2
    have hx9 : X.heap[W.heap.size]? = some (.cells x.row 78 (0, 0)) := by rw [hX]; exact setRow_heap _ _ zeroEnt.row x.row _ _ (heap_push W.drew zeroEnt.row 78)
    have hk8 := cells_of hk8 hbX (row_lt hk8)
    have hq1 := cells_of hq1 hbX (row_lt hq1)
    have hbr := hbr.trans (hbX.mono hbr.size)
    have hsW : w.heap.size ≤ W.heap.size := hbrW.size
    clear hX hS0 hS1 hS2 hbX hgc hm hD hgl hcg D hTW
    have hlk8 : wr.heap.size < W.heap.size := hlk8W
    have hlq1 : w.heap.size < W.heap.size := hlq1W
    obtain ⟨xsp, xsc, xdp, xdc, xsq, xda, xth, xta, xack, xse, xre, xwr, xac, xti⟩ := x
    have CS := fun Y => pkSame_any xsp sp xsc sc xdp dp xdc dc xsq sq xda da xth th xta ta Y
    have p0 : X.cell? ⟨W.heap.size, 0, none⟩ = some (.string xsp) := cell_heap hx9 0
    have p1 : X.cell? ⟨W.heap.size, 1, none⟩ = some (.int .i64 xsc) := cell_heap hx9 1
    have p2 : X.cell? ⟨W.heap.size, 2, none⟩ = some (.string xdp) := cell_heap hx9 2
    have p3 : X.cell? ⟨W.heap.size, 3, none⟩ = some (.int .i64 xdc) := cell_heap hx9 3
    have p4 : X.cell? ⟨W.heap.size, 4, none⟩ = some (.int .i64 xsq) := cell_heap hx9 4
    have p5 : X.cell? ⟨W.heap.size, 5, none⟩ = some (.string xda) := cell_heap hx9 5
    have p6 : X.cell? ⟨W.heap.size, 6, none⟩ = some (.int .i64 xth) := cell_heap hx9 6
    have p7 : X.cell? ⟨W.heap.size, 7, none⟩ = some (.int .i64 xta) := cell_heap hx9 7
    have q0 := cell_heap hq1 0
    have q1 := cell_heap hq1 1
    have q2 := cell_heap hq1 2
    have q3 := cell_heap hq1 3
    have q4 := cell_heap hq1 4
    have q5 := cell_heap hq1 5
    have q6 := cell_heap hq1 6
    have q7 := cell_heap hq1 7
    have q8 := cell_heap hq1 8
    have q9 := cell_heap hq1 9
    have q10 := cell_heap hq1 10
    have q11 := cell_heap hq1 11
    have q12 := cell_heap hq1 12
    have f0 := frozen_heap hx9 0
    have f1 := frozen_heap hx9 1
    have f2 := frozen_heap hx9 2
    have f3 := frozen_heap hx9 3
    have f4 := frozen_heap hx9 4
    have f5 := frozen_heap hx9 5
    have f6 := frozen_heap hx9 6
    have f7 := frozen_heap hx9 7
    clear hx hr
    cases r
    · have hE : markE (entP (⟨xsp, xsc, xdp, xdc, xsq, xda, xth, xta, xack, xse, xre, xwr, xac, xti⟩ : Ent) ⟨kd, sp, sc, dp, dc, sq, da, th, ta, ack, ep, ec, ht⟩) kd = E := by rw [← HE.out]; exact (if_neg (by simp)).symm
      go_upto_region 14 with fail
      refine wp_nameE _ (fun Y1 hY1 => ?_)
      have hx10 : Y1.heap[W.heap.size]? = some (.cells (entP (⟨xsp, xsc, xdp, xdc, xsq, xda, xth, xta, xack, xse, xre, xwr, xac, xti⟩ : Ent) ⟨kd, sp, sc, dp, dc, sq, da, th, ta, ack, ep, ec, ht⟩).row 78 (0, 0)) := by rw [← entP_row, hY1]; exact row_put5 (row_put5 (row_put5 (row_put5 (row_put5 (row_put5 (row_put5 (row_put5 (hx9))))))))
      have hbn : Below W.heap.size X Y1 := by rw [hY1]; exact set8_below W.heap.size X _ _ _ _ _ _ _ _
      clear hY1
      have hk8 := cells_of hk8 hbn hlk8
      have hq1 := cells_of hq1 hbn hlq1
      have hbr := hbr.trans (hbn.mono hsW)
      clear hbn hx9 p0 p1 p2 p3 p4 p5 p6 p7 f0 f1 f2 f3 f4 f5 f6 f7 q0 q1 q2 q3 q4 q5 q6 q7 q8 q9 q10 q11 q12
      have q0 := cell_heap hq1 0
      have q1 := cell_heap hq1 1
      have q2 := cell_heap hq1 2
      have q3 := cell_heap hq1 3
      have q4 := cell_heap hq1 4
      have q5 := cell_heap hq1 5
      have q6 := cell_heap hq1 6
      have q7 := cell_heap hq1 7
      have q8 := cell_heap hq1 8
      have q9 := cell_heap hq1 9
      have q10 := cell_heap hq1 10
      have q11 := cell_heap hq1 11
      have q12 := cell_heap hq1 12
      have CK1 := CK _ _ Y1 hx10
      rw [hE, HR.out] at CK1
      go_upto_region 15 with (go_at_call 62; refine CK1.mono ?_; rintro e Y2 ⟨rfl, hm1, hm2⟩)
      clear CK1 q0 q1 q2 q3 q4 q5 q6 q7 q8 q9 q10 q11 q12
      have hbY : Below W.heap.size Y1 Y2 := grown_lowM hm2 (fun k e => by cases e; exact Nat.le_refl _) (Nat.le_of_lt (row_lt hx10))
      have hk8 := cells_of hk8 hbY hlk8
      have hbr := hbr.trans (hbY.mono hsW)
      have hT2 := hT.kept hbr
      clear hm2 hbY hx10 hq1
      clear HE hE HR CK
      by_cases hme : E = 0
      · subst hme
        have hx11 := hm1 rfl
        clear hm1
        obtain ⟨ngb, ngc, nbc⟩ := hT2.ne
        have nb8 := (hT2.cells_ne hk8).1
        have nb9 := (hT2.cells_ne hx11).1
        obtain ⟨hgc, ⟨D, hm, hD⟩, hce, hbc⟩ := hT2
        have hgl := row_lt hgc
        have hcg : Y2.cell? ⟨g, 0, none⟩ = some (.map (some b)) := cell_heap hgc 0
        go_upto_region 17 with fail
        refine wp_region_held_drew (S := fun Z => Y2.grownBy Z (some b)) (by kernel_rfl) (drew_grown Y2 _) (fun hS0 => ?_)
        refine wpAnyH_take (i := 0) (v := .pointer (some ⟨g, 0, none⟩)) rfl (by kernel_rfl) (by kernel_rfl) (by kernel_rfl) (fun _ _ _ h => h) (Yields.yieldsIf (Or.inl ⟨by rfl, fun w9 => by (go_simp; first | done | with_reducible rfl | (intro h9; exfalso; omega))⟩)) hS0 ?_
        change wpAnyH _ _ _ _ _ _ _ (Act.put _ (some 63) _) _; dsimp only [Act.put]; simp only [List.setIfInBounds_toArray, List.set_cons_succ, List.set_cons_zero]
        refine wpAnyH_take (i := 1) (v := .pointer (some ⟨g, 0, none⟩)) rfl (by kernel_rfl) (by kernel_rfl) (by kernel_rfl) (fun _ _ _ h => h) (Yields.yieldsIf (Or.inl ⟨by rfl, fun w9 => by (go_simp; first | done | with_reducible rfl | (intro h9; exfalso; omega))⟩)) hS0 ?_
        change wpAnyH _ _ _ _ _ _ _ (Act.put _ (some 64) _) _; dsimp only [Act.put]; simp only [List.setIfInBounds_toArray, List.set_cons_succ, List.set_cons_zero]
        refine wpAnyH_take (i := 2) (v := .pointer (some ⟨g, 0, none⟩)) rfl (by kernel_rfl) (by kernel_rfl) (by kernel_rfl) (fun _ _ _ h => h) (Yields.yieldsIf (Or.inl ⟨by rfl, fun w9 => by (go_simp; first | done | with_reducible rfl | (intro h9; exfalso; omega))⟩)) hS0 ?_
        change wpAnyH _ _ _ _ _ _ _ (Act.put _ (some 65) _) _; dsimp only [Act.put]; simp only [List.setIfInBounds_toArray, List.set_cons_succ, List.set_cons_zero]
        refine wpAnyH_take (i := 3) (v := .map (some b)) rfl (by kernel_rfl) (by kernel_rfl) (by kernel_rfl) (fun _ _ _ h => h) (Or.inl ⟨by rfl, fun w9 hS9 => by have hc9 := hS9.cell hcg (by simp [ngb]); go_simp; try with_reducible rfl⟩) hS0 ?_
        change wpAnyH _ _ _ _ _ _ _ (Act.put _ (some 66) _) _; dsimp only [Act.put]; simp only [List.setIfInBounds_toArray, List.set_cons_succ, List.set_cons_zero]
        refine wpAnyH_take (i := 4) (v := .agg (⟨op, oc, ou, sq⟩ : Lk).row) rfl (by kernel_rfl) (by kernel_rfl) (by kernel_rfl) (fun _ _ _ h => h) (Or.inl ⟨by rfl, fun w9 hS9 => exec_loadLk (.tmp 8) rfl wr.heap.size (by first | rfl | simp [Act.eval, Act.put]) ⟨op, oc, ou, sq⟩ (grown_at hS9 hk8 (by simp [nb8]))⟩) hS0 ?_
        change wpAnyH _ _ _ _ _ _ _ (Act.put _ (some 67) _) _; dsimp only [Act.put]; simp only [List.setIfInBounds_toArray, List.set_cons_succ, List.set_cons_zero]
        refine wpAnyH_take (i := 5) (v := .agg R.row) rfl (by kernel_rfl) (by kernel_rfl) (by kernel_rfl) (fun _ _ _ h => h) (Or.inl ⟨by rfl, fun w9 hS9 => exec_loadEntH (.tmp 9) rfl W.heap.size (by first | rfl | simp [Act.eval, Act.put]) R (grown_at hS9 hx11 (by simp [nb9]))⟩) hS0 ?_
        change wpAnyH _ _ _ _ _ _ _ (Act.put _ (some 68) _) _; dsimp only [Act.put]; simp only [List.setIfInBounds_toArray, List.set_cons_succ, List.set_cons_zero]
        refine wpAnyH_ready (rs := [6]) (by kernel_rfl) (by simp) ?_
        refine AllReadyH.cons rfl (fun K hK => ?_) (fun j hj => by cases hj)
        refine step_mapUpdate_own (w := Y2.drew) rfl (.tmp 66) (.tmp 67) (.tmp 68) 119 rfl 62 78 lk_keyed Try.underlying119 hdR b n D (by first | rfl | simp [Act.eval, Act.put]) (hm.kept (drew_grown Y2 none) (by simp)) hn _ _ (⟨op, oc, ou, sq⟩ : Lk).lit (by first | rfl | simp [Act.eval, Act.put]) (by first | rfl | simp [Act.eval, Act.put]) (Lk.key hk) (.held (.agg R.row)) [] rfl ?_
        intro w6 hm6 hg6
        have hS1 := grown_drew hg6
        refine (Shut.out hK) _ _ hS1 (fun _ => ?_)
        clear hK K
        refine wpAnyH_done (by kernel_rfl) ?_ _
        go_wp2
        go_ret
        obtain ⟨D1, hd1, hD1⟩ := hce
        refine ⟨by first | rfl | simp, ⟨grown_at hS1 hgc (by simp [ngb]), ⟨_, by simpa using hm6, by simpa using hD.put hm.isMap hk R⟩, ⟨D1, own_mono (hd1.kept hS1 (by simp [Ne.symm hbc])) (Nat.le_succ _), hD1⟩, hbc⟩, grown_trans hbr hS1⟩
      · have e0 : (E == 0) = false := beq_eq_false_iff_ne.2 hme
        go_wp2
        go_ret
        exact ⟨rfl, hT2.mono (Nat.le_succ _), grown_one hbr b⟩
    · obtain ⟨u, hu⟩ : ∃ u, pkEq (pkX (⟨xsp, xsc, xdp, xdc, xsq, xda, xth, xta, xack, xse, xre, xwr, xac, xti⟩ : Ent)) (pkV ⟨kd, sp, sc, dp, dc, sq, da, th, ta, ack, ep, ec, ht⟩) = u := ⟨_, rfl⟩
      have CS : ∀ Y, Calls Try.prog 61 #[.agg (PkT.row (pkX (⟨xsp, xsc, xdp, xdc, xsq, xda, xth, xta, xack, xse, xre, xwr, xac, xti⟩ : Ent))), .agg (PkT.row (pkV ⟨kd, sp, sc, dp, dc, sq, da, th, ta, ack, ep, ec, ht⟩))] Y fun e w9 => e = .returned (.bool u) ∧ Below Y.heap.size Y w9 := fun Y => by rw [← hu]; exact CS Y
      simp only [PkT.row, pkX, pkV] at CS
      cases u
      · have hE : E = 3 := by rw [← HE.out]; exact if_pos ⟨rfl, hu⟩
        subst hE
        clear HE HR CK hu
        go_wp2_with (go_at_call 61; refine (CS _).mono ?_; rintro e Y ⟨rfl, hbY⟩)
        go_ret
        have hbr := hbr.trans (hbY.mono hbr.size)
        exact ⟨rfl, (hT.kept hbr).mono (Nat.le_succ _), grown_one hbr b⟩
      · have hE : markE (entP (⟨xsp, xsc, xdp, xdc, xsq, xda, xth, xta, xack, xse, xre, xwr, xac, xti⟩ : Ent) ⟨kd, sp, sc, dp, dc, sq, da, th, ta, ack, ep, ec, ht⟩) kd = E := by rw [← HE.out]; exact (if_neg (by simp [hu])).symm
        clear hu
        go_upto_region 13 with (go_at_call 61; refine (CS _).mono ?_; rintro e Y ⟨rfl, hbY⟩)
        have hx9 := cells_of hx9 hbY (row_lt hx9)
        have hk8 := cells_of hk8 hbY (row_lt hk8)
        have hq1 := cells_of hq1 hbY (row_lt hq1)
        have hbr := hbr.trans (hbY.mono hbr.size)
        clear hbY CS p0 p1 p2 p3 p4 p5 p6 p7 f0 f1 f2 f3 f4 f5 f6 f7 q0 q1 q2 q3 q4 q5 q6 q7 q8 q9 q10 q11 q12
        have p0 : Y.cell? ⟨W.heap.size, 0, none⟩ = some (.string xsp) := cell_heap hx9 0
        have p1 : Y.cell? ⟨W.heap.size, 1, none⟩ = some (.int .i64 xsc) := cell_heap hx9 1
        have p2 : Y.cell? ⟨W.heap.size, 2, none⟩ = some (.string xdp) := cell_heap hx9 2
        have p3 : Y.cell? ⟨W.heap.size, 3, none⟩ = some (.int .i64 xdc) := cell_heap hx9 3
        have p4 : Y.cell? ⟨W.heap.size, 4, none⟩ = some (.int .i64 xsq) := cell_heap hx9 4
        have p5 : Y.cell? ⟨W.heap.size, 5, none⟩ = some (.string xda) := cell_heap hx9 5
        have p6 : Y.cell? ⟨W.heap.size, 6, none⟩ = some (.int .i64 xth) := cell_heap hx9 6
        have p7 : Y.cell? ⟨W.heap.size, 7, none⟩ = some (.int .i64 xta) := cell_heap hx9 7
        have q0 := cell_heap hq1 0
        have q1 := cell_heap hq1 1
        have q2 := cell_heap hq1 2
        have q3 := cell_heap hq1 3
        have q4 := cell_heap hq1 4
        have q5 := cell_heap hq1 5
        have q6 := cell_heap hq1 6
        have q7 := cell_heap hq1 7
        have q8 := cell_heap hq1 8
        have q9 := cell_heap hq1 9
        have q10 := cell_heap hq1 10
        have q11 := cell_heap hq1 11
        have q12 := cell_heap hq1 12
        have f0 := frozen_heap hx9 0
        have f1 := frozen_heap hx9 1
        have f2 := frozen_heap hx9 2
        have f3 := frozen_heap hx9 3
        have f4 := frozen_heap hx9 4
        have f5 := frozen_heap hx9 5
        have f6 := frozen_heap hx9 6
        have f7 := frozen_heap hx9 7
        go_upto_region 14 with fail
        refine wp_nameE _ (fun Y1 hY1 => ?_)
        have hx10 : Y1.heap[W.heap.size]? = some (.cells (entP (⟨xsp, xsc, xdp, xdc, xsq, xda, xth, xta, xack, xse, xre, xwr, xac, xti⟩ : Ent) ⟨kd, sp, sc, dp, dc, sq, da, th, ta, ack, ep, ec, ht⟩).row 78 (0, 0)) := by rw [← entP_row, hY1]; exact row_put5 (row_put5 (row_put5 (row_put5 (row_put5 (row_put5 (row_put5 (row_put5 (hx9))))))))
        have hbn : Below W.heap.size Y Y1 := by rw [hY1]; exact set8_below W.heap.size Y _ _ _ _ _ _ _ _
        clear hY1
        have hk8 := cells_of hk8 hbn hlk8
        have hq1 := cells_of hq1 hbn hlq1
        have hbr := hbr.trans (hbn.mono hsW)
        clear hbn hx9 p0 p1 p2 p3 p4 p5 p6 p7 f0 f1 f2 f3 f4 f5 f6 f7 q0 q1 q2 q3 q4 q5 q6 q7 q8 q9 q10 q11 q12
        have q0 := cell_heap hq1 0
        have q1 := cell_heap hq1 1
        have q2 := cell_heap hq1 2
        have q3 := cell_heap hq1 3
        have q4 := cell_heap hq1 4
        have q5 := cell_heap hq1 5
        have q6 := cell_heap hq1 6
        have q7 := cell_heap hq1 7
        have q8 := cell_heap hq1 8
        have q9 := cell_heap hq1 9
        have q10 := cell_heap hq1 10
        have q11 := cell_heap hq1 11
        have q12 := cell_heap hq1 12
        have CK1 := CK _ _ Y1 hx10
        rw [hE, HR.out] at CK1
        go_upto_region 15 with (go_at_call 62; refine CK1.mono ?_; rintro e Y2 ⟨rfl, hm1, hm2⟩)
        clear CK1 q0 q1 q2 q3 q4 q5 q6 q7 q8 q9 q10 q11 q12
        have hbY : Below W.heap.size Y1 Y2 := grown_lowM hm2 (fun k e => by cases e; exact Nat.le_refl _) (Nat.le_of_lt (row_lt hx10))
        have hk8 := cells_of hk8 hbY hlk8
        have hbr := hbr.trans (hbY.mono hsW)
        have hT2 := hT.kept hbr
        clear hm2 hbY hx10 hq1
        clear HE hE HR CK
        by_cases hme : E = 0
        · subst hme
          have hx11 := hm1 rfl
          clear hm1
          obtain ⟨ngb, ngc, nbc⟩ := hT2.ne
          have nb8 := (hT2.cells_ne hk8).1
          have nb9 := (hT2.cells_ne hx11).1
          obtain ⟨hgc, ⟨D, hm, hD⟩, hce, hbc⟩ := hT2
          have hgl := row_lt hgc
          have hcg : Y2.cell? ⟨g, 0, none⟩ = some (.map (some b)) := cell_heap hgc 0
          go_upto_region 17 with fail
          refine wp_region_held_drew (S := fun Z => Y2.grownBy Z (some b)) (by kernel_rfl) (drew_grown Y2 _) (fun hS0 => ?_)
          refine wpAnyH_take (i := 0) (v := .pointer (some ⟨g, 0, none⟩)) rfl (by kernel_rfl) (by kernel_rfl) (by kernel_rfl) (fun _ _ _ h => h) (Yields.yieldsIf (Or.inl ⟨by rfl, fun w9 => by (go_simp; first | done | with_reducible rfl | (intro h9; exfalso; omega))⟩)) hS0 ?_
          change wpAnyH _ _ _ _ _ _ _ (Act.put _ (some 63) _) _; dsimp only [Act.put]; simp only [List.setIfInBounds_toArray, List.set_cons_succ, List.set_cons_zero]
          refine wpAnyH_take (i := 1) (v := .pointer (some ⟨g, 0, none⟩)) rfl (by kernel_rfl) (by kernel_rfl) (by kernel_rfl) (fun _ _ _ h => h) (Yields.yieldsIf (Or.inl ⟨by rfl, fun w9 => by (go_simp; first | done | with_reducible rfl | (intro h9; exfalso; omega))⟩)) hS0 ?_
          change wpAnyH _ _ _ _ _ _ _ (Act.put _ (some 64) _) _; dsimp only [Act.put]; simp only [List.setIfInBounds_toArray, List.set_cons_succ, List.set_cons_zero]
          refine wpAnyH_take (i := 2) (v := .pointer (some ⟨g, 0, none⟩)) rfl (by kernel_rfl) (by kernel_rfl) (by kernel_rfl) (fun _ _ _ h => h) (Yields.yieldsIf (Or.inl ⟨by rfl, fun w9 => by (go_simp; first | done | with_reducible rfl | (intro h9; exfalso; omega))⟩)) hS0 ?_
          change wpAnyH _ _ _ _ _ _ _ (Act.put _ (some 65) _) _; dsimp only [Act.put]; simp only [List.setIfInBounds_toArray, List.set_cons_succ, List.set_cons_zero]
          refine wpAnyH_take (i := 3) (v := .map (some b)) rfl (by kernel_rfl) (by kernel_rfl) (by kernel_rfl) (fun _ _ _ h => h) (Or.inl ⟨by rfl, fun w9 hS9 => by have hc9 := hS9.cell hcg (by simp [ngb]); go_simp; try with_reducible rfl⟩) hS0 ?_
          change wpAnyH _ _ _ _ _ _ _ (Act.put _ (some 66) _) _; dsimp only [Act.put]; simp only [List.setIfInBounds_toArray, List.set_cons_succ, List.set_cons_zero]
          refine wpAnyH_take (i := 4) (v := .agg (⟨op, oc, ou, sq⟩ : Lk).row) rfl (by kernel_rfl) (by kernel_rfl) (by kernel_rfl) (fun _ _ _ h => h) (Or.inl ⟨by rfl, fun w9 hS9 => exec_loadLk (.tmp 8) rfl wr.heap.size (by first | rfl | simp [Act.eval, Act.put]) ⟨op, oc, ou, sq⟩ (grown_at hS9 hk8 (by simp [nb8]))⟩) hS0 ?_
          change wpAnyH _ _ _ _ _ _ _ (Act.put _ (some 67) _) _; dsimp only [Act.put]; simp only [List.setIfInBounds_toArray, List.set_cons_succ, List.set_cons_zero]
          refine wpAnyH_take (i := 5) (v := .agg R.row) rfl (by kernel_rfl) (by kernel_rfl) (by kernel_rfl) (fun _ _ _ h => h) (Or.inl ⟨by rfl, fun w9 hS9 => exec_loadEntH (.tmp 9) rfl W.heap.size (by first | rfl | simp [Act.eval, Act.put]) R (grown_at hS9 hx11 (by simp [nb9]))⟩) hS0 ?_
          change wpAnyH _ _ _ _ _ _ _ (Act.put _ (some 68) _) _; dsimp only [Act.put]; simp only [List.setIfInBounds_toArray, List.set_cons_succ, List.set_cons_zero]
          refine wpAnyH_ready (rs := [6]) (by kernel_rfl) (by simp) ?_
          refine AllReadyH.cons rfl (fun K hK => ?_) (fun j hj => by cases hj)
          refine step_mapUpdate_own (w := Y2.drew) rfl (.tmp 66) (.tmp 67) (.tmp 68) 119 rfl 62 78 lk_keyed Try.underlying119 hdR b n D (by first | rfl | simp [Act.eval, Act.put]) (hm.kept (drew_grown Y2 none) (by simp)) hn _ _ (⟨op, oc, ou, sq⟩ : Lk).lit (by first | rfl | simp [Act.eval, Act.put]) (by first | rfl | simp [Act.eval, Act.put]) (Lk.key hk) (.held (.agg R.row)) [] rfl ?_
          intro w6 hm6 hg6
          have hS1 := grown_drew hg6
          refine (Shut.out hK) _ _ hS1 (fun _ => ?_)
          clear hK K
          refine wpAnyH_done (by kernel_rfl) ?_ _
          go_wp2
          go_ret
          obtain ⟨D1, hd1, hD1⟩ := hce
          refine ⟨by first | rfl | simp, ⟨grown_at hS1 hgc (by simp [ngb]), ⟨_, by simpa using hm6, by simpa using hD.put hm.isMap hk R⟩, ⟨D1, own_mono (hd1.kept hS1 (by simp [Ne.symm hbc])) (Nat.le_succ _), hD1⟩, hbc⟩, grown_trans hbr hS1⟩
        · have e0 : (E == 0) = false := beq_eq_false_iff_ne.2 hme
          go_wp2
          go_ret
          exact ⟨rfl, hT2.mono (Nat.le_succ _), grown_one hbr b⟩
  refine wp_region_held_drew (S := fun W => Below wr.heap.size wr W) (by kernel_rfl) ((Below.refl _ _).drew) (fun hS0 => ?_)
  refine wpAnyH_take (i := 0) (v := .agg #[.string op, .int .i64 oc]) rfl (by kernel_rfl) (by kernel_rfl) (by kernel_rfl) (fun _ _ _ h => h) (Or.inl ⟨by rfl, fun w9 hS9 => exec_loadPe (.tmp 5) rfl w2.heap.size (by first | rfl | simp [Act.eval, Act.put]) op oc (cells_of he1 hS9 (row_lt he1))⟩) hS0 ?_
  change wpAnyH _ _ _ _ _ _ _ (Act.put _ (some 31) _) _; dsimp only [Act.put]; simp only [List.setIfInBounds_toArray, List.set_cons_succ, List.set_cons_zero]
  refine wpAnyH_take (i := 1) (v := .pointer (some ⟨w.heap.size, 0, none⟩)) rfl (by kernel_rfl) (by kernel_rfl) (by kernel_rfl) (fun _ _ _ h => h) (Yields.yieldsIf (Or.inl ⟨by rfl, fun w9 => by (go_simp; first | done | with_reducible rfl | (intro h9; exfalso; omega))⟩)) hS0 ?_
  change wpAnyH _ _ _ _ _ _ _ (Act.put _ (some 32) _) _; dsimp only [Act.put]; simp only [List.setIfInBounds_toArray, List.set_cons_succ, List.set_cons_zero]
  refine wpAnyH_take (i := 2) (v := .int .i64 kd) rfl (by kernel_rfl) (by kernel_rfl) (by kernel_rfl) (fun _ _ _ h => h) (Or.inl ⟨by rfl, fun w9 hS9 => by have hc9 := (hS9.cell hql).trans q0; go_simp; try with_reducible rfl⟩) hS0 ?_
  change wpAnyH _ _ _ _ _ _ _ (Act.put _ (some 33) _) _; dsimp only [Act.put]; simp only [List.setIfInBounds_toArray, List.set_cons_succ, List.set_cons_zero]
  refine wpAnyH_take (i := 4) (v := .int .i64 sq) rfl (by kernel_rfl) (by kernel_rfl) (by kernel_rfl) (fun _ _ _ h => h) (Yields.yieldsIf (Or.inl ⟨by rfl, fun w9 => by (go_simp; first | done | with_reducible rfl | (intro h9; exfalso; omega))⟩)) hS0 ?_
  change wpAnyH _ _ _ _ _ _ _ (Act.put _ (some 35) _) _; dsimp only [Act.put]; simp only [List.setIfInBounds_toArray, List.set_cons_succ, List.set_cons_zero]
  refine wpAnyH_ready (rs := [3, 6]) (by kernel_rfl) (by simp) ?_
  refine AllReadyH.cons rfl (fun K hK => ?_) (AllReadyH.cons rfl (fun K hK => ?_) (fun j hj => by cases hj))
  · go_simp
    refine (COU _).mono ?_
    rintro e w8 ⟨rfl, hw8⟩
    obtain rfl : _ = w8 := hw8.symm
    have hS1 := hS0
    refine (Shut.out hK) _ _ hS1 (fun _ => ?_)
    clear hK K
    refine wpAnyH_take (i := 5) (v := .agg #[.string op, .int .i64 oc, .bool ou, .int .i64 sq]) rfl (by kernel_rfl) (by kernel_rfl) (by kernel_rfl) (fun _ _ _ h => h) (Or.inl ⟨by rfl, fun w9 hS9 => exec_buildLk (.tmp 31) (.tmp 34) (.tmp 35) rfl op oc ou sq (by first | rfl | simp [Act.eval, Act.put]) (by first | rfl | simp [Act.eval, Act.put]) (by first | rfl | simp [Act.eval, Act.put])⟩) hS1 ?_
    change wpAnyH _ _ _ _ _ _ _ (Act.put _ (some 36) _) _; dsimp only [Act.put]; simp only [List.setIfInBounds_toArray, List.set_cons_succ, List.set_cons_zero]
    refine wpAnyH_ready (rs := [6]) (by kernel_rfl) (by simp) ?_
    refine AllReadyH.cons rfl (fun K hK => ?_) (fun j hj => by cases hj)
    go_simp
    have hS2 := hS1.alloc hS1.size (.cells #[.string ⟨#[]⟩, .int .i64 0, .bool false, .int .i64 0] 62)
    refine (Shut.out hK) _ _ hS2 (fun _ => ?_)
    clear hK K
    refine wpAnyH_ready (rs := [7]) (by kernel_rfl) (by simp) ?_
    refine AllReadyH.cons rfl (fun K hK => ?_) (fun j hj => by cases hj)
    refine step_storeRowG (Z := #[.string op, .int .i64 oc, .bool ou, .int .i64 sq]) rfl (.tmp 8) (.tmp 36) 62 rfl (by kernel_rfl) (by first | rfl | simp [Act.eval, Act.put]) (by first | rfl | simp [Act.eval, Act.put]) (heap_push wr.drew #[.string ⟨#[]⟩, .int .i64 0, .bool false, .int .i64 0] 62) rfl (by simp [Value.oneCell']) ?_
    have hS3 := below_setRow (g := wr.heap.size) (cs := #[.string op, .int .i64 oc, .bool ou, .int .i64 sq]) hS2 (Nat.le_refl _)
    refine (Shut.out hK) _ _ hS3 (fun _ => ?_)
    clear hK K
    change wpAnyH _ _ _ _ _ _ _ (Act.put _ none _) _; dsimp only [Act.put]
    refine wpAnyH_done (by kernel_rfl) ?_ _
    exact HK _ hS3 (setRow_heap _ _ #[.string ⟨#[]⟩, .int .i64 0, .bool false, .int .i64 0] #[.string op, .int .i64 oc, .bool ou, .int .i64 sq] _ _ (heap_push wr.drew #[.string ⟨#[]⟩, .int .i64 0, .bool false, .int .i64 0] 62))
  · go_simp
    have hS1 := hS0.alloc hS0.size (.cells #[.string ⟨#[]⟩, .int .i64 0, .bool false, .int .i64 0] 62)
    refine (Shut.out hK) _ _ hS1 (fun _ => ?_)
    clear hK K
    refine wpAnyH_ready (rs := [3]) (by kernel_rfl) (by simp) ?_
    refine AllReadyH.cons rfl (fun K hK => ?_) (fun j hj => by cases hj)
    go_simp
    refine (COU _).mono ?_
    rintro e w8 ⟨rfl, hw8⟩
    obtain rfl : _ = w8 := hw8.symm
    have hS2 := hS1
    refine (Shut.out hK) _ _ hS2 (fun _ => ?_)
    clear hK K
    refine wpAnyH_take (i := 5) (v := .agg #[.string op, .int .i64 oc, .bool ou, .int .i64 sq]) rfl (by kernel_rfl) (by kernel_rfl) (by kernel_rfl) (fun _ _ _ h => h) (Or.inl ⟨by rfl, fun w9 hS9 => exec_buildLk (.tmp 31) (.tmp 34) (.tmp 35) rfl op oc ou sq (by first | rfl | simp [Act.eval, Act.put]) (by first | rfl | simp [Act.eval, Act.put]) (by first | rfl | simp [Act.eval, Act.put])⟩) hS2 ?_
    change wpAnyH _ _ _ _ _ _ _ (Act.put _ (some 36) _) _; dsimp only [Act.put]; simp only [List.setIfInBounds_toArray, List.set_cons_succ, List.set_cons_zero]
    refine wpAnyH_ready (rs := [7]) (by kernel_rfl) (by simp) ?_
    refine AllReadyH.cons rfl (fun K hK => ?_) (fun j hj => by cases hj)
    refine step_storeRowG (Z := #[.string op, .int .i64 oc, .bool ou, .int .i64 sq]) rfl (.tmp 8) (.tmp 36) 62 rfl (by kernel_rfl) (by first | rfl | simp [Act.eval, Act.put]) (by first | rfl | simp [Act.eval, Act.put]) (heap_push wr.drew #[.string ⟨#[]⟩, .int .i64 0, .bool false, .int .i64 0] 62) rfl (by simp [Value.oneCell']) ?_
    have hS3 := below_setRow (g := wr.heap.size) (cs := #[.string op, .int .i64 oc, .bool ou, .int .i64 sq]) hS2 (Nat.le_refl _)
    refine (Shut.out hK) _ _ hS3 (fun _ => ?_)
    clear hK K
    change wpAnyH _ _ _ _ _ _ _ (Act.put _ none _) _; dsimp only [Act.put]
    refine wpAnyH_done (by kernel_rfl) ?_ _
    exact HK _ hS3 (setRow_heap _ _ #[.string ⟨#[]⟩, .int .i64 0, .bool false, .int .i64 0] #[.string op, .int .i64 oc, .bool ou, .int .i64 sq] _ _ (heap_push wr.drew #[.string ⟨#[]⟩, .int .i64 0, .bool false, .int .i64 0] 62))
end Go.Proofs.Ytbckncopdkmoeaa
