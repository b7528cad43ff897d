/- life.Table.close. -/
import Derived.Test.YtbckncopdkmoeaaLf3
import Derived.Test.YtbckncopdkmoeaaLf5
import Derived.BigRegion
import Derived.RegionTactic
import Derived.BigQuiet
import Derived.Deep.QuietTactic
import Derived.Deep.MidRow
import Derived.Deep.RegionLaw
import Derived.OneCell
import Derived.Laws.OwnMore
import Derived.Deep.RegionHeld
import Derived.WalkKit
import Derived.ProofKit
import Derived.Handy
import Derived.Below
import Derived.Lib.Hide
import Derived.IntWalk
import Derived.Outline
import Derived.WalkLawsBesides
import Derived.WalkSpells
namespace Go.Proofs.Ytbckncopdkmoeaa
open Go.RowKit
attribute [local go_sem] strV
set_option linter.unusedVariables false
set_option linter.unusedSimpArgs false
theorem unit_val (w : World) : (zeroValue 142).run Try.prog w = .ok (.agg #[]) w := by kernel_rfl
theorem build_unit (w : World) : (Instr.build 142 #[]).run Try.prog w = .ok (.agg #[]) w := by kernel_rfl
theorem exec_buildU {o : Oper} {a : Act} {w : World} (ho : o.op = .build 142 #[]) : (execOp a.eval o).run Try.prog w = .ok (.value (.agg #[])) w := by
  have h1 := build_unit w
  simp [execOp, ho, h1, Result.andThen]
theorem exec_loadPe {o : Oper} {a : Act} {w : World} (x : Operand) (ho : o.op = .load 60 x) (b : Nat) (hx : a.eval x = .pointer (some ⟨b, 0, none⟩)) (p : ByteArray) (c : Int) (hz : w.heap[b]? = some (.cells #[.string p, .int .i64 c] 60 (0, 0))) : (execOp a.eval o).run Try.prog w = .ok (.value (.agg #[.string p, .int .i64 c])) w := by
  have h1 := run_loadAt_mid (P := Try.prog) w b 0 60 [.string p, .int .i64 c] _ (fun j v hv => by rw [Nat.zero_add, cell_heap hz]; simpa using hv) Try.underlying60 rfl (by kernel_rfl)
  simp [execOp, ho, hx, h1, Result.andThen]
theorem run_lookEn {w : World} {b n : Nat} {D : DataW Value} {cl : ByteArray → Int → Bool} {p : ByteArray} {c : Int} (hm : w.ownsMap Try.prog 60 hdR b n D) (hD : MapEn D cl) (hk : (⟨p, c, false, 0⟩ : Lk).wf) :
    (Instr.lookup 120 (.map (some b)) (.agg #[.string p, .int .i64 c]) true).run Try.prog w = .ok (.tuple #[.agg #[], .bool (cl p c)]) w := by
  obtain ⟨v, ps, h1, h2⟩ := hm.look_ok en_keyed Try.underlying120 (unit_val _) (zd := .held (.agg #[])) (zp := []) rfl (Lk.ekey hk)
  rw [hD.at_ _ hk] at h2
  rw [show (.agg #[.string p, .int .i64 c] : Value) = .agg (⟨p, c, false, 0⟩ : Lk).erow from rfl, h1, hdR_inj h2, hD.has _ hk]
theorem exec_lookEn {o : Oper} {a : Act} {w : World} (m x : Operand) (ho : o.op = .lookup 120 m x true) {b n : Nat} {D : DataW Value} {cl : ByteArray → Int → Bool} {p : ByteArray} {c : Int} (hmv : a.eval m = .map (some b)) (hx : a.eval x = .agg #[.string p, .int .i64 c])
    (hm : w.ownsMap Try.prog 60 hdR b n D) (hD : MapEn D cl) (hk : (⟨p, c, false, 0⟩ : Lk).wf) : (execOp a.eval o).run Try.prog w = .ok (.value (.tuple #[.agg #[], .bool (cl p c)])) w := by
  have h1 := run_lookEn hm hD hk
  simp [execOp, ho, hmv, hx, h1, Result.andThen]
theorem grown_drew {w w' : World} {r : Option Nat} (h : w.drew.grownBy w' r) : w.grownBy w' r := ⟨h.os, h.tape, h.output, h.size, h.block⟩
theorem drew_grown (w : World) (r : Option Nat) : w.grownBy w.drew r := ⟨rfl, rfl, rfl, Nat.le_refl _, fun _ _ _ => rfl⟩
theorem grown_trans {a b c : World} {i : Nat} (h : Below a.heap.size a b) (k : b.grownBy c (some i)) : a.grownBy c (some i) :=
  ⟨k.os.trans h.os, k.tape.trans h.tape, k.output.trans h.output, Nat.le_trans h.size k.size, fun j hj hne => (k.block j (Nat.lt_of_lt_of_le hj h.size) hne).trans (h.block j hj)⟩
set_option maxRecDepth 100000 in
set_option maxHeartbeats 4000000 in
theorem lfClose_any (g b c n : Nat) (f : Lk → Option Ent) (cl : ByteArray → Int → Bool) (p : ByteArray) (ch : Int) (hk : (⟨p, ch, false, 0⟩ : Lk).wf) (w : World) (hT : TabAt w g b c n f cl) (hn : n < maxLen) :
    Calls Try.prog 58 #[.pointer (some ⟨g, 0, none⟩), .agg #[.string p, .int .i64 ch]] w fun e w' => e = .returned (.int .i64 (if cl p ch = true then 8 else 0)) ∧ TabAt w' g b c (n + 1) f (if cl p ch = true then cl else clPut cl p ch) ∧ w.grownBy w' (some c) := by
  obtain ⟨r, hr⟩ : ∃ e, cl p ch = e := ⟨_, rfl⟩
  simp only [hr]
  go_enter Try.func58, Try.ntmps58
  go_upto_region 1 with fail
  refine wp_nameE _ (fun wr hwr => ?_)
  have hq1 : wr.heap[w.heap.size]? = some (.cells #[.string p, .int .i64 ch] 60 (0, 0)) := by rw [hwr]; exact heap_push w _ _
  have hb1 : Below w.heap.size w wr := by rw [hwr]; exact (Below.refl _ _).alloc (Nat.le_refl _) _
  clear hwr
  have hTr := hT.kept hb1
  have hTq := hTr
  obtain ⟨hgc, _, ⟨D, hm, hD⟩, _⟩ := hTr
  have hgl := row_lt hgc
  have hcg : wr.cell? ⟨g, 1, none⟩ = some (.map (some c)) := cell_heap hgc 1
  refine wp_region_held_drew (S := fun W => Below wr.heap.size wr W) (by kernel_rfl) ((Below.refl _ _).drew) (fun hS0 => ?_)
  refine wpAnyH_take (i := 0) (v := .pointer (some ⟨g, 0, none⟩)) rfl (by kernel_rfl) (by kernel_rfl) (by kernel_rfl) (fun _ _ _ h => h) (Yields.yieldsIf (Or.inl ⟨by rfl, fun w9 => by (go_simp; first | done | with_reducible rfl | (intro h9; exfalso; omega))⟩)) hS0 ?_
  change wpAnyH _ _ _ _ _ _ _ (Act.put _ (some 8) _) _; dsimp only [Act.put]; simp only [List.setIfInBounds_toArray, List.set_cons_succ, List.set_cons_zero]
  refine wpAnyH_take (i := 1) (v := .pointer (some ⟨g, 0, none⟩)) rfl (by kernel_rfl) (by kernel_rfl) (by kernel_rfl) (fun _ _ _ h => h) (Yields.yieldsIf (Or.inl ⟨by rfl, fun w9 => by (go_simp; first | done | with_reducible rfl | (intro h9; exfalso; omega))⟩)) hS0 ?_
  change wpAnyH _ _ _ _ _ _ _ (Act.put _ (some 9) _) _; dsimp only [Act.put]; simp only [List.setIfInBounds_toArray, List.set_cons_succ, List.set_cons_zero]
  refine wpAnyH_take (i := 2) (v := .pointer (some ⟨g, 1, none⟩)) rfl (by kernel_rfl) (by kernel_rfl) (by kernel_rfl) (fun _ _ _ h => h) (Yields.yieldsIf (Or.inl ⟨by rfl, fun w9 => by (go_simp; first | done | with_reducible rfl | (intro h9; exfalso; omega))⟩)) hS0 ?_
  change wpAnyH _ _ _ _ _ _ _ (Act.put _ (some 10) _) _; dsimp only [Act.put]; simp only [List.setIfInBounds_toArray, List.set_cons_succ, List.set_cons_zero]
  refine wpAnyH_take (i := 3) (v := .map (some c)) rfl (by kernel_rfl) (by kernel_rfl) (by kernel_rfl) (fun _ _ _ h => h) (Or.inl ⟨by rfl, fun w9 hS9 => by have hc9 := (hS9.cell hgl).trans hcg; go_simp; try with_reducible rfl⟩) hS0 ?_
  change wpAnyH _ _ _ _ _ _ _ (Act.put _ (some 11) _) _; dsimp only [Act.put]; simp only [List.setIfInBounds_toArray, List.set_cons_succ, List.set_cons_zero]
  refine wpAnyH_take (i := 4) (v := .agg #[.string p, .int .i64 ch]) rfl (by kernel_rfl) (by kernel_rfl) (by kernel_rfl) (fun _ _ _ h => h) (Or.inl ⟨by rfl, fun w9 hS9 => exec_loadPe (.tmp 3) rfl w.heap.size (by first | rfl | simp [Act.eval, Act.put]) p ch (cells_of hq1 hS9 (row_lt hq1))⟩) hS0 ?_
  change wpAnyH _ _ _ _ _ _ _ (Act.put _ (some 12) _) _; dsimp only [Act.put]; simp only [List.setIfInBounds_toArray, List.set_cons_succ, List.set_cons_zero]
  refine wpAnyH_take (i := 5) (v := .tuple #[.agg #[], .bool r]) rfl (by kernel_rfl) (by kernel_rfl) (by kernel_rfl) (fun _ _ _ h => h) (Or.inl ⟨by rfl, fun w9 hS9 => by rw [← hr]; exact exec_lookEn (.tmp 11) (.tmp 12) rfl (by first | rfl | simp [Act.eval, Act.put]) (by first | rfl | simp [Act.eval, Act.put]) (hm.kept (grown_below hS9) (by simp)) hD hk⟩) hS0 ?_
  change wpAnyH _ _ _ _ _ _ _ (Act.put _ (some 13) _) _; dsimp only [Act.put]; simp only [List.setIfInBounds_toArray, List.set_cons_succ, List.set_cons_zero]
  refine wpAnyH_take (i := 6) (v := .tuple #[.agg #[], .bool r]) rfl (by kernel_rfl) (by kernel_rfl) (by kernel_rfl) (fun _ _ _ h => h) (Yields.yieldsIf (Or.inl ⟨by rfl, fun w9 => by (go_simp; first | done | with_reducible rfl | (intro h9; exfalso; omega))⟩)) hS0 ?_
  change wpAnyH _ _ _ _ _ _ _ (Act.put _ (some 7) _) _; dsimp only [Act.put]; simp only [List.setIfInBounds_toArray, List.set_cons_succ, List.set_cons_zero]
  refine wpAnyH_take (i := 7) (v := .agg #[]) rfl (by kernel_rfl) (by kernel_rfl) (by kernel_rfl) (fun _ _ _ h => h) (Yields.yieldsIf (Or.inl ⟨by rfl, fun w9 => by (go_simp; first | done | with_reducible rfl | (intro h9; exfalso; omega))⟩)) hS0 ?_
  change wpAnyH _ _ _ _ _ _ _ (Act.put _ (some 14) _) _; dsimp only [Act.put]; simp only [List.setIfInBounds_toArray, List.set_cons_succ, List.set_cons_zero]
  refine wpAnyH_take (i := 8) (v := .bool r) rfl (by kernel_rfl) (by kernel_rfl) (by kernel_rfl) (fun _ _ _ h => h) (Yields.yieldsIf (Or.inl ⟨by rfl, fun w9 => by (go_simp; first | done | with_reducible rfl | (intro h9; exfalso; omega))⟩)) hS0 ?_
  change wpAnyH _ _ _ _ _ _ _ (Act.put _ (some 15) _) _; dsimp only [Act.put]; simp only [List.setIfInBounds_toArray, List.set_cons_succ, List.set_cons_zero]
  refine wpAnyH_ready (rs := [9]) (by kernel_rfl) (by simp) ?_
  refine AllReadyH.cons rfl (fun K hK => ?_) (fun j hj => by cases hj)
  go_simp
  have hS1 := hS0.alloc hS0.size (.cells #[] 142)
  refine (Shut.out hK) _ _ hS1 (fun _ => ?_)
  clear hK K
  refine wpAnyH_ready (rs := [10]) (by kernel_rfl) (by simp) ?_
  refine AllReadyH.cons rfl (fun K hK => ?_) (fun j hj => by cases hj)
  refine step_storeRowG (Z := #[]) rfl (.tmp 5) (.tmp 14) 142 rfl (by kernel_rfl) (by first | rfl | simp [Act.eval, Act.put]) (by first | rfl | simp [Act.eval, Act.put]) (heap_push wr.drew #[] 142) rfl (by simp) ?_
  have hS2 := below_setRow (g := wr.heap.size) (cs := #[]) hS1 (Nat.le_refl _)
  refine (Shut.out hK) _ _ hS2 (fun _ => ?_)
  clear hK K
  refine wpAnyH_take (i := 11) (v := .bool r) rfl (by kernel_rfl) (by kernel_rfl) (by kernel_rfl) (fun _ _ _ h => h) (Yields.yieldsIf (Or.inl ⟨by rfl, fun w9 => by (go_simp; first | done | with_reducible rfl | (intro h9; exfalso; omega))⟩)) hS2 ?_
  change wpAnyH _ _ _ _ _ _ _ (Act.put _ (some 6) _) _; dsimp only [Act.put]; simp only [List.setIfInBounds_toArray, List.set_cons_succ, List.set_cons_zero]
  refine wpAnyH_done (by kernel_rfl) ?_ _
  go_upto_region 2 with fail
  refine wp_nameE _ (fun W hW => ?_)
  have hbW : Below wr.heap.size wr W := by rw [hW]; exact hS2
  clear hW hS0 hS1 hS2
  have hq1 := cells_of hq1 hbW (row_lt hq1)
  have hT2 := hTq.kept hbW
  have hb2 := hb1.trans (hbW.mono hb1.size)
  clear hTq hgc hm hD hcg hgl hb1 hbW D hT
  cases r
  · obtain ⟨ngb, ngc, _⟩ := hT2.ne
    have nbox := (hT2.cells_ne hq1).2
    have hT3 := hT2
    obtain ⟨hgc, hmf, ⟨D, hm, hD⟩, hbc⟩ := hT2
    have hgl := row_lt hgc
    have hcg : W.cell? ⟨g, 1, none⟩ = some (.map (some c)) := cell_heap hgc 1
    go_upto_region 4 with fail
    refine wp_region_held_drew (S := fun X => W.grownBy X (some c)) (by kernel_rfl) (drew_grown W _) (fun hS0 => ?_)
    refine wpAnyH_take (i := 0) (v := .pointer (some ⟨g, 0, none⟩)) rfl (by kernel_rfl) (by kernel_rfl) (by kernel_rfl) (fun _ _ _ h => h) (Yields.yieldsIf (Or.inl ⟨by rfl, fun w9 => by (go_simp; first | done | with_reducible rfl | (intro h9; exfalso; omega))⟩)) hS0 ?_
    change wpAnyH _ _ _ _ _ _ _ (Act.put _ (some 17) _) _; dsimp only [Act.put]; simp only [List.setIfInBounds_toArray, List.set_cons_succ, List.set_cons_zero]
    refine wpAnyH_take (i := 1) (v := .pointer (some ⟨g, 0, none⟩)) rfl (by kernel_rfl) (by kernel_rfl) (by kernel_rfl) (fun _ _ _ h => h) (Yields.yieldsIf (Or.inl ⟨by rfl, fun w9 => by (go_simp; first | done | with_reducible rfl | (intro h9; exfalso; omega))⟩)) hS0 ?_
    change wpAnyH _ _ _ _ _ _ _ (Act.put _ (some 18) _) _; dsimp only [Act.put]; simp only [List.setIfInBounds_toArray, List.set_cons_succ, List.set_cons_zero]
    refine wpAnyH_take (i := 2) (v := .pointer (some ⟨g, 1, none⟩)) rfl (by kernel_rfl) (by kernel_rfl) (by kernel_rfl) (fun _ _ _ h => h) (Yields.yieldsIf (Or.inl ⟨by rfl, fun w9 => by (go_simp; first | done | with_reducible rfl | (intro h9; exfalso; omega))⟩)) hS0 ?_
    change wpAnyH _ _ _ _ _ _ _ (Act.put _ (some 19) _) _; dsimp only [Act.put]; simp only [List.setIfInBounds_toArray, List.set_cons_succ, List.set_cons_zero]
    refine wpAnyH_take (i := 3) (v := .map (some c)) rfl (by kernel_rfl) (by kernel_rfl) (by kernel_rfl) (fun _ _ _ h => h) (Or.inl ⟨by rfl, fun w9 hS9 => by have hc9 := hS9.cell hcg (by simp [ngc]); go_simp; try with_reducible rfl⟩) hS0 ?_
    change wpAnyH _ _ _ _ _ _ _ (Act.put _ (some 20) _) _; dsimp only [Act.put]; simp only [List.setIfInBounds_toArray, List.set_cons_succ, List.set_cons_zero]
    refine wpAnyH_take (i := 4) (v := .agg #[.string p, .int .i64 ch]) rfl (by kernel_rfl) (by kernel_rfl) (by kernel_rfl) (fun _ _ _ h => h) (Or.inl ⟨by rfl, fun w9 hS9 => exec_loadPe (.tmp 3) rfl w.heap.size (by first | rfl | simp [Act.eval, Act.put]) p ch (grown_at hS9 hq1 (by simp [nbox]))⟩) hS0 ?_
    change wpAnyH _ _ _ _ _ _ _ (Act.put _ (some 21) _) _; dsimp only [Act.put]; simp only [List.setIfInBounds_toArray, List.set_cons_succ, List.set_cons_zero]
    refine wpAnyH_take (i := 5) (v := .agg #[]) rfl (by kernel_rfl) (by kernel_rfl) (by kernel_rfl) (fun _ _ _ h => h) (Or.inl ⟨by rfl, fun w9 hS9 => exec_buildU rfl⟩) hS0 ?_
    change wpAnyH _ _ _ _ _ _ _ (Act.put _ (some 22) _) _; dsimp only [Act.put]; simp only [List.setIfInBounds_toArray, List.set_cons_succ, List.set_cons_zero]
    refine wpAnyH_ready (rs := [6]) (by kernel_rfl) (by simp) ?_
    refine AllReadyH.cons rfl (fun K hK => ?_) (fun j hj => by cases hj)
    refine step_mapUpdate_own (w := W.drew) rfl (.tmp 20) (.tmp 21) (.tmp 22) 120 rfl 60 142 en_keyed Try.underlying120 hdR c n D (by first | rfl | simp [Act.eval, Act.put]) (hm.kept (drew_grown W none) (by simp)) hn _ _ (⟨p, ch, false, 0⟩ : Lk).elit (by first | rfl | simp [Act.eval, Act.put]) (by first | rfl | simp [Act.eval, Act.put]) (Lk.ekey hk) (.held (.agg #[])) [] rfl ?_
    intro w6 hm6 hg6
    have hS1 := grown_drew hg6
    refine (Shut.out hK) _ _ hS1 (fun _ => ?_)
    clear hK K
    refine wpAnyH_done (by kernel_rfl) ?_ _
    go_wp2
    go_ret
    obtain ⟨D1, hm1, hD1⟩ := hmf
    refine ⟨by first | rfl | simp, ⟨grown_at hS1 hgc (by simp [ngc]), ⟨D1, own_mono (hm1.kept hS1 (by simp [hbc])) (Nat.le_succ _), hD1⟩, ⟨_, hm6, hD.put hm.isMap hk⟩, hbc⟩, grown_trans hb2 hS1⟩
  · go_wp2
    go_ret
    exact ⟨rfl, hT2.mono (Nat.le_succ _), grown_one hb2 c⟩
end Go.Proofs.Ytbckncopdkmoeaa
