/- life.Table.Get. -/
import Derived.Test.YtbckncopdkmoeaaLf2
import Derived.BigRegion
import Derived.RegionTactic
import Derived.BigQuiet
import Derived.Deep.QuietTactic
import Derived.Deep.MidRow
import Derived.Deep.RegionLaw
import Derived.OneCell
import Derived.Laws.OwnMore
import Derived.Deep.RegionHeld
import Derived.WalkKit
import Derived.ProofKit
import Derived.Handy
import Derived.Below
import Derived.Lib.Hide
import Derived.IntWalk
import Derived.Outline
import Derived.WalkLawsBesides
import Derived.WalkSpells
namespace Go.Proofs.Ytbckncopdkmoeaa
open Go.RowKit
attribute [local go_sem] strV
set_option linter.unusedVariables false
set_option linter.unusedSimpArgs false
theorem ent_range {w : World} {g : Nat} {e : Ent} {t : TypeId} (hz : w.heap[g]? = some (.cells e.row t (0, 0))) : w.rangeAt g 0 e.L := fun j v hv => by
  rw [Nat.zero_add, cell_heap hz]; simpa [Ent.row] using hv
theorem wpList_loadEnt {ops : Array Oper} {rest : List Oper} {op : Oper} {a : Act} {w : World} {Q : Exit → Act → World → Prop} (x : Operand) (ho : op.op = .load 78 x)
    (b o : Nat) (hx : a.eval x = .pointer (some ⟨b, o, none⟩)) (e : Ent) (hc : w.rangeAt b o e.L) (hw : Region.wanted op (yielded ops a.tmps) = true)
    (hK : wpList Try.prog ops Q rest (a.put op.dst (.agg e.row)) w) : wpList Try.prog ops Q (op :: rest) a w :=
  wpList_load_midH 78 x ho b o hx e.L _ hc Try.underlying78 rfl (infoEnt_row e) hw hK
theorem exec_loadLk {o : Oper} {a : Act} {w : World} (x : Operand) (ho : o.op = .load 62 x) (b : Nat) (hx : a.eval x = .pointer (some ⟨b, 0, none⟩)) (k : Lk) (hz : w.heap[b]? = some (.cells k.row 62 (0, 0))) : (execOp a.eval o).run Try.prog w = .ok (.value (.agg k.row)) w := by
  have h1 := run_loadAt_mid (P := Try.prog) w b 0 62 k.L _ (fun j v hv => by rw [Nat.zero_add, cell_heap hz]; simpa [Lk.row, Lk.L] using hv) Try.underlying62 rfl (by kernel_rfl)
  simp [execOp, ho, hx, h1, Result.andThen]
  rfl
set_option maxRecDepth 100000 in
set_option maxHeartbeats 4000000 in
theorem lfGet_any (g b c n : Nat) (f : Lk → Option Ent) (cl : ByteArray → Int → Bool) (k : Lk) (hk : k.wf) (w : World) (hT : TabAt w g b c n f cl) :
    Calls Try.prog 34 #[.pointer (some ⟨g, 0, none⟩), .agg k.row] w fun e w' => e = .returned (.tuple #[.agg ((f k).getD zeroEnt).row, .bool (f k).isSome]) ∧ Below w.heap.size w w' := by
  obtain ⟨e, he⟩ : ∃ e, (f k).getD zeroEnt = e := ⟨_, rfl⟩
  obtain ⟨r, hr⟩ : ∃ e, (f k).isSome = e := ⟨_, rfl⟩
  rw [he, hr]
  go_enter Try.func34, Try.ntmps34
  go_upto_region 1 with fail
  refine wp_nameE _ (fun wr hwr => ?_)
  have hq1 : wr.heap[w.heap.size]? = some (.cells k.row 62 (0, 0)) := by rw [hwr]; exact al2_0 w _ _
  have hq2 : wr.heap[w.heap.size + 1]? = some (.cells zeroEnt.row 78 (0, 0)) := by rw [hwr]; exact al2_1 w _ _
  have hb1 : Below w.heap.size w wr := by rw [hwr]; exact al2_below w _ _
  clear hwr
  have hTr := hT.kept hb1
  obtain ⟨hgc, ⟨D, hm, hD⟩, _⟩ := hTr
  have hgl := row_lt hgc
  have hcg : wr.cell? ⟨g, 0, none⟩ = some (.map (some b)) := cell_heap hgc 0
  refine wp_region_held_drew (S := fun W => Below wr.heap.size wr W) (by kernel_rfl) ((Below.refl _ _).drew) (fun hS0 => ?_)
  refine wpAnyH_take (i := 0) (v := .pointer (some ⟨g, 0, none⟩)) rfl (by kernel_rfl) (by kernel_rfl) (by kernel_rfl) (fun _ _ _ h => h) (Yields.yieldsIf (Or.inl ⟨by rfl, fun w9 => by (go_simp; first | done | with_reducible rfl | (intro h9; exfalso; omega))⟩)) hS0 ?_
  change wpAnyH _ _ _ _ _ _ _ (Act.put _ (some 9) _) _; dsimp only [Act.put]; simp only [List.setIfInBounds_toArray, List.set_cons_succ, List.set_cons_zero]
  refine wpAnyH_take (i := 1) (v := .pointer (some ⟨g, 0, none⟩)) rfl (by kernel_rfl) (by kernel_rfl) (by kernel_rfl) (fun _ _ _ h => h) (Yields.yieldsIf (Or.inl ⟨by rfl, fun w9 => by (go_simp; first | done | with_reducible rfl | (intro h9; exfalso; omega))⟩)) hS0 ?_
  change wpAnyH _ _ _ _ _ _ _ (Act.put _ (some 10) _) _; dsimp only [Act.put]; simp only [List.setIfInBounds_toArray, List.set_cons_succ, List.set_cons_zero]
  refine wpAnyH_take (i := 2) (v := .pointer (some ⟨g, 0, none⟩)) rfl (by kernel_rfl) (by kernel_rfl) (by kernel_rfl) (fun _ _ _ h => h) (Yields.yieldsIf (Or.inl ⟨by rfl, fun w9 => by (go_simp; first | done | with_reducible rfl | (intro h9; exfalso; omega))⟩)) hS0 ?_
  change wpAnyH _ _ _ _ _ _ _ (Act.put _ (some 11) _) _; dsimp only [Act.put]; simp only [List.setIfInBounds_toArray, List.set_cons_succ, List.set_cons_zero]
  refine wpAnyH_take (i := 3) (v := .map (some b)) rfl (by kernel_rfl) (by kernel_rfl) (by kernel_rfl) (fun _ _ _ h => h) (Or.inl ⟨by rfl, fun w9 hS9 => by have hc9 := (hS9.cell hgl).trans hcg; go_simp; try with_reducible rfl⟩) hS0 ?_
  change wpAnyH _ _ _ _ _ _ _ (Act.put _ (some 12) _) _; dsimp only [Act.put]; simp only [List.setIfInBounds_toArray, List.set_cons_succ, List.set_cons_zero]
  refine wpAnyH_take (i := 4) (v := .agg k.row) rfl (by kernel_rfl) (by kernel_rfl) (by kernel_rfl) (fun _ _ _ h => h) (Or.inl ⟨by rfl, fun w9 hS9 => exec_loadLk (.tmp 3) rfl w.heap.size (by first | rfl | simp [Act.eval, Act.put]) k (cells_of hq1 hS9 (row_lt hq1))⟩) hS0 ?_
  change wpAnyH _ _ _ _ _ _ _ (Act.put _ (some 13) _) _; dsimp only [Act.put]; simp only [List.setIfInBounds_toArray, List.set_cons_succ, List.set_cons_zero]
  refine wpAnyH_take (i := 5) (v := .tuple #[.agg e.row, .bool r]) rfl (by kernel_rfl) (by kernel_rfl) (by kernel_rfl) (fun _ _ _ h => h) (Or.inl ⟨by rfl, fun w9 hS9 => by rw [← he, ← hr]; exact exec_lookLf (.tmp 12) (.tmp 13) rfl (by first | rfl | simp [Act.eval, Act.put]) (by first | rfl | simp [Act.eval, Act.put]) (hm.kept (grown_below hS9) (by simp)) hD hk⟩) hS0 ?_
  change wpAnyH _ _ _ _ _ _ _ (Act.put _ (some 14) _) _; dsimp only [Act.put]; simp only [List.setIfInBounds_toArray, List.set_cons_succ, List.set_cons_zero]
  refine wpAnyH_take (i := 6) (v := .tuple #[.agg e.row, .bool r]) rfl (by kernel_rfl) (by kernel_rfl) (by kernel_rfl) (fun _ _ _ h => h) (Yields.yieldsIf (Or.inl ⟨by rfl, fun w9 => by (go_simp; first | done | with_reducible rfl | (intro h9; exfalso; omega))⟩)) hS0 ?_
  change wpAnyH _ _ _ _ _ _ _ (Act.put _ (some 8) _) _; dsimp only [Act.put]; simp only [List.setIfInBounds_toArray, List.set_cons_succ, List.set_cons_zero]
  refine wpAnyH_take (i := 7) (v := .agg e.row) rfl (by kernel_rfl) (by kernel_rfl) (by kernel_rfl) (fun _ _ _ h => h) (Yields.yieldsIf (Or.inl ⟨by rfl, fun w9 => by (go_simp; first | done | with_reducible rfl | (intro h9; exfalso; omega))⟩)) hS0 ?_
  change wpAnyH _ _ _ _ _ _ _ (Act.put _ (some 15) _) _; dsimp only [Act.put]; simp only [List.setIfInBounds_toArray, List.set_cons_succ, List.set_cons_zero]
  refine wpAnyH_take (i := 8) (v := .bool r) rfl (by kernel_rfl) (by kernel_rfl) (by kernel_rfl) (fun _ _ _ h => h) (Yields.yieldsIf (Or.inl ⟨by rfl, fun w9 => by (go_simp; first | done | with_reducible rfl | (intro h9; exfalso; omega))⟩)) hS0 ?_
  change wpAnyH _ _ _ _ _ _ _ (Act.put _ (some 16) _) _; dsimp only [Act.put]; simp only [List.setIfInBounds_toArray, List.set_cons_succ, List.set_cons_zero]
  refine wpAnyH_ready (rs := [9]) (by kernel_rfl) (by simp) ?_
  refine AllReadyH.cons rfl (fun K hK => ?_) (fun j hj => by cases hj)
  go_simp
  have hS1 := hS0.alloc hS0.size (.cells zeroEnt.row 78)
  refine (Shut.out hK) _ _ hS1 (fun _ => ?_)
  clear hK K
  refine wpAnyH_ready (rs := [10]) (by kernel_rfl) (by simp) ?_
  refine AllReadyH.cons rfl (fun K hK => ?_) (fun j hj => by cases hj)
  refine step_storeRowG (Z := e.row) rfl (.tmp 6) (.tmp 15) 78 rfl (infoEnt_row _) (by first | rfl | simp [Act.eval, Act.put]) (by first | rfl | simp [Act.eval, Act.put]) (heap_push wr.drew zeroEnt.row 78) rfl (Ent.row_one _) ?_
  have hS2 := below_setRow (g := wr.heap.size) (cs := e.row) hS1 (Nat.le_refl _)
  refine (Shut.out hK) _ _ hS2 (fun _ => ?_)
  clear hK K
  refine wpAnyH_take (i := 11) (v := .bool r) rfl (by kernel_rfl) (by kernel_rfl) (by kernel_rfl) (fun _ _ _ h => h) (Yields.yieldsIf (Or.inl ⟨by rfl, fun w9 => by (go_simp; first | done | with_reducible rfl | (intro h9; exfalso; omega))⟩)) hS2 ?_
  change wpAnyH _ _ _ _ _ _ _ (Act.put _ (some 7) _) _; dsimp only [Act.put]; simp only [List.setIfInBounds_toArray, List.set_cons_succ, List.set_cons_zero]
  refine wpAnyH_done (by kernel_rfl) ?_ _
  go_upto_region 2 with fail
  refine wp_nameE _ (fun W hW => ?_)
  have hz6 : W.heap[wr.heap.size]? = some (.cells e.row 78 (0, 0)) := by rw [hW]; exact setRow_heap _ _ zeroEnt.row e.row _ _ (heap_push wr.drew zeroEnt.row 78)
  have hbW : Below wr.heap.size wr W := by rw [hW]; exact hS2
  have hq4 := cells_of hq2 hbW (row_lt hq2)
  have hbel := hb1.trans (hbW.mono hb1.size)
  clear hW
  go_wp2_with (first | (refine wpList_loadEnt (.tmp 6) rfl wr.heap.size 0 rfl e (ent_range hz6) (by rfl) ?_) | (refine wpList_storeRowTo (Z := e.row) rfl (.tmp 4) (.tmp 17) 78 rfl (infoEnt_row _) rfl rfl hq4 rfl (Ent.row_one _) ?_))
  have hZ := setRow_heap _ _ zeroEnt.row e.row _ _ hq4
  have hrd := run_loadVar_mid (P := Try.prog) _ (w.heap.size + 1) 0 78 e.L _ (ent_range hZ) Try.underlying78 rfl (infoEnt_row e)
  refine bodyPost_ret (v := .tuple #[.agg e.row, .bool r]) ?_ rfl ?_
  · simp [results, Try.results34, asAddr]
    exact (congrArg (fun q => q.andThen fun a w' => Result.ok (Value.tuple #[a, Value.bool r]) w') hrd).trans rfl
  exact ⟨rfl, below_setRow hbel (Nat.le_succ _) _⟩
/-- How far a packet has come. -/
def stgB (r ou wr ac ti : Bool) : Int := if r then (if ou then (if ti then 3 else if ac then 2 else 1) else (if wr then 5 else 4)) else 0
def stgF (x : Option Ent) (ou : Bool) : Int := stgB x.isSome ou (x.getD zeroEnt).wr (x.getD zeroEnt).ac (x.getD zeroEnt).ti
set_option maxRecDepth 100000 in
set_option maxHeartbeats 6400000 in
theorem lfStage_any (g b c n : Nat) (f : Lk → Option Ent) (cl : ByteArray → Int → Bool) (k : Lk) (hk : k.wf) (w : World) (hT : TabAt w g b c n f cl) :
    Calls Try.prog 36 #[.pointer (some ⟨g, 0, none⟩), .agg k.row] w fun e w' => e = .returned (.int .i64 (stgF (f k) k.ou)) ∧ Below w.heap.size w w' := by
  obtain ⟨s, hs⟩ : ∃ s, stgF (f k) k.ou = s := ⟨_, rfl⟩
  rw [hs]
  unfold stgF at hs
  obtain ⟨e, he⟩ : ∃ e, (f k).getD zeroEnt = e := ⟨_, rfl⟩
  obtain ⟨r, hr⟩ : ∃ e, (f k).isSome = e := ⟨_, rfl⟩
  go_enter Try.func36, Try.ntmps36
  go_upto_region 1 with fail
  refine wp_nameE _ (fun wr hwr => ?_)
  have hq1 : wr.heap[w.heap.size]? = some (.cells k.row 62 (0, 0)) := by rw [hwr]; exact heap_push w _ _
  have hb1 : Below w.heap.size w wr := by rw [hwr]; exact (Below.refl _ _).alloc (Nat.le_refl _) _
  clear hwr
  have hTr := hT.kept hb1
  obtain ⟨hgc, ⟨D, hm, hD⟩, _⟩ := hTr
  have hgl := row_lt hgc
  have hcg : wr.cell? ⟨g, 0, none⟩ = some (.map (some b)) := cell_heap hgc 0
  refine wp_region_held_drew (S := fun W => Below wr.heap.size wr W) (by kernel_rfl) ((Below.refl _ _).drew) (fun hS0 => ?_)
  refine wpAnyH_take (i := 0) (v := .pointer (some ⟨g, 0, none⟩)) rfl (by kernel_rfl) (by kernel_rfl) (by kernel_rfl) (fun _ _ _ h => h) (Yields.yieldsIf (Or.inl ⟨by rfl, fun w9 => by (go_simp; first | done | with_reducible rfl | (intro h9; exfalso; omega))⟩)) hS0 ?_
  change wpAnyH _ _ _ _ _ _ _ (Act.put _ (some 8) _) _; dsimp only [Act.put]; simp only [List.setIfInBounds_toArray, List.set_cons_succ, List.set_cons_zero]
  refine wpAnyH_take (i := 1) (v := .pointer (some ⟨g, 0, none⟩)) rfl (by kernel_rfl) (by kernel_rfl) (by kernel_rfl) (fun _ _ _ h => h) (Yields.yieldsIf (Or.inl ⟨by rfl, fun w9 => by (go_simp; first | done | with_reducible rfl | (intro h9; exfalso; omega))⟩)) hS0 ?_
  change wpAnyH _ _ _ _ _ _ _ (Act.put _ (some 9) _) _; dsimp only [Act.put]; simp only [List.setIfInBounds_toArray, List.set_cons_succ, List.set_cons_zero]
  refine wpAnyH_take (i := 2) (v := .pointer (some ⟨g, 0, none⟩)) rfl (by kernel_rfl) (by kernel_rfl) (by kernel_rfl) (fun _ _ _ h => h) (Yields.yieldsIf (Or.inl ⟨by rfl, fun w9 => by (go_simp; first | done | with_reducible rfl | (intro h9; exfalso; omega))⟩)) hS0 ?_
  change wpAnyH _ _ _ _ _ _ _ (Act.put _ (some 10) _) _; dsimp only [Act.put]; simp only [List.setIfInBounds_toArray, List.set_cons_succ, List.set_cons_zero]
  refine wpAnyH_take (i := 3) (v := .map (some b)) rfl (by kernel_rfl) (by kernel_rfl) (by kernel_rfl) (fun _ _ _ h => h) (Or.inl ⟨by rfl, fun w9 hS9 => by have hc9 := (hS9.cell hgl).trans hcg; go_simp; try with_reducible rfl⟩) hS0 ?_
  change wpAnyH _ _ _ _ _ _ _ (Act.put _ (some 11) _) _; dsimp only [Act.put]; simp only [List.setIfInBounds_toArray, List.set_cons_succ, List.set_cons_zero]
  refine wpAnyH_take (i := 4) (v := .agg k.row) rfl (by kernel_rfl) (by kernel_rfl) (by kernel_rfl) (fun _ _ _ h => h) (Or.inl ⟨by rfl, fun w9 hS9 => exec_loadLk (.tmp 3) rfl w.heap.size (by first | rfl | simp [Act.eval, Act.put]) k (cells_of hq1 hS9 (row_lt hq1))⟩) hS0 ?_
  change wpAnyH _ _ _ _ _ _ _ (Act.put _ (some 12) _) _; dsimp only [Act.put]; simp only [List.setIfInBounds_toArray, List.set_cons_succ, List.set_cons_zero]
  refine wpAnyH_take (i := 5) (v := .tuple #[.agg e.row, .bool r]) rfl (by kernel_rfl) (by kernel_rfl) (by kernel_rfl) (fun _ _ _ h => h) (Or.inl ⟨by rfl, fun w9 hS9 => by rw [← he, ← hr]; exact exec_lookLf (.tmp 11) (.tmp 12) rfl (by first | rfl | simp [Act.eval, Act.put]) (by first | rfl | simp [Act.eval, Act.put]) (hm.kept (grown_below hS9) (by simp)) hD hk⟩) hS0 ?_
  change wpAnyH _ _ _ _ _ _ _ (Act.put _ (some 13) _) _; dsimp only [Act.put]; simp only [List.setIfInBounds_toArray, List.set_cons_succ, List.set_cons_zero]
  refine wpAnyH_take (i := 6) (v := .tuple #[.agg e.row, .bool r]) rfl (by kernel_rfl) (by kernel_rfl) (by kernel_rfl) (fun _ _ _ h => h) (Yields.yieldsIf (Or.inl ⟨by rfl, fun w9 => by (go_simp; first | done | with_reducible rfl | (intro h9; exfalso; omega))⟩)) hS0 ?_
  change wpAnyH _ _ _ _ _ _ _ (Act.put _ (some 7) _) _; dsimp only [Act.put]; simp only [List.setIfInBounds_toArray, List.set_cons_succ, List.set_cons_zero]
  refine wpAnyH_take (i := 7) (v := .agg e.row) rfl (by kernel_rfl) (by kernel_rfl) (by kernel_rfl) (fun _ _ _ h => h) (Yields.yieldsIf (Or.inl ⟨by rfl, fun w9 => by (go_simp; first | done | with_reducible rfl | (intro h9; exfalso; omega))⟩)) hS0 ?_
  change wpAnyH _ _ _ _ _ _ _ (Act.put _ (some 14) _) _; dsimp only [Act.put]; simp only [List.setIfInBounds_toArray, List.set_cons_succ, List.set_cons_zero]
  refine wpAnyH_take (i := 8) (v := .bool r) rfl (by kernel_rfl) (by kernel_rfl) (by kernel_rfl) (fun _ _ _ h => h) (Yields.yieldsIf (Or.inl ⟨by rfl, fun w9 => by (go_simp; first | done | with_reducible rfl | (intro h9; exfalso; omega))⟩)) hS0 ?_
  change wpAnyH _ _ _ _ _ _ _ (Act.put _ (some 15) _) _; dsimp only [Act.put]; simp only [List.setIfInBounds_toArray, List.set_cons_succ, List.set_cons_zero]
  refine wpAnyH_ready (rs := [9]) (by kernel_rfl) (by simp) ?_
  refine AllReadyH.cons rfl (fun K hK => ?_) (fun j hj => by cases hj)
  go_simp
  have hS1 := hS0.alloc hS0.size (.cells zeroEnt.row 78)
  refine (Shut.out hK) _ _ hS1 (fun _ => ?_)
  clear hK K
  refine wpAnyH_ready (rs := [10]) (by kernel_rfl) (by simp) ?_
  refine AllReadyH.cons rfl (fun K hK => ?_) (fun j hj => by cases hj)
  refine step_storeRowG (Z := e.row) rfl (.tmp 5) (.tmp 14) 78 rfl (infoEnt_row _) (by first | rfl | simp [Act.eval, Act.put]) (by first | rfl | simp [Act.eval, Act.put]) (heap_push wr.drew zeroEnt.row 78) rfl (Ent.row_one _) ?_
  have hS2 := below_setRow (g := wr.heap.size) (cs := e.row) hS1 (Nat.le_refl _)
  refine (Shut.out hK) _ _ hS2 (fun _ => ?_)
  clear hK K
  refine wpAnyH_take (i := 11) (v := .bool r) rfl (by kernel_rfl) (by kernel_rfl) (by kernel_rfl) (fun _ _ _ h => h) (Yields.yieldsIf (Or.inl ⟨by rfl, fun w9 => by (go_simp; first | done | with_reducible rfl | (intro h9; exfalso; omega))⟩)) hS2 ?_
  change wpAnyH _ _ _ _ _ _ _ (Act.put _ (some 6) _) _; dsimp only [Act.put]; simp only [List.setIfInBounds_toArray, List.set_cons_succ, List.set_cons_zero]
  refine wpAnyH_done (by kernel_rfl) ?_ _
  go_upto_region 2 with fail
  refine wp_nameE _ (fun W hW => ?_)
  have hz6 : W.heap[wr.heap.size]? = some (.cells e.row 78 (0, 0)) := by rw [hW]; exact setRow_heap _ _ zeroEnt.row e.row _ _ (heap_push wr.drew zeroEnt.row 78)
  have hbW : Below wr.heap.size wr W := by rw [hW]; exact hS2
  have hq4 := cells_of hq1 hbW (row_lt hq1)
  have hbel := hb1.trans (hbW.mono hb1.size)
  have pk : W.cell? ⟨w.heap.size, 2, none⟩ = some (.bool k.ou) := cell_heap hq4 2
  have p11 : W.cell? ⟨wr.heap.size, 11, none⟩ = some (.bool e.wr) := cell_heap hz6 11
  have p12 : W.cell? ⟨wr.heap.size, 12, none⟩ = some (.bool e.ac) := cell_heap hz6 12
  have p13 : W.cell? ⟨wr.heap.size, 13, none⟩ = some (.bool e.ti) := cell_heap hz6 13
  clear hW hz6 hq4 hS0 hS1 hS2 hbW
  obtain ⟨x1, h1⟩ : ∃ q, k.ou = q := ⟨_, rfl⟩
  obtain ⟨x2, h2⟩ : ∃ q, e.wr = q := ⟨_, rfl⟩
  obtain ⟨x3, h3⟩ : ∃ q, e.ac = q := ⟨_, rfl⟩
  obtain ⟨x4, h4⟩ : ∃ q, e.ti = q := ⟨_, rfl⟩
  have HST : Hid (stgB r x1 x2 x3 x4 = s) := Lib.hid (by rw [← h1, ← h2, ← h3, ← h4, ← hr, ← he]; exact hs)
  rw [h1] at pk
  rw [h2] at p11
  rw [h3] at p12
  rw [h4] at p13
  clear h1 h2 h3 h4 hs
  cases r <;> cases x1 <;> cases x2 <;> cases x3 <;> cases x4
  all_goals (obtain rfl := HST.out; go_wp2; go_ret; exact ⟨by first | rfl | simp [stgB], hbel⟩)
end Go.Proofs.Ytbckncopdkmoeaa
