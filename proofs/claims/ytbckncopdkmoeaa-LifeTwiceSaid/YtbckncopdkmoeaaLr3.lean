/- ligref22.Table.Find. -/
import Derived.Test.YtbckncopdkmoeaaLr1
import Derived.Test.YtbckncopdkmoeaaLf14
import Derived.Deep.MidRow
import Derived.Deep.Cut
import Derived.BigRegion
import Derived.RegionTactic
import Derived.BigQuiet
import Derived.Deep.QuietTactic
import Derived.Deep.RegionLaw
import Derived.OneCell
import Derived.Laws.OwnMore
import Derived.Deep.RegionHeld
import Derived.LoopTactic
import Derived.BigFrame
import Derived.WalkKit
import Derived.ProofKit
import Derived.Handy
import Derived.Below
import Derived.Lib.Hide
import Derived.IntWalk
import Derived.Outline
import Derived.WalkLawsBesides
import Derived.WalkSpells
namespace Go.Proofs.Ytbckncopdkmoeaa
open Go.RowKit
attribute [local go_sem] strV
set_option linter.unusedVariables false
set_option linter.unusedSimpArgs false
/-- The place of a key; is it there? -/
def findI (ks : List Lk) (k : Lk) : Nat := (ks.takeWhile (fun y => lkLess y k)).length
open Classical in
noncomputable def findB (ks : List Lk) (k : Lk) : Bool := decide (ks[findI ks k]? = some k)
theorem findI_of {ks : List Lk} {k : Lk} {j : Nat} (h1 : ∀ y ∈ ks.take j, lkLess y k = true) (hj : j ≤ ks.length) (h2 : ∀ y, ks[j]? = some y → lkLess y k = false) : findI ks k = j := by
  unfold findI
  have h3 : ks.takeWhile (fun y => lkLess y k) = ks.take j := by
    conv => lhs; rw [← List.take_append_drop j ks]
    rw [List.takeWhile_append_of_pos (fun y hy => h1 y hy)]
    have h4 : (ks.drop j).takeWhile (fun y => lkLess y k) = [] := by
      cases hd : ks.drop j with
      | nil => rfl
      | cons y r =>
        have h5 : ks[j]? = some y := by
          have h6 : (ks.drop j)[0]? = some y := by rw [hd]; rfl
          rwa [List.getElem?_drop, Nat.add_zero] at h6
        rw [List.takeWhile_cons, h2 y h5]; rfl
    rw [h4, List.append_nil]
  rw [h3, List.length_take]; omega
theorem infoLk2R (k : Lk) : (Try.prog.info? 81).map (·.size) = some k.L.length := by
  rw [show k.L.length = 4 from rfl]; kernel_rfl
theorem exec_loadLk2 {o : Oper} {a : Act} {w : World} (x : Operand) (ho : o.op = .load 81 x) (b off : Nat) (hx : a.eval x = .pointer (some ⟨b, off, none⟩)) (k : Lk) (hz : w.rangeAt b off k.L) : (execOp a.eval o).run Try.prog w = .ok (.value (.agg k.row)) w := by
  have h1 := run_loadAt_mid (P := Try.prog) w b off 81 k.L _ hz Try.underlying81 rfl (infoLk2R k)
  simp [execOp, ho, hx, h1, Result.andThen]
  rfl
open Classical in
theorem exec_eqLk2 {o : Oper} {a : Act} {w : World} (i j : Nat) (ho : o.op = .binOp .eql 81 (.tmp i) (.tmp j) 81) (x y : Lk) (hx : a.eval (.tmp i) = .agg x.row) (hy : a.eval (.tmp j) = .agg y.row) : (execOp a.eval o).run Try.prog w = .ok (.value (.bool (decide (x = y)))) w := by
  obtain ⟨xp, xc, xu, xs⟩ := x
  obtain ⟨yp, yc, yu, ys⟩ := y
  simp only [execOp, ho]
  rw [hx, hy]
  by_cases h1 : xp = yp
  · subst h1
    by_cases h2 : xc = yc
    · subst h2
      by_cases h3 : xu = yu
      · subst h3
        by_cases h4 : xs = ys
        · subst h4; simp [Lk.row, go_sem, Result.andThen]
        · simp [Lk.row, go_sem, Result.andThen, h4]
      · simp [Lk.row, go_sem, Result.andThen, h3]
    · simp [Lk.row, go_sem, Result.andThen, h2]
  · have e1 : (xp.toList == yp.toList) = false := by rw [beq_eq_false_iff_ne]; exact fun e => h1 (ba_toList_inj e)
    simp [Lk.row, go_sem, Result.andThen, h1, e1]
theorem row_range4 {w : World} {g : Nat} {k : Lk} {t : TypeId} (h : w.heap[g]? = some (.cells k.row t (0, 0))) : w.rangeAt g 0 k.L := fun j v hv => by
  rw [Nat.zero_add, cell_heap h]; simpa [Lk.row, Lk.L] using hv
open Classical in
set_option maxRecDepth 100000 in
set_option maxHeartbeats 6400000 in
theorem refFind_any (d : Nat) (ak : Option Addr) (nk ck : Nat) (u v : Value) (ks : List Lk) (k : Lk) (w : World) (hd : w.heap[d]? = some (.cells #[.slice ak nk ck, u, v] 71 (0, 0))) (hr : RowAt w ak (ks.flatMap Lk.L)) (hn : ks.length = nk) (hm : nk ≤ 100000) :
    Calls Try.prog 64 #[.pointer (some ⟨d, 0, none⟩), .agg k.row] w fun e w' => e = .returned (.tuple #[.int .i64 (findI ks k : Int), .bool (findB ks k)]) ∧ Below w.heap.size w w' := by
  have HN := Lib.hid hn
  clear hn
  have hq0 := heap_push w k.row 81
  have hb0 : Below w.heap.size w (w.alloc (.cells k.row 81)) := (Below.refl _ _).alloc (Nat.le_refl _) _
  go_enter Try.func64, Try.ntmps64
  go_wp2
  refine wp_nameE _ (fun w1 hw1 => ?_)
  have hq1 : w1.heap[w.heap.size]? = some (.cells k.row 81 (0, 0)) := by rw [hw1]; exact hq0
  have hb1 : Below w.heap.size w w1 := by rw [hw1]; exact hb0
  clear hw1 hq0 hb0
  go_loopw [6] (fun i wr => ∃ j : Nat, j ≤ nk ∧ i = .int .i64 j ∧ Below w1.heap.size w1 wr ∧ (∀ y ∈ ks.take j, lkLess y k = true)) (fun i _ => nk - (intOf i).toNat)
  case atStart => exact ⟨0, Nat.zero_le _, rfl, Below.refl _ _, by simp⟩
  case round =>
    obtain ⟨j, hj, rfl, hb2, hall⟩ := hrel
    have hbw := hb1.trans (hb2.mono hb1.size)
    have hq := cells_of hq1 hb2 (row_lt hq1)
    have hd2 := cells_of hd hbw (row_lt hd)
    have hdl := row_lt hd2
    have hdc : wr.cell? ⟨d, 0, none⟩ = some (.slice ak nk ck) := cell_heap hd2 0
    by_cases hlt : j < nk
    rotate_left
    · obtain rfl : nk = j := by omega
      have d9 : decide ((nk : Int) < (nk : Int)) = false := decide_eq_false (by omega)
      have d9n : decide (nk < nk) = false := decide_eq_false (by omega)
      have hI := findI_of hall (by rw [HN.out]; exact Nat.le_refl _) (fun y hy => by rw [List.getElem?_eq_none (by rw [HN.out]; exact Nat.le_refl _)] at hy; cases hy)
      have hF : findB ks k = false := by unfold findB; rw [hI, List.getElem?_eq_none (by rw [HN.out]; exact Nat.le_refl _)]; simp
      have HI := Lib.hid hI
      have HF := Lib.hid hF
      clear hI hF
      go_upto_region 2 with fail
      refine wp_region_held_drew (S := fun W => Below wr.heap.size wr W) (by kernel_rfl) ((Below.refl _ _).drew) (fun hS0 => ?_)
      refine wpAnyH_take (i := 0) (v := .int .i64 (nk : Int)) rfl (by kernel_rfl) (by kernel_rfl) (by kernel_rfl) (fun _ _ _ h => h) (Yields.yieldsIf (Or.inl ⟨by rfl, fun w9 => by (go_simp; first | done | with_reducible rfl | (intro h9; exfalso; omega))⟩)) hS0 ?_
      change wpAnyH _ _ _ _ _ _ _ (Act.put _ (some 7) _) _; dsimp only [Act.put]; simp only [List.setIfInBounds_toArray, List.set_cons_succ, List.set_cons_zero]
      refine wpAnyH_take (i := 1) (v := .pointer (some ⟨d, 0, none⟩)) rfl (by kernel_rfl) (by kernel_rfl) (by kernel_rfl) (fun _ _ _ h => h) (Yields.yieldsIf (Or.inl ⟨by rfl, fun w9 => by (go_simp; first | done | with_reducible rfl | (intro h9; exfalso; omega))⟩)) hS0 ?_
      change wpAnyH _ _ _ _ _ _ _ (Act.put _ (some 8) _) _; dsimp only [Act.put]; simp only [List.setIfInBounds_toArray, List.set_cons_succ, List.set_cons_zero]
      refine wpAnyH_take (i := 2) (v := .pointer (some ⟨d, 0, none⟩)) rfl (by kernel_rfl) (by kernel_rfl) (by kernel_rfl) (fun _ _ _ h => h) (Yields.yieldsIf (Or.inl ⟨by rfl, fun w9 => by (go_simp; first | done | with_reducible rfl | (intro h9; exfalso; omega))⟩)) hS0 ?_
      change wpAnyH _ _ _ _ _ _ _ (Act.put _ (some 9) _) _; dsimp only [Act.put]; simp only [List.setIfInBounds_toArray, List.set_cons_succ, List.set_cons_zero]
      refine wpAnyH_take (i := 3) (v := .pointer (some ⟨d, 0, none⟩)) rfl (by kernel_rfl) (by kernel_rfl) (by kernel_rfl) (fun _ _ _ h => h) (Yields.yieldsIf (Or.inl ⟨by rfl, fun w9 => by (go_simp; first | done | with_reducible rfl | (intro h9; exfalso; omega))⟩)) hS0 ?_
      change wpAnyH _ _ _ _ _ _ _ (Act.put _ (some 10) _) _; dsimp only [Act.put]; simp only [List.setIfInBounds_toArray, List.set_cons_succ, List.set_cons_zero]
      refine wpAnyH_take (i := 4) (v := .slice ak nk ck) rfl (by kernel_rfl) (by kernel_rfl) (by kernel_rfl) (fun _ _ _ h => h) (Or.inl ⟨by rfl, fun w9 hS9 => by have hc9 := (hS9.cell hdl).trans hdc; go_simp; try with_reducible rfl⟩) hS0 ?_
      change wpAnyH _ _ _ _ _ _ _ (Act.put _ (some 11) _) _; dsimp only [Act.put]; simp only [List.setIfInBounds_toArray, List.set_cons_succ, List.set_cons_zero]
      refine wpAnyH_take (i := 5) (v := .int .i64 (nk : Int)) rfl (by kernel_rfl) (by kernel_rfl) (by kernel_rfl) (fun _ _ _ h => h) (Yields.yieldsIf (Or.inl ⟨by rfl, fun w9 => by (go_simp; first | done | with_reducible rfl | (intro h9; exfalso; omega))⟩)) hS0 ?_
      change wpAnyH _ _ _ _ _ _ _ (Act.put _ (some 12) _) _; dsimp only [Act.put]; simp only [List.setIfInBounds_toArray, List.set_cons_succ, List.set_cons_zero]
      refine wpAnyH_take (i := 6) (v := .bool false) rfl (by kernel_rfl) (by kernel_rfl) (by kernel_rfl) (fun _ _ _ h => h) (Yields.yieldsIf (Or.inl ⟨by rfl, fun w9 => by (go_simp; first | done | with_reducible rfl | (intro h9; exfalso; omega))⟩)) hS0 ?_
      change wpAnyH _ _ _ _ _ _ _ (Act.put _ (some 13) _) _; dsimp only [Act.put]; simp only [List.setIfInBounds_toArray, List.set_cons_succ, List.set_cons_zero]
      refine wpAnyH_take (i := 7) (v := .bool false) rfl (by kernel_rfl) (by kernel_rfl) (by kernel_rfl) (fun _ _ _ h => h) (Yields.yieldsIf (Or.inl ⟨by rfl, fun w9 => by (go_simp; first | done | with_reducible rfl | (intro h9; exfalso; omega))⟩)) hS0 ?_
      change wpAnyH _ _ _ _ _ _ _ (Act.put _ (some 14) _) _; dsimp only [Act.put]; simp only [List.setIfInBounds_toArray, List.set_cons_succ, List.set_cons_zero]
      refine wpAnyH_take (i := 8) (v := undef) rfl (by kernel_rfl) (by kernel_rfl) (by kernel_rfl) (fun _ _ _ h => h) (Or.inr ⟨by rfl, rfl⟩) hS0 ?_
      change wpAnyH _ _ _ _ _ _ _ (Act.put _ (some 15) _) _; dsimp only [Act.put]; simp only [List.setIfInBounds_toArray, List.set_cons_succ, List.set_cons_zero]
      refine wpAnyH_take (i := 9) (v := undef) rfl (by kernel_rfl) (by kernel_rfl) (by kernel_rfl) (fun _ _ _ h => h) (Or.inr ⟨by rfl, rfl⟩) hS0 ?_
      change wpAnyH _ _ _ _ _ _ _ (Act.put _ (some 16) _) _; dsimp only [Act.put]; simp only [List.setIfInBounds_toArray, List.set_cons_succ, List.set_cons_zero]
      refine wpAnyH_take (i := 10) (v := undef) rfl (by kernel_rfl) (by kernel_rfl) (by kernel_rfl) (fun _ _ _ h => h) (Or.inr ⟨by rfl, rfl⟩) hS0 ?_
      change wpAnyH _ _ _ _ _ _ _ (Act.put _ (some 17) _) _; dsimp only [Act.put]; simp only [List.setIfInBounds_toArray, List.set_cons_succ, List.set_cons_zero]
      refine wpAnyH_take (i := 11) (v := undef) rfl (by kernel_rfl) (by kernel_rfl) (by kernel_rfl) (fun _ _ _ h => h) (Or.inr ⟨by rfl, rfl⟩) hS0 ?_
      change wpAnyH _ _ _ _ _ _ _ (Act.put _ (some 18) _) _; dsimp only [Act.put]; simp only [List.setIfInBounds_toArray, List.set_cons_succ, List.set_cons_zero]
      refine wpAnyH_take (i := 12) (v := undef) rfl (by kernel_rfl) (by kernel_rfl) (by kernel_rfl) (fun _ _ _ h => h) (Or.inr ⟨by rfl, rfl⟩) hS0 ?_
      change wpAnyH _ _ _ _ _ _ _ (Act.put _ (some 19) _) _; dsimp only [Act.put]; simp only [List.setIfInBounds_toArray, List.set_cons_succ, List.set_cons_zero]
      refine wpAnyH_take (i := 13) (v := undef) rfl (by kernel_rfl) (by kernel_rfl) (by kernel_rfl) (fun _ _ _ h => h) (Or.inr ⟨by rfl, rfl⟩) hS0 ?_
      change wpAnyH _ _ _ _ _ _ _ (Act.put _ (some 20) _) _; dsimp only [Act.put]; simp only [List.setIfInBounds_toArray, List.set_cons_succ, List.set_cons_zero]
      refine wpAnyH_take (i := 14) (v := undef) rfl (by kernel_rfl) (by kernel_rfl) (by kernel_rfl) (fun _ _ _ h => h) (Or.inr ⟨by rfl, rfl⟩) hS0 ?_
      change wpAnyH _ _ _ _ _ _ _ (Act.put _ (some 21) _) _; dsimp only [Act.put]; simp only [List.setIfInBounds_toArray, List.set_cons_succ, List.set_cons_zero]
      refine wpAnyH_take (i := 15) (v := undef) rfl (by kernel_rfl) (by kernel_rfl) (by kernel_rfl) (fun _ _ _ h => h) (Or.inr ⟨by rfl, rfl⟩) hS0 ?_
      change wpAnyH _ _ _ _ _ _ _ (Act.put _ (some 22) _) _; dsimp only [Act.put]; simp only [List.setIfInBounds_toArray, List.set_cons_succ, List.set_cons_zero]
      refine wpAnyH_take (i := 16) (v := undef) rfl (by kernel_rfl) (by kernel_rfl) (by kernel_rfl) (fun _ _ _ h => h) (Or.inr ⟨by rfl, rfl⟩) hS0 ?_
      change wpAnyH _ _ _ _ _ _ _ (Act.put _ (some 23) _) _; dsimp only [Act.put]; simp only [List.setIfInBounds_toArray, List.set_cons_succ, List.set_cons_zero]
      refine wpAnyH_take (i := 17) (v := .bool false) rfl (by kernel_rfl) (by kernel_rfl) (by kernel_rfl) (fun _ _ _ h => h) (Yields.yieldsIf (Or.inl ⟨by rfl, fun w9 => by (go_simp; first | done | with_reducible rfl | (intro h9; exfalso; omega))⟩)) hS0 ?_
      change wpAnyH _ _ _ _ _ _ _ (Act.put _ (some 24) _) _; dsimp only [Act.put]; simp only [List.setIfInBounds_toArray, List.set_cons_succ, List.set_cons_zero]
      refine wpAnyH_done (by kernel_rfl) ?_ _
      go_upto_region 4 with fail
      refine wp_nameE _ (fun X hX => ?_)
      have hbX : Below wr.heap.size wr X := by rw [hX]; exact hS0
      clear hX hS0
      have hdX := cells_of hd2 hbX (row_lt hd2)
      have hdlX := row_lt hdX
      have hdcX : X.cell? ⟨d, 0, none⟩ = some (.slice ak nk ck) := cell_heap hdX 0
      refine wp_region_held_drew (S := fun W => Below X.heap.size X W) (by kernel_rfl) ((Below.refl _ _).drew) (fun hS0 => ?_)
      refine wpAnyH_take (i := 0) (v := .int .i64 (nk : Int)) rfl (by kernel_rfl) (by kernel_rfl) (by kernel_rfl) (fun _ _ _ h => h) (Yields.yieldsIf (Or.inl ⟨by rfl, fun w9 => by (go_simp; first | done | with_reducible rfl | (intro h9; exfalso; omega))⟩)) hS0 ?_
      change wpAnyH _ _ _ _ _ _ _ (Act.put _ (some 27) _) _; dsimp only [Act.put]; simp only [List.setIfInBounds_toArray, List.set_cons_succ, List.set_cons_zero]
      refine wpAnyH_take (i := 1) (v := .int .i64 (nk : Int)) rfl (by kernel_rfl) (by kernel_rfl) (by kernel_rfl) (fun _ _ _ h => h) (Yields.yieldsIf (Or.inl ⟨by rfl, fun w9 => by (go_simp; first | done | with_reducible rfl | (intro h9; exfalso; omega))⟩)) hS0 ?_
      change wpAnyH _ _ _ _ _ _ _ (Act.put _ (some 28) _) _; dsimp only [Act.put]; simp only [List.setIfInBounds_toArray, List.set_cons_succ, List.set_cons_zero]
      refine wpAnyH_take (i := 2) (v := .pointer (some ⟨d, 0, none⟩)) rfl (by kernel_rfl) (by kernel_rfl) (by kernel_rfl) (fun _ _ _ h => h) (Yields.yieldsIf (Or.inl ⟨by rfl, fun w9 => by (go_simp; first | done | with_reducible rfl | (intro h9; exfalso; omega))⟩)) hS0 ?_
      change wpAnyH _ _ _ _ _ _ _ (Act.put _ (some 29) _) _; dsimp only [Act.put]; simp only [List.setIfInBounds_toArray, List.set_cons_succ, List.set_cons_zero]
      refine wpAnyH_take (i := 3) (v := .pointer (some ⟨d, 0, none⟩)) rfl (by kernel_rfl) (by kernel_rfl) (by kernel_rfl) (fun _ _ _ h => h) (Yields.yieldsIf (Or.inl ⟨by rfl, fun w9 => by (go_simp; first | done | with_reducible rfl | (intro h9; exfalso; omega))⟩)) hS0 ?_
      change wpAnyH _ _ _ _ _ _ _ (Act.put _ (some 30) _) _; dsimp only [Act.put]; simp only [List.setIfInBounds_toArray, List.set_cons_succ, List.set_cons_zero]
      refine wpAnyH_take (i := 4) (v := .pointer (some ⟨d, 0, none⟩)) rfl (by kernel_rfl) (by kernel_rfl) (by kernel_rfl) (fun _ _ _ h => h) (Yields.yieldsIf (Or.inl ⟨by rfl, fun w9 => by (go_simp; first | done | with_reducible rfl | (intro h9; exfalso; omega))⟩)) hS0 ?_
      change wpAnyH _ _ _ _ _ _ _ (Act.put _ (some 31) _) _; dsimp only [Act.put]; simp only [List.setIfInBounds_toArray, List.set_cons_succ, List.set_cons_zero]
      refine wpAnyH_take (i := 5) (v := .slice ak nk ck) rfl (by kernel_rfl) (by kernel_rfl) (by kernel_rfl) (fun _ _ _ h => h) (Or.inl ⟨by rfl, fun w9 hS9 => by have hc9 := (hS9.cell hdlX).trans hdcX; go_simp; try with_reducible rfl⟩) hS0 ?_
      change wpAnyH _ _ _ _ _ _ _ (Act.put _ (some 32) _) _; dsimp only [Act.put]; simp only [List.setIfInBounds_toArray, List.set_cons_succ, List.set_cons_zero]
      refine wpAnyH_take (i := 6) (v := .int .i64 (nk : Int)) rfl (by kernel_rfl) (by kernel_rfl) (by kernel_rfl) (fun _ _ _ h => h) (Yields.yieldsIf (Or.inl ⟨by rfl, fun w9 => by (go_simp; first | done | with_reducible rfl | (intro h9; exfalso; omega))⟩)) hS0 ?_
      change wpAnyH _ _ _ _ _ _ _ (Act.put _ (some 33) _) _; dsimp only [Act.put]; simp only [List.setIfInBounds_toArray, List.set_cons_succ, List.set_cons_zero]
      refine wpAnyH_take (i := 7) (v := .bool false) rfl (by kernel_rfl) (by kernel_rfl) (by kernel_rfl) (fun _ _ _ h => h) (Yields.yieldsIf (Or.inl ⟨by rfl, fun w9 => by (go_simp; first | done | with_reducible rfl | (intro h9; exfalso; omega))⟩)) hS0 ?_
      change wpAnyH _ _ _ _ _ _ _ (Act.put _ (some 34) _) _; dsimp only [Act.put]; simp only [List.setIfInBounds_toArray, List.set_cons_succ, List.set_cons_zero]
      refine wpAnyH_take (i := 8) (v := .bool false) rfl (by kernel_rfl) (by kernel_rfl) (by kernel_rfl) (fun _ _ _ h => h) (Yields.yieldsIf (Or.inl ⟨by rfl, fun w9 => by (go_simp; first | done | with_reducible rfl | (intro h9; exfalso; omega))⟩)) hS0 ?_
      change wpAnyH _ _ _ _ _ _ _ (Act.put _ (some 35) _) _; dsimp only [Act.put]; simp only [List.setIfInBounds_toArray, List.set_cons_succ, List.set_cons_zero]
      refine wpAnyH_take (i := 9) (v := undef) rfl (by kernel_rfl) (by kernel_rfl) (by kernel_rfl) (fun _ _ _ h => h) (Or.inr ⟨by rfl, rfl⟩) hS0 ?_
      change wpAnyH _ _ _ _ _ _ _ (Act.put _ (some 36) _) _; dsimp only [Act.put]; simp only [List.setIfInBounds_toArray, List.set_cons_succ, List.set_cons_zero]
      refine wpAnyH_take (i := 10) (v := undef) rfl (by kernel_rfl) (by kernel_rfl) (by kernel_rfl) (fun _ _ _ h => h) (Or.inr ⟨by rfl, rfl⟩) hS0 ?_
      change wpAnyH _ _ _ _ _ _ _ (Act.put _ (some 37) _) _; dsimp only [Act.put]; simp only [List.setIfInBounds_toArray, List.set_cons_succ, List.set_cons_zero]
      refine wpAnyH_take (i := 11) (v := undef) rfl (by kernel_rfl) (by kernel_rfl) (by kernel_rfl) (fun _ _ _ h => h) (Or.inr ⟨by rfl, rfl⟩) hS0 ?_
      change wpAnyH _ _ _ _ _ _ _ (Act.put _ (some 38) _) _; dsimp only [Act.put]; simp only [List.setIfInBounds_toArray, List.set_cons_succ, List.set_cons_zero]
      refine wpAnyH_take (i := 12) (v := undef) rfl (by kernel_rfl) (by kernel_rfl) (by kernel_rfl) (fun _ _ _ h => h) (Or.inr ⟨by rfl, rfl⟩) hS0 ?_
      change wpAnyH _ _ _ _ _ _ _ (Act.put _ (some 39) _) _; dsimp only [Act.put]; simp only [List.setIfInBounds_toArray, List.set_cons_succ, List.set_cons_zero]
      refine wpAnyH_take (i := 13) (v := undef) rfl (by kernel_rfl) (by kernel_rfl) (by kernel_rfl) (fun _ _ _ h => h) (Or.inr ⟨by rfl, rfl⟩) hS0 ?_
      change wpAnyH _ _ _ _ _ _ _ (Act.put _ (some 40) _) _; dsimp only [Act.put]; simp only [List.setIfInBounds_toArray, List.set_cons_succ, List.set_cons_zero]
      refine wpAnyH_take (i := 14) (v := undef) rfl (by kernel_rfl) (by kernel_rfl) (by kernel_rfl) (fun _ _ _ h => h) (Or.inr ⟨by rfl, rfl⟩) hS0 ?_
      change wpAnyH _ _ _ _ _ _ _ (Act.put _ (some 41) _) _; dsimp only [Act.put]; simp only [List.setIfInBounds_toArray, List.set_cons_succ, List.set_cons_zero]
      refine wpAnyH_take (i := 15) (v := undef) rfl (by kernel_rfl) (by kernel_rfl) (by kernel_rfl) (fun _ _ _ h => h) (Or.inr ⟨by rfl, rfl⟩) hS0 ?_
      change wpAnyH _ _ _ _ _ _ _ (Act.put _ (some 42) _) _; dsimp only [Act.put]; simp only [List.setIfInBounds_toArray, List.set_cons_succ, List.set_cons_zero]
      refine wpAnyH_take (i := 16) (v := undef) rfl (by kernel_rfl) (by kernel_rfl) (by kernel_rfl) (fun _ _ _ h => h) (Or.inr ⟨by rfl, rfl⟩) hS0 ?_
      change wpAnyH _ _ _ _ _ _ _ (Act.put _ (some 43) _) _; dsimp only [Act.put]; simp only [List.setIfInBounds_toArray, List.set_cons_succ, List.set_cons_zero]
      refine wpAnyH_take (i := 17) (v := undef) rfl (by kernel_rfl) (by kernel_rfl) (by kernel_rfl) (fun _ _ _ h => h) (Or.inr ⟨by rfl, rfl⟩) hS0 ?_
      change wpAnyH _ _ _ _ _ _ _ (Act.put _ (some 44) _) _; dsimp only [Act.put]; simp only [List.setIfInBounds_toArray, List.set_cons_succ, List.set_cons_zero]
      refine wpAnyH_take (i := 18) (v := .bool false) rfl (by kernel_rfl) (by kernel_rfl) (by kernel_rfl) (fun _ _ _ h => h) (Yields.yieldsIf (Or.inl ⟨by rfl, fun w9 => by (go_simp; first | done | with_reducible rfl | (intro h9; exfalso; omega))⟩)) hS0 ?_
      change wpAnyH _ _ _ _ _ _ _ (Act.put _ (some 45) _) _; dsimp only [Act.put]; simp only [List.setIfInBounds_toArray, List.set_cons_succ, List.set_cons_zero]
      refine wpAnyH_take (i := 19) (v := .int .i64 (nk : Int)) rfl (by kernel_rfl) (by kernel_rfl) (by kernel_rfl) (fun _ _ _ h => h) (Yields.yieldsIf (Or.inl ⟨by rfl, fun w9 => by (go_simp; first | done | with_reducible rfl | (intro h9; exfalso; omega))⟩)) hS0 ?_
      change wpAnyH _ _ _ _ _ _ _ (Act.put _ (some 4) _) _; dsimp only [Act.put]; simp only [List.setIfInBounds_toArray, List.set_cons_succ, List.set_cons_zero]
      refine wpAnyH_take (i := 20) (v := .bool false) rfl (by kernel_rfl) (by kernel_rfl) (by kernel_rfl) (fun _ _ _ h => h) (Yields.yieldsIf (Or.inl ⟨by rfl, fun w9 => by (go_simp; first | done | with_reducible rfl | (intro h9; exfalso; omega))⟩)) hS0 ?_
      change wpAnyH _ _ _ _ _ _ _ (Act.put _ (some 5) _) _; dsimp only [Act.put]; simp only [List.setIfInBounds_toArray, List.set_cons_succ, List.set_cons_zero]
      refine wpAnyH_done (by kernel_rfl) ?_ _
      go_wp2
      go_returns
      exact ⟨by rw [HI.out, HF.out]; first | done | rfl, (hbw.trans (hbX.mono hbw.size)).trans (hS0.mono (hbw.trans (hbX.mono hbw.size)).size)⟩
    have hkl : j < ks.length := by rw [HN.out]; exact hlt
    obtain ⟨b3, off3, rfl, hbx3, hrg3⟩ := lk_range (hr.below hbw) hkl
    have HE := Lib.hid (List.take_succ_eq_append_getElem hkl)
    have HG := Lib.hid (List.getElem?_eq_getElem hkl)
    obtain ⟨y, hy⟩ : ∃ y, ks[j] = y := ⟨_, rfl⟩
    rw [hy] at hrg3 HE HG
    clear hy
    have d9 : decide ((j : Int) < (nk : Int)) = true := decide_eq_true (by omega)
    have d9n : decide (j < nk) = true := decide_eq_true hlt
    have n0 : (0 : Int) ≤ (j : Int) := by omega
    have n1 : (j : Int) < (nk : Int) := by omega
    have n2' : ((j : Nat) : Int).toNat = j := by omega
    have CLs := fun W => refLessKey_any y k W
    obtain ⟨r, hr9⟩ : ∃ r, lkLess y k = r := ⟨_, rfl⟩
    rw [hr9] at CLs
    have HL := Lib.hid hr9
    clear hr9
    go_upto_region 2 with fail
    refine wp_region_held_drew (S := fun W => Below wr.heap.size wr W) (by kernel_rfl) ((Below.refl _ _).drew) (fun hS0 => ?_)
    refine wpAnyH_take (i := 0) (v := .int .i64 (j : Int)) rfl (by kernel_rfl) (by kernel_rfl) (by kernel_rfl) (fun _ _ _ h => h) (Yields.yieldsIf (Or.inl ⟨by rfl, fun w9 => by (go_simp; first | done | with_reducible rfl | (intro h9; exfalso; omega))⟩)) hS0 ?_
    change wpAnyH _ _ _ _ _ _ _ (Act.put _ (some 7) _) _; dsimp only [Act.put]; simp only [List.setIfInBounds_toArray, List.set_cons_succ, List.set_cons_zero]
    refine wpAnyH_take (i := 1) (v := .pointer (some ⟨d, 0, none⟩)) rfl (by kernel_rfl) (by kernel_rfl) (by kernel_rfl) (fun _ _ _ h => h) (Yields.yieldsIf (Or.inl ⟨by rfl, fun w9 => by (go_simp; first | done | with_reducible rfl | (intro h9; exfalso; omega))⟩)) hS0 ?_
    change wpAnyH _ _ _ _ _ _ _ (Act.put _ (some 8) _) _; dsimp only [Act.put]; simp only [List.setIfInBounds_toArray, List.set_cons_succ, List.set_cons_zero]
    refine wpAnyH_take (i := 2) (v := .pointer (some ⟨d, 0, none⟩)) rfl (by kernel_rfl) (by kernel_rfl) (by kernel_rfl) (fun _ _ _ h => h) (Yields.yieldsIf (Or.inl ⟨by rfl, fun w9 => by (go_simp; first | done | with_reducible rfl | (intro h9; exfalso; omega))⟩)) hS0 ?_
    change wpAnyH _ _ _ _ _ _ _ (Act.put _ (some 9) _) _; dsimp only [Act.put]; simp only [List.setIfInBounds_toArray, List.set_cons_succ, List.set_cons_zero]
    refine wpAnyH_take (i := 3) (v := .pointer (some ⟨d, 0, none⟩)) rfl (by kernel_rfl) (by kernel_rfl) (by kernel_rfl) (fun _ _ _ h => h) (Yields.yieldsIf (Or.inl ⟨by rfl, fun w9 => by (go_simp; first | done | with_reducible rfl | (intro h9; exfalso; omega))⟩)) hS0 ?_
    change wpAnyH _ _ _ _ _ _ _ (Act.put _ (some 10) _) _; dsimp only [Act.put]; simp only [List.setIfInBounds_toArray, List.set_cons_succ, List.set_cons_zero]
    refine wpAnyH_take (i := 4) (v := .slice (some ⟨b3, off3, none⟩) nk ck) rfl (by kernel_rfl) (by kernel_rfl) (by kernel_rfl) (fun _ _ _ h => h) (Or.inl ⟨by rfl, fun w9 hS9 => by have hc9 := (hS9.cell hdl).trans hdc; go_simp; try with_reducible rfl⟩) hS0 ?_
    change wpAnyH _ _ _ _ _ _ _ (Act.put _ (some 11) _) _; dsimp only [Act.put]; simp only [List.setIfInBounds_toArray, List.set_cons_succ, List.set_cons_zero]
    refine wpAnyH_take (i := 5) (v := .int .i64 (nk : Int)) rfl (by kernel_rfl) (by kernel_rfl) (by kernel_rfl) (fun _ _ _ h => h) (Yields.yieldsIf (Or.inl ⟨by rfl, fun w9 => by (go_simp; first | done | with_reducible rfl | (intro h9; exfalso; omega))⟩)) hS0 ?_
    change wpAnyH _ _ _ _ _ _ _ (Act.put _ (some 12) _) _; dsimp only [Act.put]; simp only [List.setIfInBounds_toArray, List.set_cons_succ, List.set_cons_zero]
    refine wpAnyH_take (i := 6) (v := .bool true) rfl (by kernel_rfl) (by kernel_rfl) (by kernel_rfl) (fun _ _ _ h => h) (Yields.yieldsIf (Or.inl ⟨by rfl, fun w9 => by (go_simp; first | done | with_reducible rfl | (intro h9; exfalso; omega))⟩)) hS0 ?_
    change wpAnyH _ _ _ _ _ _ _ (Act.put _ (some 13) _) _; dsimp only [Act.put]; simp only [List.setIfInBounds_toArray, List.set_cons_succ, List.set_cons_zero]
    refine wpAnyH_take (i := 7) (v := .bool true) rfl (by kernel_rfl) (by kernel_rfl) (by kernel_rfl) (fun _ _ _ h => h) (Yields.yieldsIf (Or.inl ⟨by rfl, fun w9 => by (go_simp; first | done | with_reducible rfl | (intro h9; exfalso; omega))⟩)) hS0 ?_
    change wpAnyH _ _ _ _ _ _ _ (Act.put _ (some 14) _) _; dsimp only [Act.put]; simp only [List.setIfInBounds_toArray, List.set_cons_succ, List.set_cons_zero]
    refine wpAnyH_take (i := 8) (v := .pointer (some ⟨d, 0, none⟩)) rfl (by kernel_rfl) (by kernel_rfl) (by kernel_rfl) (fun _ _ _ h => h) (Yields.yieldsIf (Or.inl ⟨by rfl, fun w9 => by (go_simp; first | done | with_reducible rfl | (intro h9; exfalso; omega))⟩)) hS0 ?_
    change wpAnyH _ _ _ _ _ _ _ (Act.put _ (some 15) _) _; dsimp only [Act.put]; simp only [List.setIfInBounds_toArray, List.set_cons_succ, List.set_cons_zero]
    refine wpAnyH_take (i := 9) (v := .pointer (some ⟨d, 0, none⟩)) rfl (by kernel_rfl) (by kernel_rfl) (by kernel_rfl) (fun _ _ _ h => h) (Yields.yieldsIf (Or.inl ⟨by rfl, fun w9 => by (go_simp; first | done | with_reducible rfl | (intro h9; exfalso; omega))⟩)) hS0 ?_
    change wpAnyH _ _ _ _ _ _ _ (Act.put _ (some 16) _) _; dsimp only [Act.put]; simp only [List.setIfInBounds_toArray, List.set_cons_succ, List.set_cons_zero]
    refine wpAnyH_take (i := 10) (v := .pointer (some ⟨d, 0, none⟩)) rfl (by kernel_rfl) (by kernel_rfl) (by kernel_rfl) (fun _ _ _ h => h) (Yields.yieldsIf (Or.inl ⟨by rfl, fun w9 => by (go_simp; first | done | with_reducible rfl | (intro h9; exfalso; omega))⟩)) hS0 ?_
    change wpAnyH _ _ _ _ _ _ _ (Act.put _ (some 17) _) _; dsimp only [Act.put]; simp only [List.setIfInBounds_toArray, List.set_cons_succ, List.set_cons_zero]
    refine wpAnyH_take (i := 11) (v := .slice (some ⟨b3, off3, none⟩) nk ck) rfl (by kernel_rfl) (by kernel_rfl) (by kernel_rfl) (fun _ _ _ h => h) (Or.inl ⟨by rfl, fun w9 hS9 => by have hc9 := (hS9.cell hdl).trans hdc; go_simp; try with_reducible rfl⟩) hS0 ?_
    change wpAnyH _ _ _ _ _ _ _ (Act.put _ (some 18) _) _; dsimp only [Act.put]; simp only [List.setIfInBounds_toArray, List.set_cons_succ, List.set_cons_zero]
    refine wpAnyH_take (i := 12) (v := .int .i64 (j : Int)) rfl (by kernel_rfl) (by kernel_rfl) (by kernel_rfl) (fun _ _ _ h => h) (Yields.yieldsIf (Or.inl ⟨by rfl, fun w9 => by (go_simp; first | done | with_reducible rfl | (intro h9; exfalso; omega))⟩)) hS0 ?_
    change wpAnyH _ _ _ _ _ _ _ (Act.put _ (some 19) _) _; dsimp only [Act.put]; simp only [List.setIfInBounds_toArray, List.set_cons_succ, List.set_cons_zero]
    refine wpAnyH_take (i := 13) (v := .pointer (some ⟨b3, off3 + j * 4, none⟩)) rfl (by kernel_rfl) (by kernel_rfl) (by kernel_rfl) (fun _ _ _ h => h) (Yields.yieldsIf (Or.inl ⟨by rfl, fun w9 => by (go_simp; first | done | with_reducible rfl | (intro h9; exfalso; omega))⟩)) hS0 ?_
    change wpAnyH _ _ _ _ _ _ _ (Act.put _ (some 20) _) _; dsimp only [Act.put]; simp only [List.setIfInBounds_toArray, List.set_cons_succ, List.set_cons_zero]
    refine wpAnyH_take (i := 14) (v := .agg y.row) rfl (by kernel_rfl) (by kernel_rfl) (by kernel_rfl) (fun _ _ _ h => h) (Or.inl ⟨by rfl, fun w9 hS9 => exec_loadLk2 (.tmp 20) rfl b3 (off3 + j * 4) (by first | rfl | simp [Act.eval, Act.put]) y (range_belowS hrg3 hS9 hbx3)⟩) hS0 ?_
    change wpAnyH _ _ _ _ _ _ _ (Act.put _ (some 21) _) _; dsimp only [Act.put]; simp only [List.setIfInBounds_toArray, List.set_cons_succ, List.set_cons_zero]
    refine wpAnyH_take (i := 15) (v := .agg k.row) rfl (by kernel_rfl) (by kernel_rfl) (by kernel_rfl) (fun _ _ _ h => h) (Or.inl ⟨by rfl, fun w9 hS9 => exec_loadLk2 (.tmp 3) rfl w.heap.size 0 (by first | rfl | simp [Act.eval, Act.put]) k (range_belowS (row_range4 hq) hS9 (row_lt hq))⟩) hS0 ?_
    change wpAnyH _ _ _ _ _ _ _ (Act.put _ (some 22) _) _; dsimp only [Act.put]; simp only [List.setIfInBounds_toArray, List.set_cons_succ, List.set_cons_zero]
    refine wpAnyH_ready (rs := [16]) (by kernel_rfl) (by simp) ?_
    refine AllReadyH.cons rfl (fun K hK => ?_) (fun j hj => by cases hj)
    go_simp
    refine (CLs _).mono ?_
    rintro e w8 ⟨rfl, hb8⟩
    have hS1 := hS0.trans (hb8.mono hS0.size)
    refine (Shut.out hK) _ _ hS1 (fun _ => ?_)
    clear hK K
    refine wpAnyH_take (i := 17) (v := .bool r) rfl (by kernel_rfl) (by kernel_rfl) (by kernel_rfl) (fun _ _ _ h => h) (Yields.yieldsIf (Or.inl ⟨by rfl, fun w9 => by (go_simp; first | done | with_reducible rfl | (intro h9; exfalso; omega))⟩)) hS1 ?_
    change wpAnyH _ _ _ _ _ _ _ (Act.put _ (some 24) _) _; dsimp only [Act.put]; simp only [List.setIfInBounds_toArray, List.set_cons_succ, List.set_cons_zero]
    refine wpAnyH_done (by kernel_rfl) ?_ _
    cases r
    · have hI := findI_of hall (by rw [HN.out]; exact hj) (fun z hz => by rw [HG.out] at hz; cases hz; exact HL.out)
      obtain ⟨q, hq9⟩ : ∃ q, decide (y = k) = q := ⟨_, rfl⟩
      have hF : findB ks k = q := by unfold findB; rw [hI, HG.out, ← hq9]; simp
      have HQ := Lib.hid hq9
      have HI := Lib.hid hI
      have HF := Lib.hid hF
      clear hI hF hq9
      go_upto_region 4 with fail
      refine wp_nameE _ (fun X hX => ?_)
      have hbX : Below wr.heap.size wr X := by rw [hX]; exact hS1
      clear hX hS0 hS1
      have hdX := cells_of hd2 hbX (row_lt hd2)
      have hdlX := row_lt hdX
      have hdcX : X.cell? ⟨d, 0, none⟩ = some (.slice (some ⟨b3, off3, none⟩) nk ck) := cell_heap hdX 0
      have hqX := cells_of hq hbX (row_lt hq)
      have hrgX := range_belowS hrg3 hbX hbx3
      have hbxX := Nat.lt_of_lt_of_le hbx3 hbX.size
      refine wp_region_held_drew (S := fun W => Below X.heap.size X W) (by kernel_rfl) ((Below.refl _ _).drew) (fun hS0 => ?_)
      refine wpAnyH_take (i := 0) (v := .int .i64 (j : Int)) rfl (by kernel_rfl) (by kernel_rfl) (by kernel_rfl) (fun _ _ _ h => h) (Yields.yieldsIf (Or.inl ⟨by rfl, fun w9 => by (go_simp; first | done | with_reducible rfl | (intro h9; exfalso; omega))⟩)) hS0 ?_
      change wpAnyH _ _ _ _ _ _ _ (Act.put _ (some 27) _) _; dsimp only [Act.put]; simp only [List.setIfInBounds_toArray, List.set_cons_succ, List.set_cons_zero]
      refine wpAnyH_take (i := 1) (v := .int .i64 (j : Int)) rfl (by kernel_rfl) (by kernel_rfl) (by kernel_rfl) (fun _ _ _ h => h) (Yields.yieldsIf (Or.inl ⟨by rfl, fun w9 => by (go_simp; first | done | with_reducible rfl | (intro h9; exfalso; omega))⟩)) hS0 ?_
      change wpAnyH _ _ _ _ _ _ _ (Act.put _ (some 28) _) _; dsimp only [Act.put]; simp only [List.setIfInBounds_toArray, List.set_cons_succ, List.set_cons_zero]
      refine wpAnyH_take (i := 2) (v := .pointer (some ⟨d, 0, none⟩)) rfl (by kernel_rfl) (by kernel_rfl) (by kernel_rfl) (fun _ _ _ h => h) (Yields.yieldsIf (Or.inl ⟨by rfl, fun w9 => by (go_simp; first | done | with_reducible rfl | (intro h9; exfalso; omega))⟩)) hS0 ?_
      change wpAnyH _ _ _ _ _ _ _ (Act.put _ (some 29) _) _; dsimp only [Act.put]; simp only [List.setIfInBounds_toArray, List.set_cons_succ, List.set_cons_zero]
      refine wpAnyH_take (i := 3) (v := .pointer (some ⟨d, 0, none⟩)) rfl (by kernel_rfl) (by kernel_rfl) (by kernel_rfl) (fun _ _ _ h => h) (Yields.yieldsIf (Or.inl ⟨by rfl, fun w9 => by (go_simp; first | done | with_reducible rfl | (intro h9; exfalso; omega))⟩)) hS0 ?_
      change wpAnyH _ _ _ _ _ _ _ (Act.put _ (some 30) _) _; dsimp only [Act.put]; simp only [List.setIfInBounds_toArray, List.set_cons_succ, List.set_cons_zero]
      refine wpAnyH_take (i := 4) (v := .pointer (some ⟨d, 0, none⟩)) rfl (by kernel_rfl) (by kernel_rfl) (by kernel_rfl) (fun _ _ _ h => h) (Yields.yieldsIf (Or.inl ⟨by rfl, fun w9 => by (go_simp; first | done | with_reducible rfl | (intro h9; exfalso; omega))⟩)) hS0 ?_
      change wpAnyH _ _ _ _ _ _ _ (Act.put _ (some 31) _) _; dsimp only [Act.put]; simp only [List.setIfInBounds_toArray, List.set_cons_succ, List.set_cons_zero]
      refine wpAnyH_take (i := 5) (v := .slice (some ⟨b3, off3, none⟩) nk ck) rfl (by kernel_rfl) (by kernel_rfl) (by kernel_rfl) (fun _ _ _ h => h) (Or.inl ⟨by rfl, fun w9 hS9 => by have hc9 := (hS9.cell hdlX).trans hdcX; go_simp; try with_reducible rfl⟩) hS0 ?_
      change wpAnyH _ _ _ _ _ _ _ (Act.put _ (some 32) _) _; dsimp only [Act.put]; simp only [List.setIfInBounds_toArray, List.set_cons_succ, List.set_cons_zero]
      refine wpAnyH_take (i := 6) (v := .int .i64 (nk : Int)) rfl (by kernel_rfl) (by kernel_rfl) (by kernel_rfl) (fun _ _ _ h => h) (Yields.yieldsIf (Or.inl ⟨by rfl, fun w9 => by (go_simp; first | done | with_reducible rfl | (intro h9; exfalso; omega))⟩)) hS0 ?_
      change wpAnyH _ _ _ _ _ _ _ (Act.put _ (some 33) _) _; dsimp only [Act.put]; simp only [List.setIfInBounds_toArray, List.set_cons_succ, List.set_cons_zero]
      refine wpAnyH_take (i := 7) (v := .bool true) rfl (by kernel_rfl) (by kernel_rfl) (by kernel_rfl) (fun _ _ _ h => h) (Yields.yieldsIf (Or.inl ⟨by rfl, fun w9 => by (go_simp; first | done | with_reducible rfl | (intro h9; exfalso; omega))⟩)) hS0 ?_
      change wpAnyH _ _ _ _ _ _ _ (Act.put _ (some 34) _) _; dsimp only [Act.put]; simp only [List.setIfInBounds_toArray, List.set_cons_succ, List.set_cons_zero]
      refine wpAnyH_take (i := 8) (v := .bool true) rfl (by kernel_rfl) (by kernel_rfl) (by kernel_rfl) (fun _ _ _ h => h) (Yields.yieldsIf (Or.inl ⟨by rfl, fun w9 => by (go_simp; first | done | with_reducible rfl | (intro h9; exfalso; omega))⟩)) hS0 ?_
      change wpAnyH _ _ _ _ _ _ _ (Act.put _ (some 35) _) _; dsimp only [Act.put]; simp only [List.setIfInBounds_toArray, List.set_cons_succ, List.set_cons_zero]
      refine wpAnyH_take (i := 9) (v := .pointer (some ⟨d, 0, none⟩)) rfl (by kernel_rfl) (by kernel_rfl) (by kernel_rfl) (fun _ _ _ h => h) (Yields.yieldsIf (Or.inl ⟨by rfl, fun w9 => by (go_simp; first | done | with_reducible rfl | (intro h9; exfalso; omega))⟩)) hS0 ?_
      change wpAnyH _ _ _ _ _ _ _ (Act.put _ (some 36) _) _; dsimp only [Act.put]; simp only [List.setIfInBounds_toArray, List.set_cons_succ, List.set_cons_zero]
      refine wpAnyH_take (i := 10) (v := .pointer (some ⟨d, 0, none⟩)) rfl (by kernel_rfl) (by kernel_rfl) (by kernel_rfl) (fun _ _ _ h => h) (Yields.yieldsIf (Or.inl ⟨by rfl, fun w9 => by (go_simp; first | done | with_reducible rfl | (intro h9; exfalso; omega))⟩)) hS0 ?_
      change wpAnyH _ _ _ _ _ _ _ (Act.put _ (some 37) _) _; dsimp only [Act.put]; simp only [List.setIfInBounds_toArray, List.set_cons_succ, List.set_cons_zero]
      refine wpAnyH_take (i := 11) (v := .pointer (some ⟨d, 0, none⟩)) rfl (by kernel_rfl) (by kernel_rfl) (by kernel_rfl) (fun _ _ _ h => h) (Yields.yieldsIf (Or.inl ⟨by rfl, fun w9 => by (go_simp; first | done | with_reducible rfl | (intro h9; exfalso; omega))⟩)) hS0 ?_
      change wpAnyH _ _ _ _ _ _ _ (Act.put _ (some 38) _) _; dsimp only [Act.put]; simp only [List.setIfInBounds_toArray, List.set_cons_succ, List.set_cons_zero]
      refine wpAnyH_take (i := 12) (v := .slice (some ⟨b3, off3, none⟩) nk ck) rfl (by kernel_rfl) (by kernel_rfl) (by kernel_rfl) (fun _ _ _ h => h) (Or.inl ⟨by rfl, fun w9 hS9 => by have hc9 := (hS9.cell hdlX).trans hdcX; go_simp; try with_reducible rfl⟩) hS0 ?_
      change wpAnyH _ _ _ _ _ _ _ (Act.put _ (some 39) _) _; dsimp only [Act.put]; simp only [List.setIfInBounds_toArray, List.set_cons_succ, List.set_cons_zero]
      refine wpAnyH_take (i := 13) (v := .int .i64 (j : Int)) rfl (by kernel_rfl) (by kernel_rfl) (by kernel_rfl) (fun _ _ _ h => h) (Yields.yieldsIf (Or.inl ⟨by rfl, fun w9 => by (go_simp; first | done | with_reducible rfl | (intro h9; exfalso; omega))⟩)) hS0 ?_
      change wpAnyH _ _ _ _ _ _ _ (Act.put _ (some 40) _) _; dsimp only [Act.put]; simp only [List.setIfInBounds_toArray, List.set_cons_succ, List.set_cons_zero]
      refine wpAnyH_take (i := 14) (v := .pointer (some ⟨b3, off3 + j * 4, none⟩)) rfl (by kernel_rfl) (by kernel_rfl) (by kernel_rfl) (fun _ _ _ h => h) (Yields.yieldsIf (Or.inl ⟨by rfl, fun w9 => by (go_simp; first | done | with_reducible rfl | (intro h9; exfalso; omega))⟩)) hS0 ?_
      change wpAnyH _ _ _ _ _ _ _ (Act.put _ (some 41) _) _; dsimp only [Act.put]; simp only [List.setIfInBounds_toArray, List.set_cons_succ, List.set_cons_zero]
      refine wpAnyH_take (i := 15) (v := .agg y.row) rfl (by kernel_rfl) (by kernel_rfl) (by kernel_rfl) (fun _ _ _ h => h) (Or.inl ⟨by rfl, fun w9 hS9 => exec_loadLk2 (.tmp 41) rfl b3 (off3 + j * 4) (by first | rfl | simp [Act.eval, Act.put]) y (range_belowS hrgX hS9 hbxX)⟩) hS0 ?_
      change wpAnyH _ _ _ _ _ _ _ (Act.put _ (some 42) _) _; dsimp only [Act.put]; simp only [List.setIfInBounds_toArray, List.set_cons_succ, List.set_cons_zero]
      refine wpAnyH_take (i := 16) (v := .agg k.row) rfl (by kernel_rfl) (by kernel_rfl) (by kernel_rfl) (fun _ _ _ h => h) (Or.inl ⟨by rfl, fun w9 hS9 => exec_loadLk2 (.tmp 3) rfl w.heap.size 0 (by first | rfl | simp [Act.eval, Act.put]) k (range_belowS (row_range4 hqX) hS9 (row_lt hqX))⟩) hS0 ?_
      change wpAnyH _ _ _ _ _ _ _ (Act.put _ (some 43) _) _; dsimp only [Act.put]; simp only [List.setIfInBounds_toArray, List.set_cons_succ, List.set_cons_zero]
      refine wpAnyH_take (i := 17) (v := .bool q) rfl (by kernel_rfl) (by kernel_rfl) (by kernel_rfl) (fun _ _ _ h => h) (Or.inl ⟨by rfl, fun w9 hS9 => by rw [← HQ.out]; exact exec_eqLk2 42 43 rfl y k (by first | rfl | simp [Act.eval, Act.put]) (by first | rfl | simp [Act.eval, Act.put])⟩) hS0 ?_
      change wpAnyH _ _ _ _ _ _ _ (Act.put _ (some 44) _) _; dsimp only [Act.put]; simp only [List.setIfInBounds_toArray, List.set_cons_succ, List.set_cons_zero]
      refine wpAnyH_take (i := 18) (v := .bool q) rfl (by kernel_rfl) (by kernel_rfl) (by kernel_rfl) (fun _ _ _ h => h) (Yields.yieldsIf (Or.inl ⟨by rfl, fun w9 => by (go_simp; first | done | with_reducible rfl | (intro h9; exfalso; omega))⟩)) hS0 ?_
      change wpAnyH _ _ _ _ _ _ _ (Act.put _ (some 45) _) _; dsimp only [Act.put]; simp only [List.setIfInBounds_toArray, List.set_cons_succ, List.set_cons_zero]
      refine wpAnyH_take (i := 19) (v := .int .i64 (j : Int)) rfl (by kernel_rfl) (by kernel_rfl) (by kernel_rfl) (fun _ _ _ h => h) (Yields.yieldsIf (Or.inl ⟨by rfl, fun w9 => by (go_simp; first | done | with_reducible rfl | (intro h9; exfalso; omega))⟩)) hS0 ?_
      change wpAnyH _ _ _ _ _ _ _ (Act.put _ (some 4) _) _; dsimp only [Act.put]; simp only [List.setIfInBounds_toArray, List.set_cons_succ, List.set_cons_zero]
      refine wpAnyH_take (i := 20) (v := .bool q) rfl (by kernel_rfl) (by kernel_rfl) (by kernel_rfl) (fun _ _ _ h => h) (Yields.yieldsIf (Or.inl ⟨by rfl, fun w9 => by (go_simp; first | done | with_reducible rfl | (intro h9; exfalso; omega))⟩)) hS0 ?_
      change wpAnyH _ _ _ _ _ _ _ (Act.put _ (some 5) _) _; dsimp only [Act.put]; simp only [List.setIfInBounds_toArray, List.set_cons_succ, List.set_cons_zero]
      refine wpAnyH_done (by kernel_rfl) ?_ _
      go_wp2
      go_returns
      exact ⟨by rw [HI.out, HF.out]; first | done | rfl, (hbw.trans (hbX.mono hbw.size)).trans (hS0.mono (hbw.trans (hbX.mono hbw.size)).size)⟩
    go_wp2
    go_roundw
    case rel => exact ⟨j + 1, by omega, by go_num, hb2.trans (hS1.mono hb2.size), fun z hz => by rw [HE.out] at hz; rcases List.mem_append.1 hz with hz | hz; exact hall z hz; rw [List.mem_singleton] at hz; subst hz; exact HL.out⟩
    case measure => (simp [intOf]) <;> omega
end Go.Proofs.Ytbckncopdkmoeaa
