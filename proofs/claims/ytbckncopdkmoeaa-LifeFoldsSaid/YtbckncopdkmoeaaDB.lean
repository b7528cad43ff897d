/- ligref22.Table.close. Pieces for ligref22.Table.Fold. ligref22.Table.Fold: refused events, updates, closes. -/
import Derived.Test.YtbckncopdkmoeaaDA
import Derived.Test.YtbckncopdkmoeaaLr5
import Derived.Lib.AppendZerosOnto
import Derived.Deep.MidRow
import Derived.Deep.Cut
import Derived.BigRegion
import Derived.RegionTactic
import Derived.BigQuiet
import Derived.Deep.QuietTactic
import Derived.Deep.RegionLaw
import Derived.OneCell
import Derived.Laws.OwnMore
import Derived.Deep.RegionHeld
import Derived.LoopTactic
import Derived.BigFrame
import Derived.OwnWalk
import Derived.WalkKit
import Derived.ProofKit
import Derived.Handy
import Derived.Below
import Derived.Lib.Hide
import Derived.IntWalk
import Derived.Outline
import Derived.WalkLawsBesides
import Derived.WalkSpells
namespace Go.Proofs.Ytbckncopdkmoeaa
open Go.RowKit
attribute [local go_sem] strV
set_option linter.unusedVariables false
set_option linter.unusedSimpArgs false
theorem findIE_of {ks : List Pe} {k : Pe} {j : Nat} (h1 : ∀ y ∈ ks.take j, peLess y k = true) (hj : j ≤ ks.length) (h2 : ∀ y, ks[j]? = some y → peLess y k = false) : findIE ks k = j := by
  unfold findIE
  have h3 : ks.takeWhile (fun y => peLess y k) = ks.take j := by
    conv => lhs; rw [← List.take_append_drop j ks]
    rw [List.takeWhile_append_of_pos (fun y hy => h1 y hy)]
    have h4 : (ks.drop j).takeWhile (fun y => peLess y k) = [] := by
      cases hd : ks.drop j with
      | nil => rfl
      | cons y r =>
        have h5 : ks[j]? = some y := by
          have h6 : (ks.drop j)[0]? = some y := by rw [hd]; rfl
          rwa [List.getElem?_drop, Nat.add_zero] at h6
        rw [List.takeWhile_cons, h2 y h5]; rfl
    rw [h4, List.append_nil]
  rw [h3, List.length_take]; omega
open Classical in
theorem exec_eqPe2 {o : Oper} {a : Act} {w : World} (i j : Nat) (ho : o.op = .binOp .eql 60 (.tmp i) (.tmp j) 60) (x y : Pe) (hx : a.eval (.tmp i) = .agg x.row) (hy : a.eval (.tmp j) = .agg y.row) : (execOp a.eval o).run Try.prog w = .ok (.value (.bool (decide (x = y)))) w := by
  obtain ⟨xp, xc⟩ := x
  obtain ⟨yp, yc⟩ := y
  simp only [execOp, ho]
  rw [hx, hy]
  by_cases h1 : xp = yp
  · subst h1
    by_cases h2 : xc = yc
    · subst h2; simp [Pe.row, go_sem, Result.andThen]
    · simp [Pe.row, go_sem, Result.andThen, h2]
  · have e1 : (xp.toList == yp.toList) = false := by rw [beq_eq_false_iff_ne]; exact fun e => h1 (ba_toList_inj e)
    simp [Pe.row, go_sem, Result.andThen, h1, e1]
theorem row_range2 {w : World} {g : Nat} {k : Pe} {t : TypeId} (h : w.heap[g]? = some (.cells k.row t (0, 0))) : w.rangeAt g 0 k.L := fun j v hv => by
  rw [Nat.zero_add, cell_heap h]; simpa [Pe.row, Pe.L] using hv
theorem peLess_any (x y : Pe) (W : World) : Calls Try.prog 95 #[.agg x.row, .agg y.row] W fun e w' => e = .returned (.bool (peLess x y)) ∧ Below W.heap.size W w' := refLess_any x.po x.ch y.po y.ch W
theorem Try.infoPe3 : (Try.prog.info? 60).map (fun i => (i.zero, i.size, i.bytes)) = some (some (.agg #[.string ⟨#[]⟩, .int .i64 0]), 2, 24) := by kernel_rfl
theorem Pe.row_one (k : Pe) : k.row.all (·.oneCell') = true := by cases k; simp [Pe.row, Value.oneCell']
theorem one_pe (h : Pe) (W : World) : (Instr.buildSlice 69 1 #[(0, .agg h.row)]).run Try.prog W = .ok (.slice (some ⟨W.heap.size, 0, none⟩) 1 1) (W.alloc (.cells h.row 60)) := by kernel_rfl
theorem step_onePe {ops : Array Oper} {o : Oper} {a : Act} {w : World} {K : Act → World → Prop} {Q : Exit → Act → World → Prop} {E : Prop} (hgd : o.guard = none) (x : Operand) (ho : o.op = .buildSlice 69 1 #[(0, x)]) (h : Pe) (hx : a.eval x = .agg h.row)
    (hK : K (a.put o.dst (.slice (some ⟨w.heap.size, 0, none⟩) 1 1)) (w.alloc (.cells h.row 60))) :
    if Region.wanted o (yielded ops a.tmps) = true then Oper.wp Try.prog o a w K Q else E := by
  have hw : Region.wanted o (yielded ops a.tmps) = true := by simp [Region.wanted, hgd]
  rw [if_pos hw]
  unfold Oper.wp
  simp [execOp, ho, hx, one_pe h w, Result.andThen]
  exact hK
/-- New closed ends laid into the table. -/
theorem DocAt.setC {w : World} {B d n : Nat} {ks : List Lk} {es : List Ent} {qs qs' : List Pe} {v : Value} (h : DocAt w B d ks es qs) (hv : w.ownsRow B 60 2 v n (qs'.flatMap Pe.L)) (hn : qs'.length = n) : DocAt (w.setCell ⟨d, 2, none⟩ v) B d ks es qs' := by
  obtain ⟨h0, ak, ck, ae, ce, ac, cc, h2, h3, h4, h5⟩ := h
  obtain ⟨a9, c9, rfl, _⟩ := own_sliceN hv
  subst hn
  have hg := grown_put w d 2 (.slice a9 qs'.length c9)
  exact ⟨h0, ak, ck, ae, ce, a9, c9, cells_put h2 _, own_grown h3 hg h2 (by decide), own_grown h4 hg h2 (by decide), own_grown hv hg h2 (by decide)⟩
open Classical in
set_option maxRecDepth 100000 in
set_option maxHeartbeats 6400000 in
theorem refClose_any (B d : Nat) (ks : List Lk) (es : List Ent) (qs : List Pe) (p : Pe) (w : World) (hD : DocAt w B d ks es qs) (hm : qs.length ≤ 1000) (hB : B ≤ w.heap.size) :
    Calls Try.prog 63 #[.pointer (some ⟨d, 0, none⟩), .agg p.row] w fun e w' => e = .returned (.int .i64 (if findBE qs p = true then 8 else 0)) ∧ DocAt w' B d ks es (if findBE qs p = true then qs else qs.take (findIE qs p) ++ p :: qs.drop (findIE qs p)) ∧ w.grownBy w' (some d) := by
  obtain ⟨i0, hi0, hz0, hzs, hzb⟩ := info_parts Try.infoPe3
  have hD9 := hD
  obtain ⟨_, ak, ck, ae, ce, ac, cc, hd, _, _, hown⟩ := hD9
  obtain ⟨n, hn⟩ : ∃ n, qs.length = n := ⟨_, rfl⟩
  rw [hn] at hd hown hm
  obtain ⟨_, _, e9, hr, hc1, hc2, hnone⟩ := own_sliceN hown
  cases e9
  unfold maxLen at hc2
  obtain ⟨V9, hV9⟩ : ∃ v, (if findBE qs p = true then (8 : Int) else 0) = v := ⟨_, rfl⟩
  obtain ⟨Q9, hQ9⟩ : ∃ q, (if findBE qs p = true then qs else qs.take (findIE qs p) ++ p :: qs.drop (findIE qs p)) = q := ⟨_, rfl⟩
  rw [hV9, hQ9]
  have HV9 := Lib.hid hV9
  have HQ9 := Lib.hid hQ9
  clear hV9 hQ9
  have HN := Lib.hid hn
  clear hn
  have hq0 := heap_push w p.row 60
  have hb0 : Below w.heap.size w (w.alloc (.cells p.row 60)) := (Below.refl _ _).alloc (Nat.le_refl _) _
  go_enter Try.func63, Try.ntmps63
  go_wp2
  refine wp_nameE _ (fun w1 hw1 => ?_)
  have hq1 : w1.heap[w.heap.size]? = some (.cells p.row 60 (0, 0)) := by rw [hw1]; exact hq0
  have hb1 : Below w.heap.size w w1 := by rw [hw1]; exact hb0
  clear hw1 hq0 hb0
  go_loopw [5] (fun i wr => ∃ j : Nat, j ≤ n ∧ i = .int .i64 j ∧ Below w1.heap.size w1 wr ∧ (∀ y ∈ qs.take j, peLess y p = true)) (fun i _ => n - (intOf i).toNat)
  case atStart => exact ⟨0, Nat.zero_le _, rfl, Below.refl _ _, by simp⟩
  case round =>
    obtain ⟨j, hj, rfl, hb2, hall⟩ := hrel
    have hbw := hb1.trans (hb2.mono hb1.size)
    have hq := cells_of hq1 hb2 (row_lt hq1)
    have hd2 := cells_of hd hbw (row_lt hd)
    have hdl := row_lt hd2
    have hdc : wr.cell? ⟨d, 2, none⟩ = some (.slice ac n cc) := cell_heap hd2 2
    by_cases hlt : j < n
    rotate_left
    · obtain rfl : n = j := by omega
      have d9 : decide ((n : Int) < (n : Int)) = false := decide_eq_false (by omega)
      have d9n : decide (n < n) = false := decide_eq_false (by omega)
      have hI := findIE_of hall (by rw [HN.out]; exact Nat.le_refl _) (fun y hy => by rw [List.getElem?_eq_none (by rw [HN.out]; exact Nat.le_refl _)] at hy; cases hy)
      have hF : findBE qs p = false := by unfold findBE; rw [hI, List.getElem?_eq_none (by rw [HN.out]; exact Nat.le_refl _)]; simp
      have HI := Lib.hid hI
      have HF := Lib.hid hF
      clear hI hF
      go_upto_region 2 with fail
      refine wp_region_held_drew (S := fun W => Below wr.heap.size wr W) (by kernel_rfl) ((Below.refl _ _).drew) (fun hS0 => ?_)
      refine wpAnyH_take (i := 0) (v := .int .i64 (n : Int)) rfl (by kernel_rfl) (by kernel_rfl) (by kernel_rfl) (fun _ _ _ h => h) (Yields.yieldsIf (Or.inl ⟨by rfl, fun w9 => by (go_simp; first | done | with_reducible rfl | (intro h9; exfalso; omega))⟩)) hS0 ?_
      change wpAnyH _ _ _ _ _ _ _ (Act.put _ (some 6) _) _; dsimp only [Act.put]; simp only [List.setIfInBounds_toArray, List.set_cons_succ, List.set_cons_zero]
      refine wpAnyH_take (i := 1) (v := .pointer (some ⟨d, 0, none⟩)) rfl (by kernel_rfl) (by kernel_rfl) (by kernel_rfl) (fun _ _ _ h => h) (Yields.yieldsIf (Or.inl ⟨by rfl, fun w9 => by (go_simp; first | done | with_reducible rfl | (intro h9; exfalso; omega))⟩)) hS0 ?_
      change wpAnyH _ _ _ _ _ _ _ (Act.put _ (some 7) _) _; dsimp only [Act.put]; simp only [List.setIfInBounds_toArray, List.set_cons_succ, List.set_cons_zero]
      refine wpAnyH_take (i := 2) (v := .pointer (some ⟨d, 0, none⟩)) rfl (by kernel_rfl) (by kernel_rfl) (by kernel_rfl) (fun _ _ _ h => h) (Yields.yieldsIf (Or.inl ⟨by rfl, fun w9 => by (go_simp; first | done | with_reducible rfl | (intro h9; exfalso; omega))⟩)) hS0 ?_
      change wpAnyH _ _ _ _ _ _ _ (Act.put _ (some 8) _) _; dsimp only [Act.put]; simp only [List.setIfInBounds_toArray, List.set_cons_succ, List.set_cons_zero]
      refine wpAnyH_take (i := 3) (v := .pointer (some ⟨d, 2, none⟩)) rfl (by kernel_rfl) (by kernel_rfl) (by kernel_rfl) (fun _ _ _ h => h) (Yields.yieldsIf (Or.inl ⟨by rfl, fun w9 => by (go_simp; first | done | with_reducible rfl | (intro h9; exfalso; omega))⟩)) hS0 ?_
      change wpAnyH _ _ _ _ _ _ _ (Act.put _ (some 9) _) _; dsimp only [Act.put]; simp only [List.setIfInBounds_toArray, List.set_cons_succ, List.set_cons_zero]
      refine wpAnyH_take (i := 4) (v := .slice ac n cc) rfl (by kernel_rfl) (by kernel_rfl) (by kernel_rfl) (fun _ _ _ h => h) (Or.inl ⟨by rfl, fun w9 hS9 => by have hc9 := (hS9.cell hdl).trans hdc; go_simp; try with_reducible rfl⟩) hS0 ?_
      change wpAnyH _ _ _ _ _ _ _ (Act.put _ (some 10) _) _; dsimp only [Act.put]; simp only [List.setIfInBounds_toArray, List.set_cons_succ, List.set_cons_zero]
      refine wpAnyH_take (i := 5) (v := .int .i64 (n : Int)) rfl (by kernel_rfl) (by kernel_rfl) (by kernel_rfl) (fun _ _ _ h => h) (Yields.yieldsIf (Or.inl ⟨by rfl, fun w9 => by (go_simp; first | done | with_reducible rfl | (intro h9; exfalso; omega))⟩)) hS0 ?_
      change wpAnyH _ _ _ _ _ _ _ (Act.put _ (some 11) _) _; dsimp only [Act.put]; simp only [List.setIfInBounds_toArray, List.set_cons_succ, List.set_cons_zero]
      refine wpAnyH_take (i := 6) (v := .bool false) rfl (by kernel_rfl) (by kernel_rfl) (by kernel_rfl) (fun _ _ _ h => h) (Yields.yieldsIf (Or.inl ⟨by rfl, fun w9 => by (go_simp; first | done | with_reducible rfl | (intro h9; exfalso; omega))⟩)) hS0 ?_
      change wpAnyH _ _ _ _ _ _ _ (Act.put _ (some 12) _) _; dsimp only [Act.put]; simp only [List.setIfInBounds_toArray, List.set_cons_succ, List.set_cons_zero]
      refine wpAnyH_take (i := 7) (v := .bool false) rfl (by kernel_rfl) (by kernel_rfl) (by kernel_rfl) (fun _ _ _ h => h) (Yields.yieldsIf (Or.inl ⟨by rfl, fun w9 => by (go_simp; first | done | with_reducible rfl | (intro h9; exfalso; omega))⟩)) hS0 ?_
      change wpAnyH _ _ _ _ _ _ _ (Act.put _ (some 13) _) _; dsimp only [Act.put]; simp only [List.setIfInBounds_toArray, List.set_cons_succ, List.set_cons_zero]
      refine wpAnyH_take (i := 8) (v := undef) rfl (by kernel_rfl) (by kernel_rfl) (by kernel_rfl) (fun _ _ _ h => h) (Or.inr ⟨by rfl, rfl⟩) hS0 ?_
      change wpAnyH _ _ _ _ _ _ _ (Act.put _ (some 14) _) _; dsimp only [Act.put]; simp only [List.setIfInBounds_toArray, List.set_cons_succ, List.set_cons_zero]
      refine wpAnyH_take (i := 9) (v := undef) rfl (by kernel_rfl) (by kernel_rfl) (by kernel_rfl) (fun _ _ _ h => h) (Or.inr ⟨by rfl, rfl⟩) hS0 ?_
      change wpAnyH _ _ _ _ _ _ _ (Act.put _ (some 15) _) _; dsimp only [Act.put]; simp only [List.setIfInBounds_toArray, List.set_cons_succ, List.set_cons_zero]
      refine wpAnyH_take (i := 10) (v := undef) rfl (by kernel_rfl) (by kernel_rfl) (by kernel_rfl) (fun _ _ _ h => h) (Or.inr ⟨by rfl, rfl⟩) hS0 ?_
      change wpAnyH _ _ _ _ _ _ _ (Act.put _ (some 16) _) _; dsimp only [Act.put]; simp only [List.setIfInBounds_toArray, List.set_cons_succ, List.set_cons_zero]
      refine wpAnyH_take (i := 11) (v := undef) rfl (by kernel_rfl) (by kernel_rfl) (by kernel_rfl) (fun _ _ _ h => h) (Or.inr ⟨by rfl, rfl⟩) hS0 ?_
      change wpAnyH _ _ _ _ _ _ _ (Act.put _ (some 17) _) _; dsimp only [Act.put]; simp only [List.setIfInBounds_toArray, List.set_cons_succ, List.set_cons_zero]
      refine wpAnyH_take (i := 12) (v := undef) rfl (by kernel_rfl) (by kernel_rfl) (by kernel_rfl) (fun _ _ _ h => h) (Or.inr ⟨by rfl, rfl⟩) hS0 ?_
      change wpAnyH _ _ _ _ _ _ _ (Act.put _ (some 18) _) _; dsimp only [Act.put]; simp only [List.setIfInBounds_toArray, List.set_cons_succ, List.set_cons_zero]
      refine wpAnyH_take (i := 13) (v := undef) rfl (by kernel_rfl) (by kernel_rfl) (by kernel_rfl) (fun _ _ _ h => h) (Or.inr ⟨by rfl, rfl⟩) hS0 ?_
      change wpAnyH _ _ _ _ _ _ _ (Act.put _ (some 19) _) _; dsimp only [Act.put]; simp only [List.setIfInBounds_toArray, List.set_cons_succ, List.set_cons_zero]
      refine wpAnyH_take (i := 14) (v := undef) rfl (by kernel_rfl) (by kernel_rfl) (by kernel_rfl) (fun _ _ _ h => h) (Or.inr ⟨by rfl, rfl⟩) hS0 ?_
      change wpAnyH _ _ _ _ _ _ _ (Act.put _ (some 20) _) _; dsimp only [Act.put]; simp only [List.setIfInBounds_toArray, List.set_cons_succ, List.set_cons_zero]
      refine wpAnyH_take (i := 15) (v := undef) rfl (by kernel_rfl) (by kernel_rfl) (by kernel_rfl) (fun _ _ _ h => h) (Or.inr ⟨by rfl, rfl⟩) hS0 ?_
      change wpAnyH _ _ _ _ _ _ _ (Act.put _ (some 21) _) _; dsimp only [Act.put]; simp only [List.setIfInBounds_toArray, List.set_cons_succ, List.set_cons_zero]
      refine wpAnyH_take (i := 16) (v := undef) rfl (by kernel_rfl) (by kernel_rfl) (by kernel_rfl) (fun _ _ _ h => h) (Or.inr ⟨by rfl, rfl⟩) hS0 ?_
      change wpAnyH _ _ _ _ _ _ _ (Act.put _ (some 22) _) _; dsimp only [Act.put]; simp only [List.setIfInBounds_toArray, List.set_cons_succ, List.set_cons_zero]
      refine wpAnyH_take (i := 17) (v := .bool false) rfl (by kernel_rfl) (by kernel_rfl) (by kernel_rfl) (fun _ _ _ h => h) (Yields.yieldsIf (Or.inl ⟨by rfl, fun w9 => by (go_simp; first | done | with_reducible rfl | (intro h9; exfalso; omega))⟩)) hS0 ?_
      change wpAnyH _ _ _ _ _ _ _ (Act.put _ (some 23) _) _; dsimp only [Act.put]; simp only [List.setIfInBounds_toArray, List.set_cons_succ, List.set_cons_zero]
      refine wpAnyH_done (by kernel_rfl) ?_ _
      go_upto_region 4 with fail
      refine wp_nameE _ (fun X hX => ?_)
      have hbX : Below wr.heap.size wr X := by rw [hX]; exact hS0
      clear hX hS0
      have hdX := cells_of hd2 hbX (row_lt hd2)
      have hdlX := row_lt hdX
      have hdcX : X.cell? ⟨d, 2, none⟩ = some (.slice ac n cc) := cell_heap hdX 2
      have hqX := cells_of hq hbX (row_lt hq)
      refine wp_region_held_drew (S := fun W => Below X.heap.size X W) (by kernel_rfl) ((Below.refl _ _).drew) (fun hS0 => ?_)
      refine wpAnyH_take (i := 0) (v := .int .i64 (n : Int)) rfl (by kernel_rfl) (by kernel_rfl) (by kernel_rfl) (fun _ _ _ h => h) (Yields.yieldsIf (Or.inl ⟨by rfl, fun w9 => by (go_simp; first | done | with_reducible rfl | (intro h9; exfalso; omega))⟩)) hS0 ?_
      change wpAnyH _ _ _ _ _ _ _ (Act.put _ (some 26) _) _; dsimp only [Act.put]; simp only [List.setIfInBounds_toArray, List.set_cons_succ, List.set_cons_zero]
      refine wpAnyH_take (i := 1) (v := .pointer (some ⟨d, 0, none⟩)) rfl (by kernel_rfl) (by kernel_rfl) (by kernel_rfl) (fun _ _ _ h => h) (Yields.yieldsIf (Or.inl ⟨by rfl, fun w9 => by (go_simp; first | done | with_reducible rfl | (intro h9; exfalso; omega))⟩)) hS0 ?_
      change wpAnyH _ _ _ _ _ _ _ (Act.put _ (some 27) _) _; dsimp only [Act.put]; simp only [List.setIfInBounds_toArray, List.set_cons_succ, List.set_cons_zero]
      refine wpAnyH_take (i := 2) (v := .pointer (some ⟨d, 0, none⟩)) rfl (by kernel_rfl) (by kernel_rfl) (by kernel_rfl) (fun _ _ _ h => h) (Yields.yieldsIf (Or.inl ⟨by rfl, fun w9 => by (go_simp; first | done | with_reducible rfl | (intro h9; exfalso; omega))⟩)) hS0 ?_
      change wpAnyH _ _ _ _ _ _ _ (Act.put _ (some 28) _) _; dsimp only [Act.put]; simp only [List.setIfInBounds_toArray, List.set_cons_succ, List.set_cons_zero]
      refine wpAnyH_take (i := 3) (v := .pointer (some ⟨d, 2, none⟩)) rfl (by kernel_rfl) (by kernel_rfl) (by kernel_rfl) (fun _ _ _ h => h) (Yields.yieldsIf (Or.inl ⟨by rfl, fun w9 => by (go_simp; first | done | with_reducible rfl | (intro h9; exfalso; omega))⟩)) hS0 ?_
      change wpAnyH _ _ _ _ _ _ _ (Act.put _ (some 29) _) _; dsimp only [Act.put]; simp only [List.setIfInBounds_toArray, List.set_cons_succ, List.set_cons_zero]
      refine wpAnyH_take (i := 4) (v := .slice ac n cc) rfl (by kernel_rfl) (by kernel_rfl) (by kernel_rfl) (fun _ _ _ h => h) (Or.inl ⟨by rfl, fun w9 hS9 => by have hc9 := (hS9.cell hdlX).trans hdcX; go_simp; try with_reducible rfl⟩) hS0 ?_
      change wpAnyH _ _ _ _ _ _ _ (Act.put _ (some 30) _) _; dsimp only [Act.put]; simp only [List.setIfInBounds_toArray, List.set_cons_succ, List.set_cons_zero]
      refine wpAnyH_take (i := 5) (v := .int .i64 (n : Int)) rfl (by kernel_rfl) (by kernel_rfl) (by kernel_rfl) (fun _ _ _ h => h) (Yields.yieldsIf (Or.inl ⟨by rfl, fun w9 => by (go_simp; first | done | with_reducible rfl | (intro h9; exfalso; omega))⟩)) hS0 ?_
      change wpAnyH _ _ _ _ _ _ _ (Act.put _ (some 31) _) _; dsimp only [Act.put]; simp only [List.setIfInBounds_toArray, List.set_cons_succ, List.set_cons_zero]
      refine wpAnyH_take (i := 6) (v := .bool false) rfl (by kernel_rfl) (by kernel_rfl) (by kernel_rfl) (fun _ _ _ h => h) (Yields.yieldsIf (Or.inl ⟨by rfl, fun w9 => by (go_simp; first | done | with_reducible rfl | (intro h9; exfalso; omega))⟩)) hS0 ?_
      change wpAnyH _ _ _ _ _ _ _ (Act.put _ (some 32) _) _; dsimp only [Act.put]; simp only [List.setIfInBounds_toArray, List.set_cons_succ, List.set_cons_zero]
      refine wpAnyH_take (i := 7) (v := .bool false) rfl (by kernel_rfl) (by kernel_rfl) (by kernel_rfl) (fun _ _ _ h => h) (Yields.yieldsIf (Or.inl ⟨by rfl, fun w9 => by (go_simp; first | done | with_reducible rfl | (intro h9; exfalso; omega))⟩)) hS0 ?_
      change wpAnyH _ _ _ _ _ _ _ (Act.put _ (some 33) _) _; dsimp only [Act.put]; simp only [List.setIfInBounds_toArray, List.set_cons_succ, List.set_cons_zero]
      refine wpAnyH_take (i := 8) (v := undef) rfl (by kernel_rfl) (by kernel_rfl) (by kernel_rfl) (fun _ _ _ h => h) (Or.inr ⟨by rfl, rfl⟩) hS0 ?_
      change wpAnyH _ _ _ _ _ _ _ (Act.put _ (some 34) _) _; dsimp only [Act.put]; simp only [List.setIfInBounds_toArray, List.set_cons_succ, List.set_cons_zero]
      refine wpAnyH_take (i := 9) (v := undef) rfl (by kernel_rfl) (by kernel_rfl) (by kernel_rfl) (fun _ _ _ h => h) (Or.inr ⟨by rfl, rfl⟩) hS0 ?_
      change wpAnyH _ _ _ _ _ _ _ (Act.put _ (some 35) _) _; dsimp only [Act.put]; simp only [List.setIfInBounds_toArray, List.set_cons_succ, List.set_cons_zero]
      refine wpAnyH_take (i := 10) (v := undef) rfl (by kernel_rfl) (by kernel_rfl) (by kernel_rfl) (fun _ _ _ h => h) (Or.inr ⟨by rfl, rfl⟩) hS0 ?_
      change wpAnyH _ _ _ _ _ _ _ (Act.put _ (some 36) _) _; dsimp only [Act.put]; simp only [List.setIfInBounds_toArray, List.set_cons_succ, List.set_cons_zero]
      refine wpAnyH_take (i := 11) (v := undef) rfl (by kernel_rfl) (by kernel_rfl) (by kernel_rfl) (fun _ _ _ h => h) (Or.inr ⟨by rfl, rfl⟩) hS0 ?_
      change wpAnyH _ _ _ _ _ _ _ (Act.put _ (some 37) _) _; dsimp only [Act.put]; simp only [List.setIfInBounds_toArray, List.set_cons_succ, List.set_cons_zero]
      refine wpAnyH_take (i := 12) (v := undef) rfl (by kernel_rfl) (by kernel_rfl) (by kernel_rfl) (fun _ _ _ h => h) (Or.inr ⟨by rfl, rfl⟩) hS0 ?_
      change wpAnyH _ _ _ _ _ _ _ (Act.put _ (some 38) _) _; dsimp only [Act.put]; simp only [List.setIfInBounds_toArray, List.set_cons_succ, List.set_cons_zero]
      refine wpAnyH_take (i := 13) (v := undef) rfl (by kernel_rfl) (by kernel_rfl) (by kernel_rfl) (fun _ _ _ h => h) (Or.inr ⟨by rfl, rfl⟩) hS0 ?_
      change wpAnyH _ _ _ _ _ _ _ (Act.put _ (some 39) _) _; dsimp only [Act.put]; simp only [List.setIfInBounds_toArray, List.set_cons_succ, List.set_cons_zero]
      refine wpAnyH_take (i := 14) (v := undef) rfl (by kernel_rfl) (by kernel_rfl) (by kernel_rfl) (fun _ _ _ h => h) (Or.inr ⟨by rfl, rfl⟩) hS0 ?_
      change wpAnyH _ _ _ _ _ _ _ (Act.put _ (some 40) _) _; dsimp only [Act.put]; simp only [List.setIfInBounds_toArray, List.set_cons_succ, List.set_cons_zero]
      refine wpAnyH_take (i := 15) (v := undef) rfl (by kernel_rfl) (by kernel_rfl) (by kernel_rfl) (fun _ _ _ h => h) (Or.inr ⟨by rfl, rfl⟩) hS0 ?_
      change wpAnyH _ _ _ _ _ _ _ (Act.put _ (some 41) _) _; dsimp only [Act.put]; simp only [List.setIfInBounds_toArray, List.set_cons_succ, List.set_cons_zero]
      refine wpAnyH_take (i := 16) (v := undef) rfl (by kernel_rfl) (by kernel_rfl) (by kernel_rfl) (fun _ _ _ h => h) (Or.inr ⟨by rfl, rfl⟩) hS0 ?_
      change wpAnyH _ _ _ _ _ _ _ (Act.put _ (some 42) _) _; dsimp only [Act.put]; simp only [List.setIfInBounds_toArray, List.set_cons_succ, List.set_cons_zero]
      refine wpAnyH_take (i := 17) (v := .bool false) rfl (by kernel_rfl) (by kernel_rfl) (by kernel_rfl) (fun _ _ _ h => h) (Yields.yieldsIf (Or.inl ⟨by rfl, fun w9 => by (go_simp; first | done | with_reducible rfl | (intro h9; exfalso; omega))⟩)) hS0 ?_
      change wpAnyH _ _ _ _ _ _ _ (Act.put _ (some 43) _) _; dsimp only [Act.put]; simp only [List.setIfInBounds_toArray, List.set_cons_succ, List.set_cons_zero]
      refine wpAnyH_done (by kernel_rfl) ?_ _
      go_upto_region 6 with fail
      refine wp_nameE _ (fun wc hwc => ?_)
      have hbc : Below X.heap.size X wc := by rw [hwc]; exact hS0
      clear hwc hS0
      have hqc := cells_of hqX hbc (row_lt hqX)
      have hdc9 := cells_of hdX hbc (row_lt hdX)
      have hdlc := row_lt hdc9
      have hdcc : wc.cell? ⟨d, 2, none⟩ = some (.slice ac n cc) := cell_heap hdc9 2
      have hbw := (hbw.trans (hbX.mono hbw.size)).trans (hbc.mono (hbw.trans (hbX.mono hbw.size)).size)
      have hDc := hD.kept hbw
      have hform := own_formD hown
      have hownc := own_kept9 hown hbw
      obtain ⟨_, _, e9, hrc, _⟩ := own_sliceN hownc
      cases e9
      have HTL := Lib.hid (show ((qs.take n).flatMap Pe.L).length = n * 2 by rw [flat_length Pe.L 2 Pe.L_len, List.length_take, Nat.min_eq_left (by rw [HN.out]; exact Nat.le_refl _)])
      have HDL := Lib.hid (show ((qs.drop n).flatMap Pe.L).length = (n - n) * 2 by rw [flat_length Pe.L 2 Pe.L_len, List.length_drop, HN.out])
      obtain ⟨L9, hL9⟩ : ∃ m : Nat, n + 1 + (n - n) = m := ⟨_, rfl⟩
      have HL9 := Lib.hid hL9
      have HIL := Lib.hid (show (qs.take n ++ p :: qs.drop n).length = L9 by rw [← hL9]; rw [List.length_append, List.length_cons, List.length_take, List.length_drop, HN.out, Nat.min_eq_left (Nat.le_refl n)]; omega)
      clear hL9
      have HIF := Lib.hid (show (qs.take n ++ p :: qs.drop n).flatMap Pe.L = (qs.take n).flatMap Pe.L ++ p.L ++ (qs.drop n).flatMap Pe.L by rw [List.flatMap_append, List.flatMap_cons, List.append_assoc])
      refine wp_region_tail 20 1 (S := fun W => Below wc.heap.size wc W) (by kernel_rfl) (by rfl) (by decide) (by kernel_rfl) (by kernel_rfl) ((Below.refl _ _).drew) (fun hS0 => ?_)
      refine wpAnyT_take (i := 0) (v := .pointer (some ⟨d, 0, none⟩)) rfl (by kernel_rfl) (by kernel_rfl) (by kernel_rfl) (by decide) (fun _ _ _ h => h) (Yields.yieldsIf (Or.inl ⟨by rfl, fun w9 => by (go_simp; first | done | with_reducible rfl | (intro h9; exfalso; omega))⟩)) hS0 ?_
      change wpAnyT _ _ _ _ _ _ _ _ _ (Act.put _ (some 44) _) _; dsimp only [Act.put]; simp only [List.setIfInBounds_toArray, List.set_cons_succ, List.set_cons_zero]
      refine wpAnyT_take (i := 1) (v := .pointer (some ⟨d, 0, none⟩)) rfl (by kernel_rfl) (by kernel_rfl) (by kernel_rfl) (by decide) (fun _ _ _ h => h) (Yields.yieldsIf (Or.inl ⟨by rfl, fun w9 => by (go_simp; first | done | with_reducible rfl | (intro h9; exfalso; omega))⟩)) hS0 ?_
      change wpAnyT _ _ _ _ _ _ _ _ _ (Act.put _ (some 45) _) _; dsimp only [Act.put]; simp only [List.setIfInBounds_toArray, List.set_cons_succ, List.set_cons_zero]
      refine wpAnyT_take (i := 2) (v := .pointer (some ⟨d, 0, none⟩)) rfl (by kernel_rfl) (by kernel_rfl) (by kernel_rfl) (by decide) (fun _ _ _ h => h) (Yields.yieldsIf (Or.inl ⟨by rfl, fun w9 => by (go_simp; first | done | with_reducible rfl | (intro h9; exfalso; omega))⟩)) hS0 ?_
      change wpAnyT _ _ _ _ _ _ _ _ _ (Act.put _ (some 46) _) _; dsimp only [Act.put]; simp only [List.setIfInBounds_toArray, List.set_cons_succ, List.set_cons_zero]
      refine wpAnyT_take (i := 3) (v := .pointer (some ⟨d, 2, none⟩)) rfl (by kernel_rfl) (by kernel_rfl) (by kernel_rfl) (by decide) (fun _ _ _ h => h) (Yields.yieldsIf (Or.inl ⟨by rfl, fun w9 => by (go_simp; first | done | with_reducible rfl | (intro h9; exfalso; omega))⟩)) hS0 ?_
      change wpAnyT _ _ _ _ _ _ _ _ _ (Act.put _ (some 47) _) _; dsimp only [Act.put]; simp only [List.setIfInBounds_toArray, List.set_cons_succ, List.set_cons_zero]
      refine wpAnyT_take (i := 4) (v := .slice ac n cc) rfl (by kernel_rfl) (by kernel_rfl) (by kernel_rfl) (by decide) (fun _ _ _ h => h) (Or.inl ⟨by rfl, fun w9 hS9 => by have hc9 := (hS9.cell hdlc).trans hdcc; go_simp; try with_reducible rfl⟩) hS0 ?_
      change wpAnyT _ _ _ _ _ _ _ _ _ (Act.put _ (some 48) _) _; dsimp only [Act.put]; simp only [List.setIfInBounds_toArray, List.set_cons_succ, List.set_cons_zero]
      refine wpAnyT_take (i := 5) (v := .int .i64 (n : Int)) rfl (by kernel_rfl) (by kernel_rfl) (by kernel_rfl) (by decide) (fun _ _ _ h => h) (Yields.yieldsIf (Or.inl ⟨by rfl, fun w9 => by (go_simp; first | done | with_reducible rfl | (intro h9; exfalso; omega))⟩)) hS0 ?_
      change wpAnyT _ _ _ _ _ _ _ _ _ (Act.put _ (some 49) _) _; dsimp only [Act.put]; simp only [List.setIfInBounds_toArray, List.set_cons_succ, List.set_cons_zero]
      refine wpAnyT_take (i := 6) (v := .slice ac n cc) rfl (by kernel_rfl) (by kernel_rfl) (by kernel_rfl) (by decide) (fun _ _ _ h => h) (Or.inl ⟨by rfl, fun w9 hS9 => exec_toPe 48 49 rfl (by first | rfl | simp [Act.eval, Act.put]) (by first | rfl | simp [Act.eval, Act.put]) (Nat.le_refl _) hc1 hnone hform⟩) hS0 ?_
      change wpAnyT _ _ _ _ _ _ _ _ _ (Act.put _ (some 50) _) _; dsimp only [Act.put]; simp only [List.setIfInBounds_toArray, List.set_cons_succ, List.set_cons_zero]
      refine wpAnyT_take (i := 8) (v := .agg p.row) rfl (by kernel_rfl) (by kernel_rfl) (by kernel_rfl) (by decide) (fun _ _ _ h => h) (Or.inl ⟨by rfl, fun w9 hS9 => exec_loadPeAt (.tmp 3) rfl w.heap.size 0 (by first | rfl | simp [Act.eval, Act.put]) p (range_belowS (row_range2 hqc) hS9 (row_lt hqc))⟩) hS0 ?_
      change wpAnyT _ _ _ _ _ _ _ _ _ (Act.put _ (some 52) _) _; dsimp only [Act.put]; simp only [List.setIfInBounds_toArray, List.set_cons_succ, List.set_cons_zero]
      refine wpAnyT_take (i := 11) (v := .pointer (some ⟨d, 0, none⟩)) rfl (by kernel_rfl) (by kernel_rfl) (by kernel_rfl) (by decide) (fun _ _ _ h => h) (Yields.yieldsIf (Or.inl ⟨by rfl, fun w9 => by (go_simp; first | done | with_reducible rfl | (intro h9; exfalso; omega))⟩)) hS0 ?_
      change wpAnyT _ _ _ _ _ _ _ _ _ (Act.put _ (some 55) _) _; dsimp only [Act.put]; simp only [List.setIfInBounds_toArray, List.set_cons_succ, List.set_cons_zero]
      refine wpAnyT_take (i := 12) (v := .pointer (some ⟨d, 0, none⟩)) rfl (by kernel_rfl) (by kernel_rfl) (by kernel_rfl) (by decide) (fun _ _ _ h => h) (Yields.yieldsIf (Or.inl ⟨by rfl, fun w9 => by (go_simp; first | done | with_reducible rfl | (intro h9; exfalso; omega))⟩)) hS0 ?_
      change wpAnyT _ _ _ _ _ _ _ _ _ (Act.put _ (some 56) _) _; dsimp only [Act.put]; simp only [List.setIfInBounds_toArray, List.set_cons_succ, List.set_cons_zero]
      refine wpAnyT_take (i := 13) (v := .pointer (some ⟨d, 2, none⟩)) rfl (by kernel_rfl) (by kernel_rfl) (by kernel_rfl) (by decide) (fun _ _ _ h => h) (Yields.yieldsIf (Or.inl ⟨by rfl, fun w9 => by (go_simp; first | done | with_reducible rfl | (intro h9; exfalso; omega))⟩)) hS0 ?_
      change wpAnyT _ _ _ _ _ _ _ _ _ (Act.put _ (some 57) _) _; dsimp only [Act.put]; simp only [List.setIfInBounds_toArray, List.set_cons_succ, List.set_cons_zero]
      refine wpAnyT_take (i := 14) (v := .slice ac n cc) rfl (by kernel_rfl) (by kernel_rfl) (by kernel_rfl) (by decide) (fun _ _ _ h => h) (Or.inl ⟨by rfl, fun w9 hS9 => by have hc9 := (hS9.cell hdlc).trans hdcc; go_simp; try with_reducible rfl⟩) hS0 ?_
      change wpAnyT _ _ _ _ _ _ _ _ _ (Act.put _ (some 58) _) _; dsimp only [Act.put]; simp only [List.setIfInBounds_toArray, List.set_cons_succ, List.set_cons_zero]
      refine wpAnyT_take (i := 15) (v := .int .i64 (n : Int)) rfl (by kernel_rfl) (by kernel_rfl) (by kernel_rfl) (by decide) (fun _ _ _ h => h) (Yields.yieldsIf (Or.inl ⟨by rfl, fun w9 => by (go_simp; first | done | with_reducible rfl | (intro h9; exfalso; omega))⟩)) hS0 ?_
      change wpAnyT _ _ _ _ _ _ _ _ _ (Act.put _ (some 59) _) _; dsimp only [Act.put]; simp only [List.setIfInBounds_toArray, List.set_cons_succ, List.set_cons_zero]
      refine wpAnyT_take (i := 16) (v := .slice (cutA ac cc n 2) (n - n) (cc - n)) rfl (by kernel_rfl) (by kernel_rfl) (by kernel_rfl) (by decide) (fun _ _ _ h => h) (Or.inl ⟨by rfl, fun w9 hS9 => exec_fromPe 58 59 rfl (by first | rfl | simp [Act.eval, Act.put]) (by first | rfl | simp [Act.eval, Act.put]) (Nat.le_refl _) hc1 hnone hform⟩) hS0 ?_
      change wpAnyT _ _ _ _ _ _ _ _ _ (Act.put _ (some 60) _) _; dsimp only [Act.put]; simp only [List.setIfInBounds_toArray, List.set_cons_succ, List.set_cons_zero]
      refine wpAnyT_ready (rs := [7, 9]) (by kernel_rfl) (by simp) (by rfl) ?_
      refine (AllReadyT.cons rfl (fun K hK => ?_) (AllReadyT.cons rfl (fun K hK => ?_) AllReadyT.nil))
      · refine step_append_ownA rfl (.const (.slice none 0 0)) (.tmp 50) 69 rfl wc.heap.size 60 i0 (.agg #[.string ⟨#[]⟩, .int .i64 0]) 2 24 Try.underlying69 hi0 hz0 hzs hzb rfl (by decide) (.slice none 0 0) (0) ([]) (by first | rfl | simp [Act.eval, Act.put]) (World.ownsRow_nil _ _ _ _) (ac) (n) (cc) ((qs.take n).flatMap Pe.L) (by first | rfl | simp [Act.eval, Act.put]) (fun h => by have := hnone h; omega) HTL.out (take_newsD Pe.L_len (hrc.below hS0) n) (by first | exact flat_oneD Pe.L_one _ | exact p.L_one) (by unfold maxLen; omega) (by omega) hS0.size ?_
        intro v1 w1 hown1 hgr1
        simp only [Nat.zero_add, List.nil_append] at hown1
        have hS1 := hS0.trans ((grown_lowM hgr1 (fun k h => by cases h) (Nat.le_refl _)).mono hS0.size)
        refine (Shut.out hK) _ _ hS1 (fun _ => ?_)
        clear hK K
        change wpAnyT _ _ _ _ _ _ _ _ _ (Act.put _ (some 51) _) _; dsimp only [Act.put]; simp only [List.setIfInBounds_toArray, List.set_cons_succ, List.set_cons_zero]
        refine wpAnyT_ready (rs := [9]) (by kernel_rfl) (by simp) (by rfl) ?_
        refine (AllReadyT.cons rfl (fun K hK => ?_) AllReadyT.nil)
        refine step_onePe rfl (.tmp 52) rfl p (by first | rfl | simp [Act.eval, Act.put]) ?_
        have hS2 := hS1.alloc hS1.size (.cells p.row 60)
        have hownA := hown1.alloc (.cells p.row 60)
        have hN := heap_push w1 p.row 60
        refine (Shut.out hK) _ _ hS2 (fun _ => ?_)
        clear hK K
        change wpAnyT _ _ _ _ _ _ _ _ _ (Act.put _ (some 53) _) _; dsimp only [Act.put]; simp only [List.setIfInBounds_toArray, List.set_cons_succ, List.set_cons_zero]
        generalize hg9 : w1.alloc (.cells p.row 60) = wN at hS2 hownA hN ⊢
        clear hg9
        generalize w1.heap.size = g1 at hN ⊢
        have hown1 := hownA
        refine wpAnyT_ready (rs := [10]) (by kernel_rfl) (by simp) (by rfl) ?_
        refine (AllReadyT.cons rfl (fun K hK => ?_) AllReadyT.nil)
        refine step_append_ownA rfl (.tmp 51) (.tmp 53) 69 rfl wc.heap.size 60 i0 (.agg #[.string ⟨#[]⟩, .int .i64 0]) 2 24 Try.underlying69 hi0 hz0 hzs hzb rfl (by decide) (v1) (n) ((qs.take n).flatMap Pe.L) (by first | rfl | simp [Act.eval, Act.put]) hown1 (some ⟨g1, 0, none⟩) (1) (1) (p.L) (by first | rfl | simp [Act.eval, Act.put]) (fun h => by cases h) (by rfl) (some_funD (row_newD hN rfl)) (by first | exact flat_oneD Pe.L_one _ | exact p.L_one) (by unfold maxLen; omega) (by omega) hS2.size ?_
        intro v2 w2 hown2 hgr2
        have hS3 := hS2.trans ((below_grown hown1 hgr2 hS2.size))
        refine (Shut.out hK) _ _ hS3 (fun _ => ?_)
        clear hK K
        change wpAnyT _ _ _ _ _ _ _ _ _ (Act.put _ (some 54) _) _; dsimp only [Act.put]; simp only [List.setIfInBounds_toArray, List.set_cons_succ, List.set_cons_zero]
        refine wpAnyT_ready (rs := [17]) (by kernel_rfl) (by simp) (by rfl) ?_
        refine (AllReadyT.cons rfl (fun K hK => ?_) AllReadyT.nil)
        refine step_append_ownA rfl (.tmp 54) (.tmp 60) 69 rfl wc.heap.size 60 i0 (.agg #[.string ⟨#[]⟩, .int .i64 0]) 2 24 Try.underlying69 hi0 hz0 hzs hzb rfl (by decide) (v2) (n + 1) ((qs.take n).flatMap Pe.L ++ p.L) (by first | rfl | simp [Act.eval, Act.put]) hown2 (cutA ac cc n 2) (n - n) (cc - n) ((qs.drop n).flatMap Pe.L) (by first | rfl | simp [Act.eval, Act.put]) (cutA_none hnone) HDL.out (cut_newsD Pe.L_len (hrc.below hS3) HN.out hc1 hform) (by first | exact flat_oneD Pe.L_one _ | exact p.L_one) (by unfold maxLen; omega) (by omega) hS3.size ?_
        intro v3 w3 hown3 hgr3
        rw [HL9.out] at hown3
        obtain ⟨a9, c9, rfl, _⟩ := own_sliceN hown3
        have hS4 := hS3.trans (below_grown hown2 hgr3 hS3.size)
        refine (Shut.out hK) _ _ hS4 (fun _ => ?_)
        clear hK K
        change wpAnyT _ _ _ _ _ _ _ _ _ (Act.put _ (some 61) _) _; dsimp only [Act.put]; simp only [List.setIfInBounds_toArray, List.set_cons_succ, List.set_cons_zero]
        refine wpAnyT_take (i := 18) (v := .pointer (some ⟨d, 0, none⟩)) rfl (by kernel_rfl) (by kernel_rfl) (by kernel_rfl) (by decide) (fun _ _ _ h => h) (Yields.yieldsIf (Or.inl ⟨by rfl, fun w9 => by (go_simp; first | done | with_reducible rfl | (intro h9; exfalso; omega))⟩)) hS4 ?_
        change wpAnyT _ _ _ _ _ _ _ _ _ (Act.put _ (some 62) _) _; dsimp only [Act.put]; simp only [List.setIfInBounds_toArray, List.set_cons_succ, List.set_cons_zero]
        refine wpAnyT_take (i := 19) (v := .pointer (some ⟨d, 2, none⟩)) rfl (by kernel_rfl) (by kernel_rfl) (by kernel_rfl) (by decide) (fun _ _ _ h => h) (Yields.yieldsIf (Or.inl ⟨by rfl, fun w9 => by (go_simp; first | done | with_reducible rfl | (intro h9; exfalso; omega))⟩)) hS4 ?_
        change wpAnyT _ _ _ _ _ _ _ _ _ (Act.put _ (some 63) _) _; dsimp only [Act.put]; simp only [List.setIfInBounds_toArray, List.set_cons_succ, List.set_cons_zero]
        refine wpAnyT_tail (by kernel_rfl) ?_
        refine wpAny_ready (rs := [20]) (by kernel_rfl) (by simp) ?_
        refine AllReady.cons rfl (fun K hK => ?_) AllReady.nil
        have hD3 := hDc.kept hS4
        have hc9 := (hS4.cell hdlc).trans hdcc
        have hf9 := frozen_heap (cells_of hdc9 hS4 hdlc) 2
        go_simp
        refine hK _ _ ?_
        clear hK K
        try dsimp only [Act.put]
        refine wpAny_done (by kernel_rfl) ?_ _
        go_wp2
        go_ret
        have h9 := own_lowerM hown3 (Nat.le_trans hB hbw.size)
        refine ⟨?_, ?_, ?_⟩
        · rw [← HV9.out, HF.out]; rfl
        · rw [← HQ9.out]; simp only [HF.out, HI.out, Bool.false_eq_true, if_false]; rw [← HIF.out] at h9; exact hD3.setC h9 HIL.out
        · exact grown_trD (grown_one (hbw.trans (hS4.mono hbw.size)) d) (grown_put _ _ _ _)
      · refine step_onePe rfl (.tmp 52) rfl p (by first | rfl | simp [Act.eval, Act.put]) ?_
        have hS1 := hS0.alloc hS0.size (.cells p.row 60)
        have hN := heap_push wc.drew p.row 60
        refine (Shut.out hK) _ _ hS1 (fun _ => ?_)
        clear hK K
        change wpAnyT _ _ _ _ _ _ _ _ _ (Act.put _ (some 53) _) _; dsimp only [Act.put]; simp only [List.setIfInBounds_toArray, List.set_cons_succ, List.set_cons_zero]
        refine wpAnyT_ready (rs := [7]) (by kernel_rfl) (by simp) (by rfl) ?_
        refine (AllReadyT.cons rfl (fun K hK => ?_) AllReadyT.nil)
        refine step_append_ownA rfl (.const (.slice none 0 0)) (.tmp 50) 69 rfl wc.heap.size 60 i0 (.agg #[.string ⟨#[]⟩, .int .i64 0]) 2 24 Try.underlying69 hi0 hz0 hzs hzb rfl (by decide) (.slice none 0 0) (0) ([]) (by first | rfl | simp [Act.eval, Act.put]) (World.ownsRow_nil _ _ _ _) (ac) (n) (cc) ((qs.take n).flatMap Pe.L) (by first | rfl | simp [Act.eval, Act.put]) (fun h => by have := hnone h; omega) HTL.out (take_newsD Pe.L_len (hrc.below hS1) n) (by first | exact flat_oneD Pe.L_one _ | exact p.L_one) (by unfold maxLen; omega) (by omega) hS1.size ?_
        intro v1 wN hown1 hgr1
        simp only [Nat.zero_add, List.nil_append] at hown1
        have hS2 := hS1.trans ((grown_lowM hgr1 (fun k h => by cases h) (Nat.le_refl _)).mono hS1.size)
        have hN := grown_at hgr1 hN (fun q => by cases q)
        refine (Shut.out hK) _ _ hS2 (fun _ => ?_)
        clear hK K
        change wpAnyT _ _ _ _ _ _ _ _ _ (Act.put _ (some 51) _) _; dsimp only [Act.put]; simp only [List.setIfInBounds_toArray, List.set_cons_succ, List.set_cons_zero]
        generalize wc.drew.heap.size = g1 at hN ⊢
        refine wpAnyT_ready (rs := [10]) (by kernel_rfl) (by simp) (by rfl) ?_
        refine (AllReadyT.cons rfl (fun K hK => ?_) AllReadyT.nil)
        refine step_append_ownA rfl (.tmp 51) (.tmp 53) 69 rfl wc.heap.size 60 i0 (.agg #[.string ⟨#[]⟩, .int .i64 0]) 2 24 Try.underlying69 hi0 hz0 hzs hzb rfl (by decide) (v1) (n) ((qs.take n).flatMap Pe.L) (by first | rfl | simp [Act.eval, Act.put]) hown1 (some ⟨g1, 0, none⟩) (1) (1) (p.L) (by first | rfl | simp [Act.eval, Act.put]) (fun h => by cases h) (by rfl) (some_funD (row_newD hN rfl)) (by first | exact flat_oneD Pe.L_one _ | exact p.L_one) (by unfold maxLen; omega) (by omega) hS2.size ?_
        intro v2 w2 hown2 hgr2
        have hS3 := hS2.trans ((below_grown hown1 hgr2 hS2.size))
        refine (Shut.out hK) _ _ hS3 (fun _ => ?_)
        clear hK K
        change wpAnyT _ _ _ _ _ _ _ _ _ (Act.put _ (some 54) _) _; dsimp only [Act.put]; simp only [List.setIfInBounds_toArray, List.set_cons_succ, List.set_cons_zero]
        refine wpAnyT_ready (rs := [17]) (by kernel_rfl) (by simp) (by rfl) ?_
        refine (AllReadyT.cons rfl (fun K hK => ?_) AllReadyT.nil)
        refine step_append_ownA rfl (.tmp 54) (.tmp 60) 69 rfl wc.heap.size 60 i0 (.agg #[.string ⟨#[]⟩, .int .i64 0]) 2 24 Try.underlying69 hi0 hz0 hzs hzb rfl (by decide) (v2) (n + 1) ((qs.take n).flatMap Pe.L ++ p.L) (by first | rfl | simp [Act.eval, Act.put]) hown2 (cutA ac cc n 2) (n - n) (cc - n) ((qs.drop n).flatMap Pe.L) (by first | rfl | simp [Act.eval, Act.put]) (cutA_none hnone) HDL.out (cut_newsD Pe.L_len (hrc.below hS3) HN.out hc1 hform) (by first | exact flat_oneD Pe.L_one _ | exact p.L_one) (by unfold maxLen; omega) (by omega) hS3.size ?_
        intro v3 w3 hown3 hgr3
        rw [HL9.out] at hown3
        obtain ⟨a9, c9, rfl, _⟩ := own_sliceN hown3
        have hS4 := hS3.trans (below_grown hown2 hgr3 hS3.size)
        refine (Shut.out hK) _ _ hS4 (fun _ => ?_)
        clear hK K
        change wpAnyT _ _ _ _ _ _ _ _ _ (Act.put _ (some 61) _) _; dsimp only [Act.put]; simp only [List.setIfInBounds_toArray, List.set_cons_succ, List.set_cons_zero]
        refine wpAnyT_take (i := 18) (v := .pointer (some ⟨d, 0, none⟩)) rfl (by kernel_rfl) (by kernel_rfl) (by kernel_rfl) (by decide) (fun _ _ _ h => h) (Yields.yieldsIf (Or.inl ⟨by rfl, fun w9 => by (go_simp; first | done | with_reducible rfl | (intro h9; exfalso; omega))⟩)) hS4 ?_
        change wpAnyT _ _ _ _ _ _ _ _ _ (Act.put _ (some 62) _) _; dsimp only [Act.put]; simp only [List.setIfInBounds_toArray, List.set_cons_succ, List.set_cons_zero]
        refine wpAnyT_take (i := 19) (v := .pointer (some ⟨d, 2, none⟩)) rfl (by kernel_rfl) (by kernel_rfl) (by kernel_rfl) (by decide) (fun _ _ _ h => h) (Yields.yieldsIf (Or.inl ⟨by rfl, fun w9 => by (go_simp; first | done | with_reducible rfl | (intro h9; exfalso; omega))⟩)) hS4 ?_
        change wpAnyT _ _ _ _ _ _ _ _ _ (Act.put _ (some 63) _) _; dsimp only [Act.put]; simp only [List.setIfInBounds_toArray, List.set_cons_succ, List.set_cons_zero]
        refine wpAnyT_tail (by kernel_rfl) ?_
        refine wpAny_ready (rs := [20]) (by kernel_rfl) (by simp) ?_
        refine AllReady.cons rfl (fun K hK => ?_) AllReady.nil
        have hD3 := hDc.kept hS4
        have hc9 := (hS4.cell hdlc).trans hdcc
        have hf9 := frozen_heap (cells_of hdc9 hS4 hdlc) 2
        go_simp
        refine hK _ _ ?_
        clear hK K
        try dsimp only [Act.put]
        refine wpAny_done (by kernel_rfl) ?_ _
        go_wp2
        go_ret
        have h9 := own_lowerM hown3 (Nat.le_trans hB hbw.size)
        refine ⟨?_, ?_, ?_⟩
        · rw [← HV9.out, HF.out]; rfl
        · rw [← HQ9.out]; simp only [HF.out, HI.out, Bool.false_eq_true, if_false]; rw [← HIF.out] at h9; exact hD3.setC h9 HIL.out
        · exact grown_trD (grown_one (hbw.trans (hS4.mono hbw.size)) d) (grown_put _ _ _ _)
    have hkl : j < qs.length := by rw [HN.out]; exact hlt
    have hrb := hr.below hbw
    obtain ⟨b3, off3, e3, hbx3, hrg3⟩ := pe_at hrb hkl
    have HE := Lib.hid (List.take_succ_eq_append_getElem hkl)
    have HG := Lib.hid (List.getElem?_eq_getElem hkl)
    obtain ⟨y, hy⟩ : ∃ y, qs[j] = y := ⟨_, rfl⟩
    rw [hy] at hrg3 HE HG
    clear hy hrb
    have hdc : wr.cell? ⟨d, 2, none⟩ = some (.slice (some ⟨b3, off3, none⟩) n cc) := by rw [← e3]; exact hdc
    have d9 : decide ((j : Int) < (n : Int)) = true := decide_eq_true (by omega)
    have d9n : decide (j < n) = true := decide_eq_true hlt
    have n0 : (0 : Int) ≤ (j : Int) := by omega
    have n1 : (j : Int) < (n : Int) := by omega
    have n2' : ((j : Nat) : Int).toNat = j := by omega
    have CLs := fun W => peLess_any y p W
    obtain ⟨r, hr9⟩ : ∃ r, peLess y p = r := ⟨_, rfl⟩
    rw [hr9] at CLs
    have HL := Lib.hid hr9
    clear hr9
    go_upto_region 2 with fail
    refine wp_region_held_drew (S := fun W => Below wr.heap.size wr W) (by kernel_rfl) ((Below.refl _ _).drew) (fun hS0 => ?_)
    refine wpAnyH_take (i := 0) (v := .int .i64 (j : Int)) rfl (by kernel_rfl) (by kernel_rfl) (by kernel_rfl) (fun _ _ _ h => h) (Yields.yieldsIf (Or.inl ⟨by rfl, fun w9 => by (go_simp; first | done | with_reducible rfl | (intro h9; exfalso; omega))⟩)) hS0 ?_
    change wpAnyH _ _ _ _ _ _ _ (Act.put _ (some 6) _) _; dsimp only [Act.put]; simp only [List.setIfInBounds_toArray, List.set_cons_succ, List.set_cons_zero]
    refine wpAnyH_take (i := 1) (v := .pointer (some ⟨d, 0, none⟩)) rfl (by kernel_rfl) (by kernel_rfl) (by kernel_rfl) (fun _ _ _ h => h) (Yields.yieldsIf (Or.inl ⟨by rfl, fun w9 => by (go_simp; first | done | with_reducible rfl | (intro h9; exfalso; omega))⟩)) hS0 ?_
    change wpAnyH _ _ _ _ _ _ _ (Act.put _ (some 7) _) _; dsimp only [Act.put]; simp only [List.setIfInBounds_toArray, List.set_cons_succ, List.set_cons_zero]
    refine wpAnyH_take (i := 2) (v := .pointer (some ⟨d, 0, none⟩)) rfl (by kernel_rfl) (by kernel_rfl) (by kernel_rfl) (fun _ _ _ h => h) (Yields.yieldsIf (Or.inl ⟨by rfl, fun w9 => by (go_simp; first | done | with_reducible rfl | (intro h9; exfalso; omega))⟩)) hS0 ?_
    change wpAnyH _ _ _ _ _ _ _ (Act.put _ (some 8) _) _; dsimp only [Act.put]; simp only [List.setIfInBounds_toArray, List.set_cons_succ, List.set_cons_zero]
    refine wpAnyH_take (i := 3) (v := .pointer (some ⟨d, 2, none⟩)) rfl (by kernel_rfl) (by kernel_rfl) (by kernel_rfl) (fun _ _ _ h => h) (Yields.yieldsIf (Or.inl ⟨by rfl, fun w9 => by (go_simp; first | done | with_reducible rfl | (intro h9; exfalso; omega))⟩)) hS0 ?_
    change wpAnyH _ _ _ _ _ _ _ (Act.put _ (some 9) _) _; dsimp only [Act.put]; simp only [List.setIfInBounds_toArray, List.set_cons_succ, List.set_cons_zero]
    refine wpAnyH_take (i := 4) (v := .slice (some ⟨b3, off3, none⟩) n cc) rfl (by kernel_rfl) (by kernel_rfl) (by kernel_rfl) (fun _ _ _ h => h) (Or.inl ⟨by rfl, fun w9 hS9 => by have hc9 := (hS9.cell hdl).trans hdc; go_simp; try with_reducible rfl⟩) hS0 ?_
    change wpAnyH _ _ _ _ _ _ _ (Act.put _ (some 10) _) _; dsimp only [Act.put]; simp only [List.setIfInBounds_toArray, List.set_cons_succ, List.set_cons_zero]
    refine wpAnyH_take (i := 5) (v := .int .i64 (n : Int)) rfl (by kernel_rfl) (by kernel_rfl) (by kernel_rfl) (fun _ _ _ h => h) (Yields.yieldsIf (Or.inl ⟨by rfl, fun w9 => by (go_simp; first | done | with_reducible rfl | (intro h9; exfalso; omega))⟩)) hS0 ?_
    change wpAnyH _ _ _ _ _ _ _ (Act.put _ (some 11) _) _; dsimp only [Act.put]; simp only [List.setIfInBounds_toArray, List.set_cons_succ, List.set_cons_zero]
    refine wpAnyH_take (i := 6) (v := .bool true) rfl (by kernel_rfl) (by kernel_rfl) (by kernel_rfl) (fun _ _ _ h => h) (Yields.yieldsIf (Or.inl ⟨by rfl, fun w9 => by (go_simp; first | done | with_reducible rfl | (intro h9; exfalso; omega))⟩)) hS0 ?_
    change wpAnyH _ _ _ _ _ _ _ (Act.put _ (some 12) _) _; dsimp only [Act.put]; simp only [List.setIfInBounds_toArray, List.set_cons_succ, List.set_cons_zero]
    refine wpAnyH_take (i := 7) (v := .bool true) rfl (by kernel_rfl) (by kernel_rfl) (by kernel_rfl) (fun _ _ _ h => h) (Yields.yieldsIf (Or.inl ⟨by rfl, fun w9 => by (go_simp; first | done | with_reducible rfl | (intro h9; exfalso; omega))⟩)) hS0 ?_
    change wpAnyH _ _ _ _ _ _ _ (Act.put _ (some 13) _) _; dsimp only [Act.put]; simp only [List.setIfInBounds_toArray, List.set_cons_succ, List.set_cons_zero]
    refine wpAnyH_take (i := 8) (v := .pointer (some ⟨d, 0, none⟩)) rfl (by kernel_rfl) (by kernel_rfl) (by kernel_rfl) (fun _ _ _ h => h) (Yields.yieldsIf (Or.inl ⟨by rfl, fun w9 => by (go_simp; first | done | with_reducible rfl | (intro h9; exfalso; omega))⟩)) hS0 ?_
    change wpAnyH _ _ _ _ _ _ _ (Act.put _ (some 14) _) _; dsimp only [Act.put]; simp only [List.setIfInBounds_toArray, List.set_cons_succ, List.set_cons_zero]
    refine wpAnyH_take (i := 9) (v := .pointer (some ⟨d, 0, none⟩)) rfl (by kernel_rfl) (by kernel_rfl) (by kernel_rfl) (fun _ _ _ h => h) (Yields.yieldsIf (Or.inl ⟨by rfl, fun w9 => by (go_simp; first | done | with_reducible rfl | (intro h9; exfalso; omega))⟩)) hS0 ?_
    change wpAnyH _ _ _ _ _ _ _ (Act.put _ (some 15) _) _; dsimp only [Act.put]; simp only [List.setIfInBounds_toArray, List.set_cons_succ, List.set_cons_zero]
    refine wpAnyH_take (i := 10) (v := .pointer (some ⟨d, 2, none⟩)) rfl (by kernel_rfl) (by kernel_rfl) (by kernel_rfl) (fun _ _ _ h => h) (Yields.yieldsIf (Or.inl ⟨by rfl, fun w9 => by (go_simp; first | done | with_reducible rfl | (intro h9; exfalso; omega))⟩)) hS0 ?_
    change wpAnyH _ _ _ _ _ _ _ (Act.put _ (some 16) _) _; dsimp only [Act.put]; simp only [List.setIfInBounds_toArray, List.set_cons_succ, List.set_cons_zero]
    refine wpAnyH_take (i := 11) (v := .slice (some ⟨b3, off3, none⟩) n cc) rfl (by kernel_rfl) (by kernel_rfl) (by kernel_rfl) (fun _ _ _ h => h) (Or.inl ⟨by rfl, fun w9 hS9 => by have hc9 := (hS9.cell hdl).trans hdc; go_simp; try with_reducible rfl⟩) hS0 ?_
    change wpAnyH _ _ _ _ _ _ _ (Act.put _ (some 17) _) _; dsimp only [Act.put]; simp only [List.setIfInBounds_toArray, List.set_cons_succ, List.set_cons_zero]
    refine wpAnyH_take (i := 12) (v := .int .i64 (j : Int)) rfl (by kernel_rfl) (by kernel_rfl) (by kernel_rfl) (fun _ _ _ h => h) (Yields.yieldsIf (Or.inl ⟨by rfl, fun w9 => by (go_simp; first | done | with_reducible rfl | (intro h9; exfalso; omega))⟩)) hS0 ?_
    change wpAnyH _ _ _ _ _ _ _ (Act.put _ (some 18) _) _; dsimp only [Act.put]; simp only [List.setIfInBounds_toArray, List.set_cons_succ, List.set_cons_zero]
    refine wpAnyH_take (i := 13) (v := .pointer (some ⟨b3, off3 + j * 2, none⟩)) rfl (by kernel_rfl) (by kernel_rfl) (by kernel_rfl) (fun _ _ _ h => h) (Yields.yieldsIf (Or.inl ⟨by rfl, fun w9 => by (go_simp; first | done | with_reducible rfl | (intro h9; exfalso; omega))⟩)) hS0 ?_
    change wpAnyH _ _ _ _ _ _ _ (Act.put _ (some 19) _) _; dsimp only [Act.put]; simp only [List.setIfInBounds_toArray, List.set_cons_succ, List.set_cons_zero]
    refine wpAnyH_take (i := 14) (v := .agg y.row) rfl (by kernel_rfl) (by kernel_rfl) (by kernel_rfl) (fun _ _ _ h => h) (Or.inl ⟨by rfl, fun w9 hS9 => exec_loadPeAt (.tmp 19) rfl b3 (off3 + j * 2) (by first | rfl | simp [Act.eval, Act.put]) y (range_belowS hrg3 hS9 hbx3)⟩) hS0 ?_
    change wpAnyH _ _ _ _ _ _ _ (Act.put _ (some 20) _) _; dsimp only [Act.put]; simp only [List.setIfInBounds_toArray, List.set_cons_succ, List.set_cons_zero]
    refine wpAnyH_take (i := 15) (v := .agg p.row) rfl (by kernel_rfl) (by kernel_rfl) (by kernel_rfl) (fun _ _ _ h => h) (Or.inl ⟨by rfl, fun w9 hS9 => exec_loadPeAt (.tmp 3) rfl w.heap.size 0 (by first | rfl | simp [Act.eval, Act.put]) p (range_belowS (row_range2 hq) hS9 (row_lt hq))⟩) hS0 ?_
    change wpAnyH _ _ _ _ _ _ _ (Act.put _ (some 21) _) _; dsimp only [Act.put]; simp only [List.setIfInBounds_toArray, List.set_cons_succ, List.set_cons_zero]
    refine wpAnyH_ready (rs := [16]) (by kernel_rfl) (by simp) ?_
    refine AllReadyH.cons rfl (fun K hK => ?_) (fun j hj => by cases hj)
    go_simp
    refine (CLs _).mono ?_
    rintro e w8 ⟨rfl, hb8⟩
    have hS1 := hS0.trans (hb8.mono hS0.size)
    refine (Shut.out hK) _ _ hS1 (fun _ => ?_)
    clear hK K
    refine wpAnyH_take (i := 17) (v := .bool r) rfl (by kernel_rfl) (by kernel_rfl) (by kernel_rfl) (fun _ _ _ h => h) (Yields.yieldsIf (Or.inl ⟨by rfl, fun w9 => by (go_simp; first | done | with_reducible rfl | (intro h9; exfalso; omega))⟩)) hS1 ?_
    change wpAnyH _ _ _ _ _ _ _ (Act.put _ (some 23) _) _; dsimp only [Act.put]; simp only [List.setIfInBounds_toArray, List.set_cons_succ, List.set_cons_zero]
    refine wpAnyH_done (by kernel_rfl) ?_ _
    cases r
    · have hI := findIE_of hall (by rw [HN.out]; exact hj) (fun z hz => by rw [HG.out] at hz; cases hz; exact HL.out)
      obtain ⟨q, hq9⟩ : ∃ q, decide (y = p) = q := ⟨_, rfl⟩
      have hF : findBE qs p = q := by unfold findBE; rw [hI, HG.out, ← hq9]; simp
      have HQ := Lib.hid hq9
      have HI := Lib.hid hI
      have HF := Lib.hid hF
      clear hI hF hq9
      go_upto_region 4 with fail
      refine wp_nameE _ (fun X hX => ?_)
      have hbX : Below wr.heap.size wr X := by rw [hX]; exact hS1
      clear hX hS0 hS1
      have hdX := cells_of hd2 hbX (row_lt hd2)
      have hdlX := row_lt hdX
      have hdcX : X.cell? ⟨d, 2, none⟩ = some (.slice ac n cc) := cell_heap hdX 2
      have hqX := cells_of hq hbX (row_lt hq)
      have hdcX : X.cell? ⟨d, 2, none⟩ = some (.slice (some ⟨b3, off3, none⟩) n cc) := by rw [← e3]; exact hdcX
      have hrgX := range_belowS hrg3 hbX hbx3
      have hbxX := Nat.lt_of_lt_of_le hbx3 hbX.size
      refine wp_region_held_drew (S := fun W => Below X.heap.size X W) (by kernel_rfl) ((Below.refl _ _).drew) (fun hS0 => ?_)
      refine wpAnyH_take (i := 0) (v := .int .i64 (j : Int)) rfl (by kernel_rfl) (by kernel_rfl) (by kernel_rfl) (fun _ _ _ h => h) (Yields.yieldsIf (Or.inl ⟨by rfl, fun w9 => by (go_simp; first | done | with_reducible rfl | (intro h9; exfalso; omega))⟩)) hS0 ?_
      change wpAnyH _ _ _ _ _ _ _ (Act.put _ (some 26) _) _; dsimp only [Act.put]; simp only [List.setIfInBounds_toArray, List.set_cons_succ, List.set_cons_zero]
      refine wpAnyH_take (i := 1) (v := .pointer (some ⟨d, 0, none⟩)) rfl (by kernel_rfl) (by kernel_rfl) (by kernel_rfl) (fun _ _ _ h => h) (Yields.yieldsIf (Or.inl ⟨by rfl, fun w9 => by (go_simp; first | done | with_reducible rfl | (intro h9; exfalso; omega))⟩)) hS0 ?_
      change wpAnyH _ _ _ _ _ _ _ (Act.put _ (some 27) _) _; dsimp only [Act.put]; simp only [List.setIfInBounds_toArray, List.set_cons_succ, List.set_cons_zero]
      refine wpAnyH_take (i := 2) (v := .pointer (some ⟨d, 0, none⟩)) rfl (by kernel_rfl) (by kernel_rfl) (by kernel_rfl) (fun _ _ _ h => h) (Yields.yieldsIf (Or.inl ⟨by rfl, fun w9 => by (go_simp; first | done | with_reducible rfl | (intro h9; exfalso; omega))⟩)) hS0 ?_
      change wpAnyH _ _ _ _ _ _ _ (Act.put _ (some 28) _) _; dsimp only [Act.put]; simp only [List.setIfInBounds_toArray, List.set_cons_succ, List.set_cons_zero]
      refine wpAnyH_take (i := 3) (v := .pointer (some ⟨d, 2, none⟩)) rfl (by kernel_rfl) (by kernel_rfl) (by kernel_rfl) (fun _ _ _ h => h) (Yields.yieldsIf (Or.inl ⟨by rfl, fun w9 => by (go_simp; first | done | with_reducible rfl | (intro h9; exfalso; omega))⟩)) hS0 ?_
      change wpAnyH _ _ _ _ _ _ _ (Act.put _ (some 29) _) _; dsimp only [Act.put]; simp only [List.setIfInBounds_toArray, List.set_cons_succ, List.set_cons_zero]
      refine wpAnyH_take (i := 4) (v := .slice (some ⟨b3, off3, none⟩) n cc) rfl (by kernel_rfl) (by kernel_rfl) (by kernel_rfl) (fun _ _ _ h => h) (Or.inl ⟨by rfl, fun w9 hS9 => by have hc9 := (hS9.cell hdlX).trans hdcX; go_simp; try with_reducible rfl⟩) hS0 ?_
      change wpAnyH _ _ _ _ _ _ _ (Act.put _ (some 30) _) _; dsimp only [Act.put]; simp only [List.setIfInBounds_toArray, List.set_cons_succ, List.set_cons_zero]
      refine wpAnyH_take (i := 5) (v := .int .i64 (n : Int)) rfl (by kernel_rfl) (by kernel_rfl) (by kernel_rfl) (fun _ _ _ h => h) (Yields.yieldsIf (Or.inl ⟨by rfl, fun w9 => by (go_simp; first | done | with_reducible rfl | (intro h9; exfalso; omega))⟩)) hS0 ?_
      change wpAnyH _ _ _ _ _ _ _ (Act.put _ (some 31) _) _; dsimp only [Act.put]; simp only [List.setIfInBounds_toArray, List.set_cons_succ, List.set_cons_zero]
      refine wpAnyH_take (i := 6) (v := .bool true) rfl (by kernel_rfl) (by kernel_rfl) (by kernel_rfl) (fun _ _ _ h => h) (Yields.yieldsIf (Or.inl ⟨by rfl, fun w9 => by (go_simp; first | done | with_reducible rfl | (intro h9; exfalso; omega))⟩)) hS0 ?_
      change wpAnyH _ _ _ _ _ _ _ (Act.put _ (some 32) _) _; dsimp only [Act.put]; simp only [List.setIfInBounds_toArray, List.set_cons_succ, List.set_cons_zero]
      refine wpAnyH_take (i := 7) (v := .bool true) rfl (by kernel_rfl) (by kernel_rfl) (by kernel_rfl) (fun _ _ _ h => h) (Yields.yieldsIf (Or.inl ⟨by rfl, fun w9 => by (go_simp; first | done | with_reducible rfl | (intro h9; exfalso; omega))⟩)) hS0 ?_
      change wpAnyH _ _ _ _ _ _ _ (Act.put _ (some 33) _) _; dsimp only [Act.put]; simp only [List.setIfInBounds_toArray, List.set_cons_succ, List.set_cons_zero]
      refine wpAnyH_take (i := 8) (v := .pointer (some ⟨d, 0, none⟩)) rfl (by kernel_rfl) (by kernel_rfl) (by kernel_rfl) (fun _ _ _ h => h) (Yields.yieldsIf (Or.inl ⟨by rfl, fun w9 => by (go_simp; first | done | with_reducible rfl | (intro h9; exfalso; omega))⟩)) hS0 ?_
      change wpAnyH _ _ _ _ _ _ _ (Act.put _ (some 34) _) _; dsimp only [Act.put]; simp only [List.setIfInBounds_toArray, List.set_cons_succ, List.set_cons_zero]
      refine wpAnyH_take (i := 9) (v := .pointer (some ⟨d, 0, none⟩)) rfl (by kernel_rfl) (by kernel_rfl) (by kernel_rfl) (fun _ _ _ h => h) (Yields.yieldsIf (Or.inl ⟨by rfl, fun w9 => by (go_simp; first | done | with_reducible rfl | (intro h9; exfalso; omega))⟩)) hS0 ?_
      change wpAnyH _ _ _ _ _ _ _ (Act.put _ (some 35) _) _; dsimp only [Act.put]; simp only [List.setIfInBounds_toArray, List.set_cons_succ, List.set_cons_zero]
      refine wpAnyH_take (i := 10) (v := .pointer (some ⟨d, 2, none⟩)) rfl (by kernel_rfl) (by kernel_rfl) (by kernel_rfl) (fun _ _ _ h => h) (Yields.yieldsIf (Or.inl ⟨by rfl, fun w9 => by (go_simp; first | done | with_reducible rfl | (intro h9; exfalso; omega))⟩)) hS0 ?_
      change wpAnyH _ _ _ _ _ _ _ (Act.put _ (some 36) _) _; dsimp only [Act.put]; simp only [List.setIfInBounds_toArray, List.set_cons_succ, List.set_cons_zero]
      refine wpAnyH_take (i := 11) (v := .slice (some ⟨b3, off3, none⟩) n cc) rfl (by kernel_rfl) (by kernel_rfl) (by kernel_rfl) (fun _ _ _ h => h) (Or.inl ⟨by rfl, fun w9 hS9 => by have hc9 := (hS9.cell hdlX).trans hdcX; go_simp; try with_reducible rfl⟩) hS0 ?_
      change wpAnyH _ _ _ _ _ _ _ (Act.put _ (some 37) _) _; dsimp only [Act.put]; simp only [List.setIfInBounds_toArray, List.set_cons_succ, List.set_cons_zero]
      refine wpAnyH_take (i := 12) (v := .int .i64 (j : Int)) rfl (by kernel_rfl) (by kernel_rfl) (by kernel_rfl) (fun _ _ _ h => h) (Yields.yieldsIf (Or.inl ⟨by rfl, fun w9 => by (go_simp; first | done | with_reducible rfl | (intro h9; exfalso; omega))⟩)) hS0 ?_
      change wpAnyH _ _ _ _ _ _ _ (Act.put _ (some 38) _) _; dsimp only [Act.put]; simp only [List.setIfInBounds_toArray, List.set_cons_succ, List.set_cons_zero]
      refine wpAnyH_take (i := 13) (v := .pointer (some ⟨b3, off3 + j * 2, none⟩)) rfl (by kernel_rfl) (by kernel_rfl) (by kernel_rfl) (fun _ _ _ h => h) (Yields.yieldsIf (Or.inl ⟨by rfl, fun w9 => by (go_simp; first | done | with_reducible rfl | (intro h9; exfalso; omega))⟩)) hS0 ?_
      change wpAnyH _ _ _ _ _ _ _ (Act.put _ (some 39) _) _; dsimp only [Act.put]; simp only [List.setIfInBounds_toArray, List.set_cons_succ, List.set_cons_zero]
      refine wpAnyH_take (i := 14) (v := .agg y.row) rfl (by kernel_rfl) (by kernel_rfl) (by kernel_rfl) (fun _ _ _ h => h) (Or.inl ⟨by rfl, fun w9 hS9 => exec_loadPeAt (.tmp 39) rfl b3 (off3 + j * 2) (by first | rfl | simp [Act.eval, Act.put]) y (range_belowS hrgX hS9 hbxX)⟩) hS0 ?_
      change wpAnyH _ _ _ _ _ _ _ (Act.put _ (some 40) _) _; dsimp only [Act.put]; simp only [List.setIfInBounds_toArray, List.set_cons_succ, List.set_cons_zero]
      refine wpAnyH_take (i := 15) (v := .agg p.row) rfl (by kernel_rfl) (by kernel_rfl) (by kernel_rfl) (fun _ _ _ h => h) (Or.inl ⟨by rfl, fun w9 hS9 => exec_loadPeAt (.tmp 3) rfl w.heap.size 0 (by first | rfl | simp [Act.eval, Act.put]) p (range_belowS (row_range2 hqX) hS9 (row_lt hqX))⟩) hS0 ?_
      change wpAnyH _ _ _ _ _ _ _ (Act.put _ (some 41) _) _; dsimp only [Act.put]; simp only [List.setIfInBounds_toArray, List.set_cons_succ, List.set_cons_zero]
      refine wpAnyH_take (i := 16) (v := .bool q) rfl (by kernel_rfl) (by kernel_rfl) (by kernel_rfl) (fun _ _ _ h => h) (Or.inl ⟨by rfl, fun w9 hS9 => by rw [← HQ.out]; exact exec_eqPe2 40 41 rfl y p (by first | rfl | simp [Act.eval, Act.put]) (by first | rfl | simp [Act.eval, Act.put])⟩) hS0 ?_
      change wpAnyH _ _ _ _ _ _ _ (Act.put _ (some 42) _) _; dsimp only [Act.put]; simp only [List.setIfInBounds_toArray, List.set_cons_succ, List.set_cons_zero]
      refine wpAnyH_take (i := 17) (v := .bool q) rfl (by kernel_rfl) (by kernel_rfl) (by kernel_rfl) (fun _ _ _ h => h) (Yields.yieldsIf (Or.inl ⟨by rfl, fun w9 => by (go_simp; first | done | with_reducible rfl | (intro h9; exfalso; omega))⟩)) hS0 ?_
      change wpAnyH _ _ _ _ _ _ _ (Act.put _ (some 43) _) _; dsimp only [Act.put]; simp only [List.setIfInBounds_toArray, List.set_cons_succ, List.set_cons_zero]
      refine wpAnyH_done (by kernel_rfl) ?_ _
      cases q
      rotate_left
      · go_wp2
        go_ret
        refine ⟨by rw [← HV9.out, HF.out]; rfl, ?_, ?_⟩
        · rw [← HQ9.out]; simp only [HF.out, if_true]; exact hD.kept (hbw.trans ((hbX.trans (hS0.mono hbX.size)).mono hbw.size))
        · exact grown_one (hbw.trans ((hbX.trans (hS0.mono hbX.size)).mono hbw.size)) d
      clear hdcX
      go_upto_region 6 with fail
      refine wp_nameE _ (fun wc hwc => ?_)
      have hbc : Below X.heap.size X wc := by rw [hwc]; exact hS0
      clear hwc hS0
      have hqc := cells_of hqX hbc (row_lt hqX)
      have hdc9 := cells_of hdX hbc (row_lt hdX)
      have hdlc := row_lt hdc9
      have hdcc : wc.cell? ⟨d, 2, none⟩ = some (.slice ac n cc) := cell_heap hdc9 2
      have hbw := (hbw.trans (hbX.mono hbw.size)).trans (hbc.mono (hbw.trans (hbX.mono hbw.size)).size)
      have hDc := hD.kept hbw
      have hform := own_formD hown
      have hownc := own_kept9 hown hbw
      obtain ⟨_, _, e9, hrc, _⟩ := own_sliceN hownc
      cases e9
      have HTL := Lib.hid (show ((qs.take j).flatMap Pe.L).length = j * 2 by rw [flat_length Pe.L 2 Pe.L_len, List.length_take, Nat.min_eq_left (by rw [HN.out]; exact hj)])
      have HDL := Lib.hid (show ((qs.drop j).flatMap Pe.L).length = (n - j) * 2 by rw [flat_length Pe.L 2 Pe.L_len, List.length_drop, HN.out])
      obtain ⟨L9, hL9⟩ : ∃ m : Nat, j + 1 + (n - j) = m := ⟨_, rfl⟩
      have HL9 := Lib.hid hL9
      have HIL := Lib.hid (show (qs.take j ++ p :: qs.drop j).length = L9 by rw [← hL9]; rw [List.length_append, List.length_cons, List.length_take, List.length_drop, HN.out, Nat.min_eq_left hj]; omega)
      clear hL9
      have HIF := Lib.hid (show (qs.take j ++ p :: qs.drop j).flatMap Pe.L = (qs.take j).flatMap Pe.L ++ p.L ++ (qs.drop j).flatMap Pe.L by rw [List.flatMap_append, List.flatMap_cons, List.append_assoc])
      refine wp_region_tail 20 1 (S := fun W => Below wc.heap.size wc W) (by kernel_rfl) (by rfl) (by decide) (by kernel_rfl) (by kernel_rfl) ((Below.refl _ _).drew) (fun hS0 => ?_)
      refine wpAnyT_take (i := 0) (v := .pointer (some ⟨d, 0, none⟩)) rfl (by kernel_rfl) (by kernel_rfl) (by kernel_rfl) (by decide) (fun _ _ _ h => h) (Yields.yieldsIf (Or.inl ⟨by rfl, fun w9 => by (go_simp; first | done | with_reducible rfl | (intro h9; exfalso; omega))⟩)) hS0 ?_
      change wpAnyT _ _ _ _ _ _ _ _ _ (Act.put _ (some 44) _) _; dsimp only [Act.put]; simp only [List.setIfInBounds_toArray, List.set_cons_succ, List.set_cons_zero]
      refine wpAnyT_take (i := 1) (v := .pointer (some ⟨d, 0, none⟩)) rfl (by kernel_rfl) (by kernel_rfl) (by kernel_rfl) (by decide) (fun _ _ _ h => h) (Yields.yieldsIf (Or.inl ⟨by rfl, fun w9 => by (go_simp; first | done | with_reducible rfl | (intro h9; exfalso; omega))⟩)) hS0 ?_
      change wpAnyT _ _ _ _ _ _ _ _ _ (Act.put _ (some 45) _) _; dsimp only [Act.put]; simp only [List.setIfInBounds_toArray, List.set_cons_succ, List.set_cons_zero]
      refine wpAnyT_take (i := 2) (v := .pointer (some ⟨d, 0, none⟩)) rfl (by kernel_rfl) (by kernel_rfl) (by kernel_rfl) (by decide) (fun _ _ _ h => h) (Yields.yieldsIf (Or.inl ⟨by rfl, fun w9 => by (go_simp; first | done | with_reducible rfl | (intro h9; exfalso; omega))⟩)) hS0 ?_
      change wpAnyT _ _ _ _ _ _ _ _ _ (Act.put _ (some 46) _) _; dsimp only [Act.put]; simp only [List.setIfInBounds_toArray, List.set_cons_succ, List.set_cons_zero]
      refine wpAnyT_take (i := 3) (v := .pointer (some ⟨d, 2, none⟩)) rfl (by kernel_rfl) (by kernel_rfl) (by kernel_rfl) (by decide) (fun _ _ _ h => h) (Yields.yieldsIf (Or.inl ⟨by rfl, fun w9 => by (go_simp; first | done | with_reducible rfl | (intro h9; exfalso; omega))⟩)) hS0 ?_
      change wpAnyT _ _ _ _ _ _ _ _ _ (Act.put _ (some 47) _) _; dsimp only [Act.put]; simp only [List.setIfInBounds_toArray, List.set_cons_succ, List.set_cons_zero]
      refine wpAnyT_take (i := 4) (v := .slice ac n cc) rfl (by kernel_rfl) (by kernel_rfl) (by kernel_rfl) (by decide) (fun _ _ _ h => h) (Or.inl ⟨by rfl, fun w9 hS9 => by have hc9 := (hS9.cell hdlc).trans hdcc; go_simp; try with_reducible rfl⟩) hS0 ?_
      change wpAnyT _ _ _ _ _ _ _ _ _ (Act.put _ (some 48) _) _; dsimp only [Act.put]; simp only [List.setIfInBounds_toArray, List.set_cons_succ, List.set_cons_zero]
      refine wpAnyT_take (i := 5) (v := .int .i64 (j : Int)) rfl (by kernel_rfl) (by kernel_rfl) (by kernel_rfl) (by decide) (fun _ _ _ h => h) (Yields.yieldsIf (Or.inl ⟨by rfl, fun w9 => by (go_simp; first | done | with_reducible rfl | (intro h9; exfalso; omega))⟩)) hS0 ?_
      change wpAnyT _ _ _ _ _ _ _ _ _ (Act.put _ (some 49) _) _; dsimp only [Act.put]; simp only [List.setIfInBounds_toArray, List.set_cons_succ, List.set_cons_zero]
      refine wpAnyT_take (i := 6) (v := .slice ac j cc) rfl (by kernel_rfl) (by kernel_rfl) (by kernel_rfl) (by decide) (fun _ _ _ h => h) (Or.inl ⟨by rfl, fun w9 hS9 => exec_toPe 48 49 rfl (by first | rfl | simp [Act.eval, Act.put]) (by first | rfl | simp [Act.eval, Act.put]) hj hc1 hnone hform⟩) hS0 ?_
      change wpAnyT _ _ _ _ _ _ _ _ _ (Act.put _ (some 50) _) _; dsimp only [Act.put]; simp only [List.setIfInBounds_toArray, List.set_cons_succ, List.set_cons_zero]
      refine wpAnyT_take (i := 8) (v := .agg p.row) rfl (by kernel_rfl) (by kernel_rfl) (by kernel_rfl) (by decide) (fun _ _ _ h => h) (Or.inl ⟨by rfl, fun w9 hS9 => exec_loadPeAt (.tmp 3) rfl w.heap.size 0 (by first | rfl | simp [Act.eval, Act.put]) p (range_belowS (row_range2 hqc) hS9 (row_lt hqc))⟩) hS0 ?_
      change wpAnyT _ _ _ _ _ _ _ _ _ (Act.put _ (some 52) _) _; dsimp only [Act.put]; simp only [List.setIfInBounds_toArray, List.set_cons_succ, List.set_cons_zero]
      refine wpAnyT_take (i := 11) (v := .pointer (some ⟨d, 0, none⟩)) rfl (by kernel_rfl) (by kernel_rfl) (by kernel_rfl) (by decide) (fun _ _ _ h => h) (Yields.yieldsIf (Or.inl ⟨by rfl, fun w9 => by (go_simp; first | done | with_reducible rfl | (intro h9; exfalso; omega))⟩)) hS0 ?_
      change wpAnyT _ _ _ _ _ _ _ _ _ (Act.put _ (some 55) _) _; dsimp only [Act.put]; simp only [List.setIfInBounds_toArray, List.set_cons_succ, List.set_cons_zero]
      refine wpAnyT_take (i := 12) (v := .pointer (some ⟨d, 0, none⟩)) rfl (by kernel_rfl) (by kernel_rfl) (by kernel_rfl) (by decide) (fun _ _ _ h => h) (Yields.yieldsIf (Or.inl ⟨by rfl, fun w9 => by (go_simp; first | done | with_reducible rfl | (intro h9; exfalso; omega))⟩)) hS0 ?_
      change wpAnyT _ _ _ _ _ _ _ _ _ (Act.put _ (some 56) _) _; dsimp only [Act.put]; simp only [List.setIfInBounds_toArray, List.set_cons_succ, List.set_cons_zero]
      refine wpAnyT_take (i := 13) (v := .pointer (some ⟨d, 2, none⟩)) rfl (by kernel_rfl) (by kernel_rfl) (by kernel_rfl) (by decide) (fun _ _ _ h => h) (Yields.yieldsIf (Or.inl ⟨by rfl, fun w9 => by (go_simp; first | done | with_reducible rfl | (intro h9; exfalso; omega))⟩)) hS0 ?_
      change wpAnyT _ _ _ _ _ _ _ _ _ (Act.put _ (some 57) _) _; dsimp only [Act.put]; simp only [List.setIfInBounds_toArray, List.set_cons_succ, List.set_cons_zero]
      refine wpAnyT_take (i := 14) (v := .slice ac n cc) rfl (by kernel_rfl) (by kernel_rfl) (by kernel_rfl) (by decide) (fun _ _ _ h => h) (Or.inl ⟨by rfl, fun w9 hS9 => by have hc9 := (hS9.cell hdlc).trans hdcc; go_simp; try with_reducible rfl⟩) hS0 ?_
      change wpAnyT _ _ _ _ _ _ _ _ _ (Act.put _ (some 58) _) _; dsimp only [Act.put]; simp only [List.setIfInBounds_toArray, List.set_cons_succ, List.set_cons_zero]
      refine wpAnyT_take (i := 15) (v := .int .i64 (j : Int)) rfl (by kernel_rfl) (by kernel_rfl) (by kernel_rfl) (by decide) (fun _ _ _ h => h) (Yields.yieldsIf (Or.inl ⟨by rfl, fun w9 => by (go_simp; first | done | with_reducible rfl | (intro h9; exfalso; omega))⟩)) hS0 ?_
      change wpAnyT _ _ _ _ _ _ _ _ _ (Act.put _ (some 59) _) _; dsimp only [Act.put]; simp only [List.setIfInBounds_toArray, List.set_cons_succ, List.set_cons_zero]
      refine wpAnyT_take (i := 16) (v := .slice (cutA ac cc j 2) (n - j) (cc - j)) rfl (by kernel_rfl) (by kernel_rfl) (by kernel_rfl) (by decide) (fun _ _ _ h => h) (Or.inl ⟨by rfl, fun w9 hS9 => exec_fromPe 58 59 rfl (by first | rfl | simp [Act.eval, Act.put]) (by first | rfl | simp [Act.eval, Act.put]) hj hc1 hnone hform⟩) hS0 ?_
      change wpAnyT _ _ _ _ _ _ _ _ _ (Act.put _ (some 60) _) _; dsimp only [Act.put]; simp only [List.setIfInBounds_toArray, List.set_cons_succ, List.set_cons_zero]
      refine wpAnyT_ready (rs := [7, 9]) (by kernel_rfl) (by simp) (by rfl) ?_
      refine (AllReadyT.cons rfl (fun K hK => ?_) (AllReadyT.cons rfl (fun K hK => ?_) AllReadyT.nil))
      · refine step_append_ownA rfl (.const (.slice none 0 0)) (.tmp 50) 69 rfl wc.heap.size 60 i0 (.agg #[.string ⟨#[]⟩, .int .i64 0]) 2 24 Try.underlying69 hi0 hz0 hzs hzb rfl (by decide) (.slice none 0 0) (0) ([]) (by first | rfl | simp [Act.eval, Act.put]) (World.ownsRow_nil _ _ _ _) (ac) (j) (cc) ((qs.take j).flatMap Pe.L) (by first | rfl | simp [Act.eval, Act.put]) (fun h => by have := hnone h; omega) HTL.out (take_newsD Pe.L_len (hrc.below hS0) j) (by first | exact flat_oneD Pe.L_one _ | exact p.L_one) (by unfold maxLen; omega) (by omega) hS0.size ?_
        intro v1 w1 hown1 hgr1
        simp only [Nat.zero_add, List.nil_append] at hown1
        have hS1 := hS0.trans ((grown_lowM hgr1 (fun k h => by cases h) (Nat.le_refl _)).mono hS0.size)
        refine (Shut.out hK) _ _ hS1 (fun _ => ?_)
        clear hK K
        change wpAnyT _ _ _ _ _ _ _ _ _ (Act.put _ (some 51) _) _; dsimp only [Act.put]; simp only [List.setIfInBounds_toArray, List.set_cons_succ, List.set_cons_zero]
        refine wpAnyT_ready (rs := [9]) (by kernel_rfl) (by simp) (by rfl) ?_
        refine (AllReadyT.cons rfl (fun K hK => ?_) AllReadyT.nil)
        refine step_onePe rfl (.tmp 52) rfl p (by first | rfl | simp [Act.eval, Act.put]) ?_
        have hS2 := hS1.alloc hS1.size (.cells p.row 60)
        have hownA := hown1.alloc (.cells p.row 60)
        have hN := heap_push w1 p.row 60
        refine (Shut.out hK) _ _ hS2 (fun _ => ?_)
        clear hK K
        change wpAnyT _ _ _ _ _ _ _ _ _ (Act.put _ (some 53) _) _; dsimp only [Act.put]; simp only [List.setIfInBounds_toArray, List.set_cons_succ, List.set_cons_zero]
        generalize hg9 : w1.alloc (.cells p.row 60) = wN at hS2 hownA hN ⊢
        clear hg9
        generalize w1.heap.size = g1 at hN ⊢
        have hown1 := hownA
        refine wpAnyT_ready (rs := [10]) (by kernel_rfl) (by simp) (by rfl) ?_
        refine (AllReadyT.cons rfl (fun K hK => ?_) AllReadyT.nil)
        refine step_append_ownA rfl (.tmp 51) (.tmp 53) 69 rfl wc.heap.size 60 i0 (.agg #[.string ⟨#[]⟩, .int .i64 0]) 2 24 Try.underlying69 hi0 hz0 hzs hzb rfl (by decide) (v1) (j) ((qs.take j).flatMap Pe.L) (by first | rfl | simp [Act.eval, Act.put]) hown1 (some ⟨g1, 0, none⟩) (1) (1) (p.L) (by first | rfl | simp [Act.eval, Act.put]) (fun h => by cases h) (by rfl) (some_funD (row_newD hN rfl)) (by first | exact flat_oneD Pe.L_one _ | exact p.L_one) (by unfold maxLen; omega) (by omega) hS2.size ?_
        intro v2 w2 hown2 hgr2
        have hS3 := hS2.trans ((below_grown hown1 hgr2 hS2.size))
        refine (Shut.out hK) _ _ hS3 (fun _ => ?_)
        clear hK K
        change wpAnyT _ _ _ _ _ _ _ _ _ (Act.put _ (some 54) _) _; dsimp only [Act.put]; simp only [List.setIfInBounds_toArray, List.set_cons_succ, List.set_cons_zero]
        refine wpAnyT_ready (rs := [17]) (by kernel_rfl) (by simp) (by rfl) ?_
        refine (AllReadyT.cons rfl (fun K hK => ?_) AllReadyT.nil)
        refine step_append_ownA rfl (.tmp 54) (.tmp 60) 69 rfl wc.heap.size 60 i0 (.agg #[.string ⟨#[]⟩, .int .i64 0]) 2 24 Try.underlying69 hi0 hz0 hzs hzb rfl (by decide) (v2) (j + 1) ((qs.take j).flatMap Pe.L ++ p.L) (by first | rfl | simp [Act.eval, Act.put]) hown2 (cutA ac cc j 2) (n - j) (cc - j) ((qs.drop j).flatMap Pe.L) (by first | rfl | simp [Act.eval, Act.put]) (cutA_none hnone) HDL.out (cut_newsD Pe.L_len (hrc.below hS3) HN.out hc1 hform) (by first | exact flat_oneD Pe.L_one _ | exact p.L_one) (by unfold maxLen; omega) (by omega) hS3.size ?_
        intro v3 w3 hown3 hgr3
        rw [HL9.out] at hown3
        obtain ⟨a9, c9, rfl, _⟩ := own_sliceN hown3
        have hS4 := hS3.trans (below_grown hown2 hgr3 hS3.size)
        refine (Shut.out hK) _ _ hS4 (fun _ => ?_)
        clear hK K
        change wpAnyT _ _ _ _ _ _ _ _ _ (Act.put _ (some 61) _) _; dsimp only [Act.put]; simp only [List.setIfInBounds_toArray, List.set_cons_succ, List.set_cons_zero]
        refine wpAnyT_take (i := 18) (v := .pointer (some ⟨d, 0, none⟩)) rfl (by kernel_rfl) (by kernel_rfl) (by kernel_rfl) (by decide) (fun _ _ _ h => h) (Yields.yieldsIf (Or.inl ⟨by rfl, fun w9 => by (go_simp; first | done | with_reducible rfl | (intro h9; exfalso; omega))⟩)) hS4 ?_
        change wpAnyT _ _ _ _ _ _ _ _ _ (Act.put _ (some 62) _) _; dsimp only [Act.put]; simp only [List.setIfInBounds_toArray, List.set_cons_succ, List.set_cons_zero]
        refine wpAnyT_take (i := 19) (v := .pointer (some ⟨d, 2, none⟩)) rfl (by kernel_rfl) (by kernel_rfl) (by kernel_rfl) (by decide) (fun _ _ _ h => h) (Yields.yieldsIf (Or.inl ⟨by rfl, fun w9 => by (go_simp; first | done | with_reducible rfl | (intro h9; exfalso; omega))⟩)) hS4 ?_
        change wpAnyT _ _ _ _ _ _ _ _ _ (Act.put _ (some 63) _) _; dsimp only [Act.put]; simp only [List.setIfInBounds_toArray, List.set_cons_succ, List.set_cons_zero]
        refine wpAnyT_tail (by kernel_rfl) ?_
        refine wpAny_ready (rs := [20]) (by kernel_rfl) (by simp) ?_
        refine AllReady.cons rfl (fun K hK => ?_) AllReady.nil
        have hD3 := hDc.kept hS4
        have hc9 := (hS4.cell hdlc).trans hdcc
        have hf9 := frozen_heap (cells_of hdc9 hS4 hdlc) 2
        go_simp
        refine hK _ _ ?_
        clear hK K
        try dsimp only [Act.put]
        refine wpAny_done (by kernel_rfl) ?_ _
        go_wp2
        go_ret
        have h9 := own_lowerM hown3 (Nat.le_trans hB hbw.size)
        refine ⟨?_, ?_, ?_⟩
        · rw [← HV9.out, HF.out]; rfl
        · rw [← HQ9.out]; simp only [HF.out, HI.out, Bool.false_eq_true, if_false]; rw [← HIF.out] at h9; exact hD3.setC h9 HIL.out
        · exact grown_trD (grown_one (hbw.trans (hS4.mono hbw.size)) d) (grown_put _ _ _ _)
      · refine step_onePe rfl (.tmp 52) rfl p (by first | rfl | simp [Act.eval, Act.put]) ?_
        have hS1 := hS0.alloc hS0.size (.cells p.row 60)
        have hN := heap_push wc.drew p.row 60
        refine (Shut.out hK) _ _ hS1 (fun _ => ?_)
        clear hK K
        change wpAnyT _ _ _ _ _ _ _ _ _ (Act.put _ (some 53) _) _; dsimp only [Act.put]; simp only [List.setIfInBounds_toArray, List.set_cons_succ, List.set_cons_zero]
        refine wpAnyT_ready (rs := [7]) (by kernel_rfl) (by simp) (by rfl) ?_
        refine (AllReadyT.cons rfl (fun K hK => ?_) AllReadyT.nil)
        refine step_append_ownA rfl (.const (.slice none 0 0)) (.tmp 50) 69 rfl wc.heap.size 60 i0 (.agg #[.string ⟨#[]⟩, .int .i64 0]) 2 24 Try.underlying69 hi0 hz0 hzs hzb rfl (by decide) (.slice none 0 0) (0) ([]) (by first | rfl | simp [Act.eval, Act.put]) (World.ownsRow_nil _ _ _ _) (ac) (j) (cc) ((qs.take j).flatMap Pe.L) (by first | rfl | simp [Act.eval, Act.put]) (fun h => by have := hnone h; omega) HTL.out (take_newsD Pe.L_len (hrc.below hS1) j) (by first | exact flat_oneD Pe.L_one _ | exact p.L_one) (by unfold maxLen; omega) (by omega) hS1.size ?_
        intro v1 wN hown1 hgr1
        simp only [Nat.zero_add, List.nil_append] at hown1
        have hS2 := hS1.trans ((grown_lowM hgr1 (fun k h => by cases h) (Nat.le_refl _)).mono hS1.size)
        have hN := grown_at hgr1 hN (fun q => by cases q)
        refine (Shut.out hK) _ _ hS2 (fun _ => ?_)
        clear hK K
        change wpAnyT _ _ _ _ _ _ _ _ _ (Act.put _ (some 51) _) _; dsimp only [Act.put]; simp only [List.setIfInBounds_toArray, List.set_cons_succ, List.set_cons_zero]
        generalize wc.drew.heap.size = g1 at hN ⊢
        refine wpAnyT_ready (rs := [10]) (by kernel_rfl) (by simp) (by rfl) ?_
        refine (AllReadyT.cons rfl (fun K hK => ?_) AllReadyT.nil)
        refine step_append_ownA rfl (.tmp 51) (.tmp 53) 69 rfl wc.heap.size 60 i0 (.agg #[.string ⟨#[]⟩, .int .i64 0]) 2 24 Try.underlying69 hi0 hz0 hzs hzb rfl (by decide) (v1) (j) ((qs.take j).flatMap Pe.L) (by first | rfl | simp [Act.eval, Act.put]) hown1 (some ⟨g1, 0, none⟩) (1) (1) (p.L) (by first | rfl | simp [Act.eval, Act.put]) (fun h => by cases h) (by rfl) (some_funD (row_newD hN rfl)) (by first | exact flat_oneD Pe.L_one _ | exact p.L_one) (by unfold maxLen; omega) (by omega) hS2.size ?_
        intro v2 w2 hown2 hgr2
        have hS3 := hS2.trans ((below_grown hown1 hgr2 hS2.size))
        refine (Shut.out hK) _ _ hS3 (fun _ => ?_)
        clear hK K
        change wpAnyT _ _ _ _ _ _ _ _ _ (Act.put _ (some 54) _) _; dsimp only [Act.put]; simp only [List.setIfInBounds_toArray, List.set_cons_succ, List.set_cons_zero]
        refine wpAnyT_ready (rs := [17]) (by kernel_rfl) (by simp) (by rfl) ?_
        refine (AllReadyT.cons rfl (fun K hK => ?_) AllReadyT.nil)
        refine step_append_ownA rfl (.tmp 54) (.tmp 60) 69 rfl wc.heap.size 60 i0 (.agg #[.string ⟨#[]⟩, .int .i64 0]) 2 24 Try.underlying69 hi0 hz0 hzs hzb rfl (by decide) (v2) (j + 1) ((qs.take j).flatMap Pe.L ++ p.L) (by first | rfl | simp [Act.eval, Act.put]) hown2 (cutA ac cc j 2) (n - j) (cc - j) ((qs.drop j).flatMap Pe.L) (by first | rfl | simp [Act.eval, Act.put]) (cutA_none hnone) HDL.out (cut_newsD Pe.L_len (hrc.below hS3) HN.out hc1 hform) (by first | exact flat_oneD Pe.L_one _ | exact p.L_one) (by unfold maxLen; omega) (by omega) hS3.size ?_
        intro v3 w3 hown3 hgr3
        rw [HL9.out] at hown3
        obtain ⟨a9, c9, rfl, _⟩ := own_sliceN hown3
        have hS4 := hS3.trans (below_grown hown2 hgr3 hS3.size)
        refine (Shut.out hK) _ _ hS4 (fun _ => ?_)
        clear hK K
        change wpAnyT _ _ _ _ _ _ _ _ _ (Act.put _ (some 61) _) _; dsimp only [Act.put]; simp only [List.setIfInBounds_toArray, List.set_cons_succ, List.set_cons_zero]
        refine wpAnyT_take (i := 18) (v := .pointer (some ⟨d, 0, none⟩)) rfl (by kernel_rfl) (by kernel_rfl) (by kernel_rfl) (by decide) (fun _ _ _ h => h) (Yields.yieldsIf (Or.inl ⟨by rfl, fun w9 => by (go_simp; first | done | with_reducible rfl | (intro h9; exfalso; omega))⟩)) hS4 ?_
        change wpAnyT _ _ _ _ _ _ _ _ _ (Act.put _ (some 62) _) _; dsimp only [Act.put]; simp only [List.setIfInBounds_toArray, List.set_cons_succ, List.set_cons_zero]
        refine wpAnyT_take (i := 19) (v := .pointer (some ⟨d, 2, none⟩)) rfl (by kernel_rfl) (by kernel_rfl) (by kernel_rfl) (by decide) (fun _ _ _ h => h) (Yields.yieldsIf (Or.inl ⟨by rfl, fun w9 => by (go_simp; first | done | with_reducible rfl | (intro h9; exfalso; omega))⟩)) hS4 ?_
        change wpAnyT _ _ _ _ _ _ _ _ _ (Act.put _ (some 63) _) _; dsimp only [Act.put]; simp only [List.setIfInBounds_toArray, List.set_cons_succ, List.set_cons_zero]
        refine wpAnyT_tail (by kernel_rfl) ?_
        refine wpAny_ready (rs := [20]) (by kernel_rfl) (by simp) ?_
        refine AllReady.cons rfl (fun K hK => ?_) AllReady.nil
        have hD3 := hDc.kept hS4
        have hc9 := (hS4.cell hdlc).trans hdcc
        have hf9 := frozen_heap (cells_of hdc9 hS4 hdlc) 2
        go_simp
        refine hK _ _ ?_
        clear hK K
        try dsimp only [Act.put]
        refine wpAny_done (by kernel_rfl) ?_ _
        go_wp2
        go_ret
        have h9 := own_lowerM hown3 (Nat.le_trans hB hbw.size)
        refine ⟨?_, ?_, ?_⟩
        · rw [← HV9.out, HF.out]; rfl
        · rw [← HQ9.out]; simp only [HF.out, HI.out, Bool.false_eq_true, if_false]; rw [← HIF.out] at h9; exact hD3.setC h9 HIL.out
        · exact grown_trD (grown_one (hbw.trans (hS4.mono hbw.size)) d) (grown_put _ _ _ _)
    go_wp2
    go_roundw
    case rel => exact ⟨j + 1, by omega, by go_num, hb2.trans (hS1.mono hb2.size), fun z hz => by rw [HE.out] at hz; rcases List.mem_append.1 hz with hz | hz; exact hall z hz; rw [List.mem_singleton] at hz; subst hz; exact HL.out⟩
    case measure => (simp [intOf]) <;> omega
end Go.Proofs.Ytbckncopdkmoeaa
namespace Go.Proofs.Ytbckncopdkmoeaa
open Go.RowKit
attribute [local go_sem] strV
set_option linter.unusedVariables false
set_option linter.unusedSimpArgs false
theorem wpList_buildG {P : Program} {ops : Array Oper} {rest : List Oper} {op : Oper} {a : Act} {w : World} {Q : Exit → Act → World → Prop} (hgd : op.guard = none) (t : TypeId) (parts : Array (Nat × Operand)) (ho : op.op = .build t parts) {v : Value} (us : Array (Nat × Value)) (hu : (parts.map fun x => (x.1, a.eval x.2)) = us)
    (hrun : (Instr.build t us).run P w = .ok v w) (h : wpList P ops Q rest (a.put op.dst v) w) : wpList P ops Q (op :: rest) a w :=
  wpList_plain hgd fun _ hK => by
    subst hu
    unfold Oper.wp
    simp [execOp, ho, hrun, Result.andThen]
    exact hK _ _ h
theorem own_blockD {w : World} {B d sz n : Nat} {e t : TypeId} {v : Value} {xs : List Value} {R : Array Value} {fz : Nat × Nat} (h : w.ownsRow B e sz v n xs) (hd : w.heap[d]? = some (.cells R t fz)) (hne : t ≠ e) : v.ownBlock ≠ some d := by
  intro q
  rcases h.2 with ⟨rfl, _⟩ | ⟨g, cap, cur, rfl, _, hgg, _⟩
  · simp [Value.ownBlock] at q
  · simp [Value.ownBlock] at q
    subst q
    rw [hd] at hgg
    cases hgg
    exact hne rfl
theorem row_grownD {w w' : World} {a : Option Addr} {n c d : Nat} {xs : List Value} (h : RowAt w a xs) (hg : w.grownBy w' (some d)) (hne : (Value.slice a n c).ownBlock ≠ some d) : RowAt w' a xs := by
  rcases h with h | ⟨b, off, rfl, hb, hc⟩
  · exact .inl h
  · refine .inr ⟨b, off, rfl, Nat.lt_of_lt_of_le hb hg.size, fun j hj => ?_⟩
    have h1 := hc j hj
    rw [← h1]
    refine World.cell?_of_block (hg.block b hb (fun q => hne ?_))
    simpa [Value.ownBlock] using q
theorem step_storeMid {P : Program} {ops : Array Oper} {o : Oper} {a : Act} {w : World} {K : Act → World → Prop} {Q : Exit → Act → World → Prop} {E : Prop} (hg : o.guard = none) (ty : TypeId) (x y : Operand) (ho : o.op = .store ty x y)
    (b off : Nat) (cells : Array Value) (hx : a.eval x = .pointer (some ⟨b, off, none⟩)) (hy : a.eval y = .agg cells) (ht : w.there b off cells.size) (hi : (P.info? ty).map (·.size) = some cells.size) (h1 : cells.all (·.oneCell') = true)
    (h : K (a.put o.dst undef) (w.setCells b off cells.toList)) : if Region.wanted o (yielded ops a.tmps) = true then Oper.wp P o a w K Q else E := by
  have hw : Region.wanted o (yielded ops a.tmps) = true := by simp [Region.wanted, hg]
  rw [if_pos hw]
  exact wp_store_mid ty x y ho b off cells hx hy ht hi h1 h
theorem own_cellsD {w : World} {B sz n c g : Nat} {e : TypeId} {xs : List Value} (h : w.ownsRow B e sz (.slice (some ⟨g, 0, none⟩) n c) n xs) : B ≤ g ∧ ∃ R, w.heap[g]? = some (.cells R e (0, 0)) ∧ n * sz ≤ R.size := by
  rcases h.2 with ⟨e0, _⟩ | ⟨g', cap', cur, e0, hb, hg, hn, hm, hs, ht⟩
  · cases e0
  · injection e0 with e1 _ e3
    injection e1 with e1
    injection e1 with e1
    subst e1; subst e3
    exact ⟨hb, cur, hg, by rw [hs]; exact Nat.mul_le_mul_right sz hn⟩
theorem own_there {w : World} {B sz n c g : Nat} {e : TypeId} {xs : List Value} (h : w.ownsRow B e sz (.slice (some ⟨g, 0, none⟩) n c) n xs) {i : Nat} (hi : i < n) : w.there g (i * sz) sz := by
  obtain ⟨_, R, hR, hs⟩ := own_cellsD h
  intro j hj
  have h1 : i * sz + j < R.size := by
    have := Nat.mul_le_mul_right sz (Nat.succ_le_of_lt hi)
    rw [Nat.succ_mul] at this
    omega
  refine ⟨?_, frozen_heap hR _⟩
  rw [cell_heap hR, Array.getElem?_eq_getElem h1]; rfl
/-- An entry written in its place. -/
theorem DocAt.put {w : World} {B d g n c : Nat} {ks : List Lk} {es : List Ent} {qs : List Pe} {u v : Value} (h : DocAt w B d ks es qs) (hd : w.heap[d]? = some (.cells #[u, .slice (some ⟨g, 0, none⟩) n c, v] 71 (0, 0))) {i : Nat} (hi : i < es.length) (x : Ent) :
    DocAt (w.setCells g (i * 14) x.L) B d ks (es.set i x) qs ∧ w.there g (i * 14) 14 := by
  obtain ⟨h0, ak, ck, ae, ce, ac, cc, h2, h3, h4, h5⟩ := h
  rw [h2] at hd
  simp only [Option.some.injEq, Obj.cells.injEq, Array.mk.injEq, List.cons.injEq, Value.slice.injEq, and_true] at hd
  obtain ⟨_, ⟨rfl, rfl, rfl⟩, _⟩ := hd
  have hg := grown_puts g x.L w (i * 14)
  obtain ⟨_, R, hR, _⟩ := own_cellsD h4
  have hdg : some d ≠ some g := fun q => by
    obtain rfl := Option.some.inj q
    rw [h2] at hR
    simp only [Option.some.injEq, Obj.cells.injEq] at hR
    exact absurd hR.2.1 (by decide)
  have h9 := own_puts x.L h4 (i * 14)
  rw [put_flat Ent.L_len14 (by decide) x es i hi] at h9
  refine ⟨⟨h0, ak, ck, some ⟨g, 0, none⟩, ce, ac, cc, ?_, own_grown h3 hg hR (by decide), ?_, own_grown h5 hg hR (by decide)⟩, own_there h4 hi⟩
  · rw [List.length_set]; exact grown_at hg h2 hdg
  · rw [List.length_set]; exact h9
theorem build_k2 (p : ByteArray) (c : Int) (u : Bool) (s : Int) (W : World) : (Instr.build 81 #[(0, .agg #[.string p, .int .i64 c]), (1, .bool u), (2, .int .i64 s)]).run Try.prog W = .ok (.agg #[.string p, .int .i64 c, .bool u, .int .i64 s]) W := by kernel_rfl
theorem mayR_any (e : Ev) (w : World) (hs : SzE e) : Calls Try.prog 39 #[.agg e.row] w fun x w' => x = .returned (.bool (mayEv e)) ∧ Below w.heap.size w w' := by
  cases e; exact refMayEv_any _ _ _ _ _ _ _ _ _ _ _ _ _ w hs.1 hs.2.1 hs.2.2
theorem markEv_any (x : Ent) (e : Ev) (w : World) : Calls Try.prog 65 #[.agg x.row, .agg e.row] w fun r w' => r = .returned (.agg (markR x e.kd e.ack).row) ∧ Below w.heap.size w w' := by
  cases e; exact refMark_any x _ _ _ _ _ _ _ _ _ _ _ _ _ w
theorem evr_range {w : World} {g : Nat} {e : Ev} (h : w.heap[g]? = some (.cells e.row 76 (0, 0))) : w.rangeAt g 0 e.cells := fun j v hv => by
  rw [Nat.zero_add, cell_heap h]; simpa [Ev.cells] using hv
/-- An event's packet, as a row. -/
def Ev.pkL (e : Ev) : List Value := [.string e.sp, .int .i64 e.sc, .string e.dp, .int .i64 e.dc, .int .i64 e.sq, .string e.da, .int .i64 e.th, .int .i64 e.ta]
theorem evpk_range {w : World} {g : Nat} {e : Ev} (h : w.heap[g]? = some (.cells e.row 76 (0, 0))) : w.rangeAt g 1 e.pkL := fun j v hv => by
  have hj : j < 8 := by have := (List.getElem?_eq_some_iff.1 hv).1; simpa [Ev.pkL] using this
  rw [cell_heap h, Nat.add_comm]
  have h1 : e.row.toList = .int .i64 e.kd :: (e.pkL ++ [.string e.ack, .string e.ep, .int .i64 e.ec, .int .i64 e.ht]) := rfl
  rw [← Array.getElem?_toList, h1, List.getElem?_cons_succ, List.getElem?_append_left (by simpa [Ev.pkL] using hj)]; exact hv
theorem infoPk8 : (Try.prog.info? 74).map (·.size) = some 8 := by kernel_rfl
theorem exec_loadPkV {o : Oper} {a : Act} {w : World} (x : Operand) (ho : o.op = .load 74 x) (b off : Nat) (hx : a.eval x = .pointer (some ⟨b, off, none⟩)) (e : Ev) (hz : w.rangeAt b off e.pkL) : (execOp a.eval o).run Try.prog w = .ok (.value (.agg (pkV e).row)) w := by
  have h1 := run_loadAt_mid (P := Try.prog) w b off 74 e.pkL _ hz Try.underlying74 rfl infoPk8
  simp [execOp, ho, hx, h1, Result.andThen]
  rfl
theorem wpList_loadPkV {ops : Array Oper} {rest : List Oper} {op : Oper} {a : Act} {w : World} {Q : Exit → Act → World → Prop} (x : Operand) (ho : op.op = .load 74 x)
    (b o : Nat) (hx : a.eval x = .pointer (some ⟨b, o, none⟩)) (e : Ev) (hc : w.rangeAt b o e.pkL) (hw : Region.wanted op (yielded ops a.tmps) = true)
    (hK : wpList Try.prog ops Q rest (a.put op.dst (.agg (pkV e).row)) w) : wpList Try.prog ops Q (op :: rest) a w :=
  wpList_load_midH 74 x ho b o hx e.pkL _ hc Try.underlying74 rfl infoPk8 hw hK
theorem wpList_loadPkX {ops : Array Oper} {rest : List Oper} {op : Oper} {a : Act} {w : World} {Q : Exit → Act → World → Prop} (x : Operand) (ho : op.op = .load 74 x)
    (b o : Nat) (hx : a.eval x = .pointer (some ⟨b, o, none⟩)) (e : Ent) (hc : w.rangeAt b o e.pkL) (hw : Region.wanted op (yielded ops a.tmps) = true)
    (hK : wpList Try.prog ops Q rest (a.put op.dst (.agg (pkX e).row)) w) : wpList Try.prog ops Q (op :: rest) a w :=
  wpList_load_midH 74 x ho b o hx e.pkL _ hc Try.underlying74 rfl infoPk8 hw hK
theorem exec_neqPkG {o : Oper} {a : Act} {w : World} (i j : Nat) (ho : o.op = .binOp .neq 74 (.tmp i) (.tmp j) 74) (x y : PkT) (hx : a.eval (.tmp i) = .agg x.row) (hy : a.eval (.tmp j) = .agg y.row) : (execOp a.eval o).run Try.prog w = .ok (.value (.bool (!pkEq x y))) w := by
  obtain ⟨⟨x1, x2⟩, ⟨x3, x4⟩, x5, x6, x7, x8⟩ := x
  obtain ⟨⟨y1, y2⟩, ⟨y3, y4⟩, y5, y6, y7, y8⟩ := y
  simp only [execOp, ho]
  rw [hx, hy]
  by_cases h0 : x1.toList = y1.toList
  rotate_left
  · simp [PkT.row, pkEq, go_sem, Result.andThen, h0]
  by_cases h1 : x2 = y2
  rotate_left
  · simp [PkT.row, pkEq, go_sem, Result.andThen, h0, h1]
  by_cases h2 : x3.toList = y3.toList
  rotate_left
  · simp [PkT.row, pkEq, go_sem, Result.andThen, h0, h1, h2]
  by_cases h3 : x4 = y4
  rotate_left
  · simp [PkT.row, pkEq, go_sem, Result.andThen, h0, h1, h2, h3]
  by_cases h4 : x5 = y5
  rotate_left
  · simp [PkT.row, pkEq, go_sem, Result.andThen, h0, h1, h2, h3, h4]
  by_cases h5 : x6.toList = y6.toList
  rotate_left
  · simp [PkT.row, pkEq, go_sem, Result.andThen, h0, h1, h2, h3, h4, h5]
  by_cases h6 : x7 = y7
  rotate_left
  · simp [PkT.row, pkEq, go_sem, Result.andThen, h0, h1, h2, h3, h4, h5, h6]
  by_cases h7 : x8 = y8
  rotate_left
  · simp [PkT.row, pkEq, go_sem, Result.andThen, h0, h1, h2, h3, h4, h5, h6, h7]
  simp [PkT.row, pkEq, go_sem, Result.andThen, h0, h1, h2, h3, h4, h5, h6, h7]
theorem wpList_neqPkG {ops : Array Oper} {rest : List Oper} {op : Oper} {a : Act} {w : World} {Q : Exit → Act → World → Prop} (hgd : op.guard = none) (i j : Nat) (ho : op.op = .binOp .neq 74 (.tmp i) (.tmp j) 74) (x y : PkT) (hx : a.eval (.tmp i) = .agg x.row) (hy : a.eval (.tmp j) = .agg y.row)
    {u : Bool} (hu : pkEq x y = u) (hK : wpList Try.prog ops Q rest (a.put op.dst (.bool (!u))) w) : wpList Try.prog ops Q (op :: rest) a w :=
  wpList_plain hgd fun _ hk => by
    unfold Oper.wp
    rw [exec_neqPkG i j ho x y hx hy, hu]
    exact hk _ _ hK
/-- What Own says of an event of a packet. -/
theorem own_says {e : Ev} (hM : mayEv e = true) (hp : hasP e.kd = true) : ownB e = true ∧ ownP e = (keyE e).po ∧ ownC e = (keyE e).ch ∧ ownS e = (keyE e).sq := by
  obtain ⟨h1, h2, h3⟩ := own_pk hM hp
  refine ⟨h1, h2, h3, ?_⟩
  have hk : 1 ≤ e.kd ∧ e.kd ≤ 5 := by
    unfold hasP at hp
    rw [Bool.and_eq_true, decide_eq_true_eq, decide_eq_true_eq] at hp
    exact hp
  unfold ownS
  rw [if_pos h1, if_neg (by omega), (key_parts e).2]
/-- New keys, new entries laid into the table; an entry written in place. -/
theorem DocAt.setK {w : World} {B d n : Nat} {ks ks' : List Lk} {es : List Ent} {qs : List Pe} {v : Value} (h : DocAt w B d ks es qs) (hv : w.ownsRow B 81 4 v n (ks'.flatMap Lk.L)) (hn : ks'.length = n) : DocAt (w.setCell ⟨d, 0, none⟩ v) B d ks' es qs := by
  obtain ⟨h0, ak, ck, ae, ce, ac, cc, h2, h3, h4, h5⟩ := h
  obtain ⟨a9, c9, rfl, _⟩ := own_sliceN hv
  subst hn
  have hg := grown_put w d 0 (.slice a9 ks'.length c9)
  exact ⟨h0, a9, c9, ae, ce, ac, cc, cells_put h2 _, own_grown hv hg h2 (by decide), own_grown h4 hg h2 (by decide), own_grown h5 hg h2 (by decide)⟩
theorem DocAt.setE {w : World} {B d n : Nat} {ks : List Lk} {es es' : List Ent} {qs : List Pe} {v : Value} (h : DocAt w B d ks es qs) (hv : w.ownsRow B 82 14 v n (es'.flatMap Ent.L)) (hn : es'.length = n) : DocAt (w.setCell ⟨d, 1, none⟩ v) B d ks es' qs := by
  obtain ⟨h0, ak, ck, ae, ce, ac, cc, h2, h3, h4, h5⟩ := h
  obtain ⟨a9, c9, rfl, _⟩ := own_sliceN hv
  subst hn
  have hg := grown_put w d 1 (.slice a9 es'.length c9)
  exact ⟨h0, ak, ck, a9, c9, ac, cc, cells_put h2 _, own_grown h3 hg h2 (by decide), own_grown hv hg h2 (by decide), own_grown h5 hg h2 (by decide)⟩
theorem Try.infoLk3 : (Try.prog.info? 81).map (fun i => (i.zero, i.size, i.bytes)) = some (some (.agg #[.string ⟨#[]⟩, .int .i64 0, .bool false, .int .i64 0]), 4, 40) := by kernel_rfl
theorem Try.infoEn3 : (Try.prog.info? 82).map (fun i => (i.zero, i.size, i.bytes)) = some (some (.agg zeroEnt.row), 14, 112) := by kernel_rfl
theorem one_lk (h : Lk) (W : World) : (Instr.buildSlice 67 1 #[(0, .agg h.row)]).run Try.prog W = .ok (.slice (some ⟨W.heap.size, 0, none⟩) 1 1) (W.alloc (.cells h.row 81)) := by kernel_rfl
theorem one_en (h : Ent) (W : World) : (Instr.buildSlice 68 1 #[(0, .agg h.row)]).run Try.prog W = .ok (.slice (some ⟨W.heap.size, 0, none⟩) 1 1) (W.alloc (.cells h.row 82)) := by kernel_rfl
theorem step_oneLk {ops : Array Oper} {o : Oper} {a : Act} {w : World} {K : Act → World → Prop} {Q : Exit → Act → World → Prop} {E : Prop} (hgd : o.guard = none) (x : Operand) (ho : o.op = .buildSlice 67 1 #[(0, x)]) (h : Lk) (hx : a.eval x = .agg h.row)
    (hK : K (a.put o.dst (.slice (some ⟨w.heap.size, 0, none⟩) 1 1)) (w.alloc (.cells h.row 81))) :
    if Region.wanted o (yielded ops a.tmps) = true then Oper.wp Try.prog o a w K Q else E := by
  have hw : Region.wanted o (yielded ops a.tmps) = true := by simp [Region.wanted, hgd]
  rw [if_pos hw]
  unfold Oper.wp
  simp [execOp, ho, hx, one_lk h w, Result.andThen]
  exact hK
theorem step_oneEn {ops : Array Oper} {o : Oper} {a : Act} {w : World} {K : Act → World → Prop} {Q : Exit → Act → World → Prop} {E : Prop} (hgd : o.guard = none) (x : Operand) (ho : o.op = .buildSlice 68 1 #[(0, x)]) (h : Ent) (hx : a.eval x = .agg h.row)
    (hK : K (a.put o.dst (.slice (some ⟨w.heap.size, 0, none⟩) 1 1)) (w.alloc (.cells h.row 82))) :
    if Region.wanted o (yielded ops a.tmps) = true then Oper.wp Try.prog o a w K Q else E := by
  have hw : Region.wanted o (yielded ops a.tmps) = true := by simp [Region.wanted, hgd]
  rw [if_pos hw]
  unfold Oper.wp
  simp [execOp, ho, hx, one_en h w, Result.andThen]
  exact hK
theorem exec_loadEnt2 {o : Oper} {a : Act} {w : World} (x : Operand) (ho : o.op = .load 82 x) (b off : Nat) (hx : a.eval x = .pointer (some ⟨b, off, none⟩)) (e : Ent) (hz : w.rangeAt b off e.L) : (execOp a.eval o).run Try.prog w = .ok (.value (.agg e.row)) w := by
  have h1 := run_loadAt_mid (P := Try.prog) w b off 82 e.L _ hz Try.underlying82 rfl (infoEnt2_row e)
  simp [execOp, ho, hx, h1, Result.andThen]
  rfl
theorem exec_buildEn {o : Oper} {a : Act} {w : World} (x : Nat) (ho : o.op = .build 82 #[(0, (.tmp x))]) (e : Ev) (hx : a.eval (.tmp x) = .agg (pkV e).row) : (execOp a.eval o).run Try.prog w = .ok (.value (.agg (entP zeroEnt e).row)) w := by
  have h1 : (Instr.build 82 #[(0, .agg (pkV e).row)]).run Try.prog w = .ok (.agg (entP zeroEnt e).row) w := by cases e; kernel_rfl
  simp [execOp, ho, hx, h1, Result.andThen]
end Go.Proofs.Ytbckncopdkmoeaa
namespace Go.Proofs.Ytbckncopdkmoeaa
open Go.RowKit
attribute [local go_sem] strV
set_option linter.unusedVariables false
set_option linter.unusedSimpArgs false
set_option maxRecDepth 100000 in
set_option maxHeartbeats 6400000 in
theorem refFoldNo_any (d : Nat) (e : Ev) (w : World) (hs : SzE e) (hM : mayEv e = false) :
    Calls Try.prog 33 #[.pointer (some ⟨d, 0, none⟩), .agg e.row] w fun r w' => r = .returned (.int .i64 1) ∧ Below w.heap.size w w' := by
  have CM := fun W => mayR_any e W hs
  rw [hM] at CM
  have hq0 := heap_push w e.row 76
  have hb0 : Below w.heap.size w (w.alloc (.cells e.row 76)) := (Below.refl _ _).alloc (Nat.le_refl _) _
  go_enter Try.func33, Try.ntmps33
  go_wp2_with (first | (refine (wpList_loadEvR (.tmp 3) rfl w.heap.size 0 rfl e (evr_range hq0) (by rfl) ?_)) | (go_at_call 39; refine (CM _).mono ?_; rintro e9 w1 ⟨rfl, hb1⟩; have hq1 := cells_of hq0 hb1 (row_lt hq0); have hbel := hb0.trans (hb1.mono hb0.size)))
  go_ret
  exact ⟨rfl, hbel⟩
set_option maxRecDepth 100000 in
set_option maxHeartbeats 6400000 in
theorem refFoldUp_any (d : Nat) (e : Ev) (w : World) (hs : SzE e) (hM : mayEv e = true) (hk : e.kd = 7) :
    Calls Try.prog 33 #[.pointer (some ⟨d, 0, none⟩), .agg e.row] w fun r w' => r = .returned (.int .i64 0) ∧ Below w.heap.size w w' := by
  have HKD := Lib.hid hk
  clear hk
  have CM := fun W => mayR_any e W hs
  rw [hM] at CM
  have hq0 := heap_push w e.row 76
  have hb0 : Below w.heap.size w (w.alloc (.cells e.row 76)) := (Below.refl _ _).alloc (Nat.le_refl _) _
  go_enter Try.func33, Try.ntmps33
  go_upto_region 3 with (first | (refine (wpList_loadEvR (.tmp 3) rfl w.heap.size 0 rfl e (evr_range hq0) (by rfl) ?_)) | (go_at_call 39; refine (CM _).mono ?_; rintro e9 w1 ⟨rfl, hb1⟩; have hq1 := cells_of hq0 hb1 (row_lt hq0); have hbel := hb0.trans (hb1.mono hb0.size)))
  have q0 : w1.cell? ⟨w.heap.size, 0, none⟩ = some (.int .i64 7) := by rw [← HKD.out]; exact cell_heap hq1 0
  go_wp2
  go_ret
  exact ⟨rfl, hbel⟩
set_option maxRecDepth 100000 in
set_option maxHeartbeats 6400000 in
theorem refFoldCl_any (B d : Nat) (ks : List Lk) (es : List Ent) (qs : List Pe) (e : Ev) (w : World) (hs : SzE e) (hM : mayEv e = true) (hk : e.kd = 6) (hD : DocAt w B d ks es qs) (hm : qs.length ≤ 1000) (hB : B ≤ w.heap.size) :
    Calls Try.prog 33 #[.pointer (some ⟨d, 0, none⟩), .agg e.row] w fun r w' => r = .returned (.int .i64 (if findBE qs (endE e) = true then 8 else 0)) ∧ DocAt w' B d ks es (if findBE qs (endE e) = true then qs else qs.take (findIE qs (endE e)) ++ endE e :: qs.drop (findIE qs (endE e))) ∧ w.grownBy w' (some d) := by
  have HKD := Lib.hid hk
  clear hk
  obtain ⟨V, hV⟩ : ∃ v, (if findBE qs (endE e) = true then (8 : Int) else 0) = v := ⟨_, rfl⟩
  obtain ⟨Q, hQ⟩ : ∃ q, (if findBE qs (endE e) = true then qs else qs.take (findIE qs (endE e)) ++ endE e :: qs.drop (findIE qs (endE e))) = q := ⟨_, rfl⟩
  rw [hV, hQ]
  have HV := Lib.hid hV
  have HQ := Lib.hid hQ
  clear hV hQ
  have CM := fun W => mayR_any e W hs
  rw [hM] at CM
  have hq0 := heap_push w e.row 76
  have hb0 : Below w.heap.size w (w.alloc (.cells e.row 76)) := (Below.refl _ _).alloc (Nat.le_refl _) _
  go_enter Try.func33, Try.ntmps33
  go_upto_region 3 with (first | (refine (wpList_loadEvR (.tmp 3) rfl w.heap.size 0 rfl e (evr_range hq0) (by rfl) ?_)) | (go_at_call 39; refine (CM _).mono ?_; rintro e9 w1 ⟨rfl, hb1⟩; have hq1 := cells_of hq0 hb1 (row_lt hq0); have hbel := hb0.trans (hb1.mono hb0.size)))
  have q0 : w1.cell? ⟨w.heap.size, 0, none⟩ = some (.int .i64 6) := by rw [← HKD.out]; exact cell_heap hq1 0
  have q10 : w1.cell? ⟨w.heap.size, 10, none⟩ = some (.string e.ep) := cell_heap hq1 10
  have q11 : w1.cell? ⟨w.heap.size, 11, none⟩ = some (.int .i64 e.ec) := cell_heap hq1 11
  have CC := refClose_any B d ks es qs (endE e) w1 (hD.kept hbel) hm (Nat.le_trans hB hbel.size)
  rw [HV.out, HQ.out] at CC
  unfold endE at CC
  simp only [Pe.row] at CC
  go_wp2_with (go_at_call 63; refine CC.mono ?_; rintro e9 w2 ⟨rfl, hD2, hg2⟩)
  go_ret
  exact ⟨rfl, hD2, grown_trD (grown_one hbel d) hg2⟩
end Go.Proofs.Ytbckncopdkmoeaa
