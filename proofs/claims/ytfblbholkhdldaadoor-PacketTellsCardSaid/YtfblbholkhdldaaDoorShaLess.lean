/- ShaLess, walked. -/
import Derived.Test.YtfblbholkhdldaaDoorLess
import Derived.Test.YtfblbholkhdldaaDoorRefTextS
import Derived.Test.YtfblbholkhdldaaDoorHashEq
import Derived.Deep.MidRow
import Derived.WalkKit
import Derived.ProofKit
import Derived.Handy
import Derived.Below
import Derived.Lib.Hide
import Derived.IntWalk
import Derived.Outline
import Derived.WalkLawsBesides
import Derived.WalkSpells
namespace Go.Proofs.YtfblbholkhdldaaDoor
open Go.RowKit
attribute [local go_sem] strV
set_option linter.unusedVariables false
/-- A whole hash is loaded, in whatever world beyond W. -/
theorem load_hash {W : World} {g : Nat} {q : List UInt8} (hg : W.heap[g]? = some (.cells (hrow q) 26 (0, 0))) (hq : q.length = 32) (n : Beyond W) :
    (Instr.loadAt 26 (.pointer (some ⟨g, 0, none⟩))).run Tryd.prog n.x = .ok (.agg (hrow q)) n.x := by
  have hg2 := cells_of hg n.h (Array.getElem?_eq_some_iff.1 hg).1
  have hl : (Lib.byteCells q).length = 32 := by rw [Lib.byteCells_length]; exact hq
  exact run_loadAt_mid (P := Tryd.prog) n.x g 0 26 (Lib.byteCells q) _ (rangeAt_row5 hg2) Tryd.underlying26 rfl (by rw [hl]; kernel_rfl)
theorem quiet_load {P : Program} {o : Oper} {a : Act} {C : World → Prop} {K : Act → Prop} {v : Value} (t : TypeId) (p : Operand) {ad : Value} (hop : o.op = Op.load t p) (hp : a.eval p = ad)
    (hl : ∀ w, C w → (Instr.loadAt t ad).run P w = .ok v w) (h : K (a.put o.dst v)) : o.quiet P a C K := by
  refine ⟨v, fun w hw => ?_, h⟩
  unfold Oper.quietAt
  have := hl w hw
  simp [execOp, hop, hp, this, Result.andThen, Oper.quietUpon]
  try exact hw
theorem wpList_loadRowG {P : Program} {w : World} {ops : Array Oper} {rest : List Oper} {o : Oper} {a : Act} {Q : Exit → Act → World → Prop}
    (p : Operand) (t : TypeId) (hop : o.op = Op.load t p) {g : Nat} {Z : Array Value} {n : Nat} {e : TypeId} (hu : P.underlying t = some (.array n e)) (hi : (P.info? t).map (·.size) = some Z.size)
    (hp : a.eval p = .pointer (some ⟨g, 0, none⟩)) (hz : w.heap[g]? = some (.cells Z t (0, 0))) (hw : Region.wanted o (yielded ops a.tmps) = true)
    (h : wpList P ops Q rest (a.put o.dst (.agg Z)) w) : wpList P ops Q (o :: rest) a w := by
  have hrun : (Instr.loadAt t (.pointer (some ⟨g, 0, none⟩))).run P w = .ok (.agg Z) w := by
    simp only [Instr.loadAt, Instr.sureAddr, Sem.run_bind, Sem.run_pure, Result.andThen]
    exact run_loadVar_row _ _ t t Z (0, 0) _ hz hu rfl hi
  unfold wpList
  rw [if_pos hw]
  refine .inl ?_
  unfold Oper.wp
  simp [execOp, hop, hp, hrun, Result.andThen]
  exact h
theorem str_less (q r : List UInt8) : Op.bytesLess (⟨q.toArray⟩ : ByteArray).toList (⟨r.toArray⟩ : ByteArray).toList = Op.bytesLess q r := by
  rw [ByteArray.toList_eq, ByteArray.toList_eq]
set_option maxRecDepth 100000 in
set_option maxHeartbeats 3200000 in
theorem refLess_any (q r : List UInt8) (w : World) (hq : q.length = 32) (hr : r.length = 32) :
    Calls Tryd.prog 27 #[.agg (hrow q), .agg (hrow r)] w fun e w' => e = .returned (.bool (Op.bytesLess q r)) ∧ Below w.heap.size w w' := by
  have hsl := str_less q r
  have g0 : ((w.alloc (.cells (hrow q) 26)).alloc (.cells (hrow r) 26)).heap[w.heap.size]? = some (.cells (hrow q) 26 (0, 0)) := by
    show ((w.heap.push _).push _)[w.heap.size]? = _
    rw [Array.getElem?_push_lt (by simp), ← Array.getElem?_eq_getElem (by simp), Array.getElem?_push_size]
  have g1 : ((w.alloc (.cells (hrow q) 26)).alloc (.cells (hrow r) 26)).heap[w.heap.size + 1]? = some (.cells (hrow r) 26 (0, 0)) := by
    show ((w.heap.push _).push _)[w.heap.size + 1]? = _
    rw [show w.heap.size + 1 = (w.heap.push (Obj.cells (hrow q) 26 (0, 0))).size by simp, Array.getElem?_push_size]
  have hbA : Below w.heap.size w ((w.alloc (.cells (hrow q) 26)).alloc (.cells (hrow r) 26)) := Below.alloc (Below.alloc (Below.refl _ _) (Nat.le_refl _) _) (by simp) _
  go_enter Tryd.func27, Tryd.ntmps27
  go_upto_region 1 with fail
  refine wp_nameE _ (fun W hX => ?_)
  have y0 : W.heap[w.heap.size]? = some (.cells (hrow q) 26 (0, 0)) := by rw [hX]; exact g0
  have y1 : W.heap[w.heap.size + 1]? = some (.cells (hrow r) 26 (0, 0)) := by rw [hX]; exact g1
  have hbel : Below w.heap.size w W := by rw [hX]; exact hbA
  clear hX g0 g1 hbA
  have l0 := fun n => load_hash y0 hq n
  have l1 := fun n => load_hash y1 hr n
  refine wp_region_below (by kernel_rfl) (by kernel_rfl) ?_
  repeat (first | (go_big_quiet_want; refine quiet_load (v := .agg (hrow q)) 26 (.tmp 2) rfl (by rfl) (by rintro _ ⟨n, rfl⟩; exact l0 n) ?_; simp only [Act.put, List.setIfInBounds_toArray, List.set_cons_succ, List.set_cons_zero]; go_big_quiet_on) | (go_big_quiet_want; refine quiet_load (v := .agg (hrow r)) 26 (.tmp 3) rfl (by rfl) (by rintro _ ⟨n, rfl⟩; exact l1 n) ?_; simp only [Act.put, List.setIfInBounds_toArray, List.set_cons_succ, List.set_cons_zero]; go_big_quiet_on) | go_big_quiet_step (first | (go_at_call 21; with_reducible exact quiet_below (refText_any _ q hq)) | (go_at_call 21; with_reducible exact quiet_below (refText_any _ r hr))))
  intro w9 hw9
  have hb9 := beyond_below hw9
  go_wp2
  go_ret
  exact ⟨by first | (rw [← hsl]; rfl) | (rw [← hsl]; simp), hbel.trans (hb9.mono hbel.size)⟩
set_option maxRecDepth 100000 in
set_option maxHeartbeats 12800000 in
theorem walkShaLess (q r s : List UInt8) (w : World) (hW : SW w) (hq : q.length = 32) (hr : r.length = 32) (hs : s.length = 32) :
    Calls Tryd.prog 6 #[.agg (hrow q), .agg (hrow r), .agg (hrow s)] w fun e w' => e = .returned (.bool true) ∧ Below w.heap.size w w' := by
  have A0 : ∀ w : World, (((w.alloc (.cells (hrow q) 26)).alloc (.cells (hrow r) 26)).alloc (.cells (hrow s) 26)).heap[w.heap.size]? = some (.cells (hrow q) 26 (0, 0)) := fun w => by
    show (((w.heap.push _).push _).push _)[w.heap.size]? = _
    rw [Array.getElem?_push_lt (by simp; omega), ← Array.getElem?_eq_getElem (by simp; omega), Array.getElem?_push_lt (by simp), ← Array.getElem?_eq_getElem (by simp), Array.getElem?_push_size]
  have A1 : ∀ w : World, (((w.alloc (.cells (hrow q) 26)).alloc (.cells (hrow r) 26)).alloc (.cells (hrow s) 26)).heap[w.heap.size + 1]? = some (.cells (hrow r) 26 (0, 0)) := fun w => by
    show (((w.heap.push _).push _).push _)[w.heap.size + 1]? = _
    rw [Array.getElem?_push_lt (by simp), ← Array.getElem?_eq_getElem (by simp), show w.heap.size + 1 = (w.heap.push (Obj.cells (hrow q) 26 (0, 0))).size by simp, Array.getElem?_push_size]
  have A2 : ∀ w : World, (((w.alloc (.cells (hrow q) 26)).alloc (.cells (hrow r) 26)).alloc (.cells (hrow s) 26)).heap[w.heap.size + 2]? = some (.cells (hrow s) 26 (0, 0)) := fun w => by
    show (((w.heap.push _).push _).push _)[w.heap.size + 2]? = _
    rw [show w.heap.size + 2 = ((w.heap.push (Obj.cells (hrow q) 26 (0, 0))).push (Obj.cells (hrow r) 26 (0, 0))).size by simp, Array.getElem?_push_size]
  have hbA : Below w.heap.size w (((w.alloc (.cells (hrow q) 26)).alloc (.cells (hrow r) 26)).alloc (.cells (hrow s) 26)) := Below.alloc (Below.alloc (Below.alloc (Below.refl _ _) (Nat.le_refl _) _) (by simp) _) (by simp; omega) _
  have g0 := A0 w; have g1 := A1 w; have g2 := A2 w
  clear A0 A1 A2
  have zq : (hrow q).size = 32 := by rw [hrow_size]; exact hq
  have zr : (hrow r).size = 32 := by rw [hrow_size]; exact hr
  have zs : (hrow s).size = 32 := by rw [hrow_size]; exact hs
  have Eqq := less_irr q
  go_enter Tryd.func6, Tryd.ntmps6
  go_upto_region 1 with fail
  refine wp_nameE _ (fun W1 hX => ?_)
  have y0 : W1.heap[w.heap.size]? = some (.cells (hrow q) 26 (0, 0)) := by rw [hX]; exact g0
  have y1 : W1.heap[w.heap.size + 1]? = some (.cells (hrow r) 26 (0, 0)) := by rw [hX]; exact g1
  have y2 : W1.heap[w.heap.size + 2]? = some (.cells (hrow s) 26 (0, 0)) := by rw [hX]; exact g2
  have hbel : Below w.heap.size w W1 := by rw [hX]; exact hbA
  have hW := hW.below hbel
  clear hX g0 g1 g2 hbA
  go_upto_region 3 with (go_at_call 15; refine (first2_any _ hW).mono ?_; rintro e W ⟨rfl, hb⟩)
  have y0 := cells_of y0 hb (Array.getElem?_eq_some_iff.1 y0).1
  have y1 := cells_of y1 hb (Array.getElem?_eq_some_iff.1 y1).1
  have y2 := cells_of y2 hb (Array.getElem?_eq_some_iff.1 y2).1
  have hbel := hbel.trans (hb.mono hbel.size)
  clear hb hW
  have l0 := fun n => load_hash y0 hq n
  have l1 := fun n => load_hash y1 hr n
  cases Eqr : Op.bytesLess q r
  · cases Erq : Op.bytesLess r q
    · have hqr := less_tri q r Eqr Erq
      have hEQ : ∀ V : World, (Op.equalIn 10000 26 (.agg (hrow q)) (.agg (hrow r))).run Tryd.prog V = .ok true V := fun V => by
        have := run_equal_hash V 26 q r hq hr Tryd.underlying26 Tryd.underlying5 (by kernel_rfl)
        rw [this]; congr 1; simp [hqr]
      clear hqr
      have Cqr : ∀ n : Beyond W, Calls Tryd.prog 26 #[.agg (hrow q), .agg (hrow r)] n.x fun e w' => e = .returned (.bool false) ∧ Below n.x.heap.size n.x w' := fun n => by have := less_any q r n.x hq hr; rw [Eqr] at this; exact this
      have Cqrr : ∀ n : Beyond W, Calls Tryd.prog 27 #[.agg (hrow q), .agg (hrow r)] n.x fun e w' => e = .returned (.bool false) ∧ Below n.x.heap.size n.x w' := fun n => by have := refLess_any q r n.x hq hr; rw [Eqr] at this; exact this
      have Cqq : ∀ n : Beyond W, Calls Tryd.prog 26 #[.agg (hrow q), .agg (hrow q)] n.x fun e w' => e = .returned (.bool false) ∧ Below n.x.heap.size n.x w' := fun n => by have := less_any q q n.x hq hq; rw [Eqq] at this; exact this
      have Crq : ∀ n : Beyond W, Calls Tryd.prog 26 #[.agg (hrow r), .agg (hrow q)] n.x fun e w' => e = .returned (.bool false) ∧ Below n.x.heap.size n.x w' := fun n => by have := less_any r q n.x hr hq; rw [Erq] at this; exact this
      have hb0 := hbel
      refine wp_region_below (by kernel_rfl) (by kernel_rfl) ?_
      repeat (first | (go_big_quiet_want; refine quiet_load (v := .agg (hrow q)) 26 (.tmp 3) rfl (by rfl) (by rintro _ ⟨n, rfl⟩; exact l0 n) ?_; simp only [Act.put, List.setIfInBounds_toArray, List.set_cons_succ, List.set_cons_zero]; go_big_quiet_on) | (go_big_quiet_want; refine quiet_load (v := .agg (hrow r)) 26 (.tmp 4) rfl (by rfl) (by rintro _ ⟨n, rfl⟩; exact l1 n) ?_; simp only [Act.put, List.setIfInBounds_toArray, List.set_cons_succ, List.set_cons_zero]; go_big_quiet_on) | go_big_quiet_step (first | (go_at_call 26; with_reducible exact quiet_below (Cqr _)) | (go_at_call 26; with_reducible exact quiet_below (Cqq _)) | (go_at_call 26; with_reducible exact quiet_below (Crq _)) | (go_at_call 27; with_reducible exact quiet_below (Cqrr _))))
      intro w9 hw9
      have hb := beyond_below hw9
      have y0 := cells_of y0 hb (Array.getElem?_eq_some_iff.1 y0).1
      have y1 := cells_of y1 hb (Array.getElem?_eq_some_iff.1 y1).1
      have y2 := cells_of y2 hb (Array.getElem?_eq_some_iff.1 y2).1
      have hbel := hbel.trans (hb.mono hbel.size)
      clear hb0 hw9 hb Cqr Cqrr Cqq Crq l0 l1 hEQ
      go_upto_region 5 with fail
      have Dqr : ∀ V : World, Calls Tryd.prog 26 #[.agg (hrow q), .agg (hrow r)] V fun e w' => e = .returned (.bool (Op.bytesLess q r)) ∧ Below V.heap.size V w' := fun V => less_any q r V hq hr
      simp only [Eqr] at Dqr
      go_wp2_with (first | (refine wpList_loadRowG (.tmp 3) 26 rfl Tryd.underlying26 (by rw [zq]; kernel_rfl) rfl y0 (by rfl) ?_) | (refine wpList_loadRowG (.tmp 4) 26 rfl Tryd.underlying26 (by rw [zr]; kernel_rfl) rfl y1 (by rfl) ?_) | (refine wpList_loadRowG (.tmp 5) 26 rfl Tryd.underlying26 (by rw [zs]; kernel_rfl) rfl y2 (by rfl) ?_) | (go_at_call 26; with_reducible refine (Dqr _).mono ?_; rintro e w5 ⟨rfl, hb⟩; have y0 := cells_of y0 hb (Array.getElem?_eq_some_iff.1 y0).1; have y1 := cells_of y1 hb (Array.getElem?_eq_some_iff.1 y1).1; have y2 := cells_of y2 hb (Array.getElem?_eq_some_iff.1 y2).1; have hbel := hbel.trans (hb.mono hbel.size)))
      go_ret
      exact ⟨rfl, hbel⟩
    · have hne : q ≠ r := fun e => by rw [e, less_irr] at Erq; cases Erq
      have hEQ : ∀ V : World, (Op.equalIn 10000 26 (.agg (hrow q)) (.agg (hrow r))).run Tryd.prog V = .ok false V := fun V => by
        have := run_equal_hash V 26 q r hq hr Tryd.underlying26 Tryd.underlying5 (by kernel_rfl)
        rw [this]; congr 1; simp [hne]
      clear hne
      have Cqr : ∀ n : Beyond W, Calls Tryd.prog 26 #[.agg (hrow q), .agg (hrow r)] n.x fun e w' => e = .returned (.bool false) ∧ Below n.x.heap.size n.x w' := fun n => by have := less_any q r n.x hq hr; rw [Eqr] at this; exact this
      have Cqrr : ∀ n : Beyond W, Calls Tryd.prog 27 #[.agg (hrow q), .agg (hrow r)] n.x fun e w' => e = .returned (.bool false) ∧ Below n.x.heap.size n.x w' := fun n => by have := refLess_any q r n.x hq hr; rw [Eqr] at this; exact this
      have Cqq : ∀ n : Beyond W, Calls Tryd.prog 26 #[.agg (hrow q), .agg (hrow q)] n.x fun e w' => e = .returned (.bool false) ∧ Below n.x.heap.size n.x w' := fun n => by have := less_any q q n.x hq hq; rw [Eqq] at this; exact this
      have Crq : ∀ n : Beyond W, Calls Tryd.prog 26 #[.agg (hrow r), .agg (hrow q)] n.x fun e w' => e = .returned (.bool true) ∧ Below n.x.heap.size n.x w' := fun n => by have := less_any r q n.x hr hq; rw [Erq] at this; exact this
      have hb0 := hbel
      refine wp_region_below (by kernel_rfl) (by kernel_rfl) ?_
      repeat (first | (go_big_quiet_want; refine quiet_load (v := .agg (hrow q)) 26 (.tmp 3) rfl (by rfl) (by rintro _ ⟨n, rfl⟩; exact l0 n) ?_; simp only [Act.put, List.setIfInBounds_toArray, List.set_cons_succ, List.set_cons_zero]; go_big_quiet_on) | (go_big_quiet_want; refine quiet_load (v := .agg (hrow r)) 26 (.tmp 4) rfl (by rfl) (by rintro _ ⟨n, rfl⟩; exact l1 n) ?_; simp only [Act.put, List.setIfInBounds_toArray, List.set_cons_succ, List.set_cons_zero]; go_big_quiet_on) | go_big_quiet_step (first | (go_at_call 26; with_reducible exact quiet_below (Cqr _)) | (go_at_call 26; with_reducible exact quiet_below (Cqq _)) | (go_at_call 26; with_reducible exact quiet_below (Crq _)) | (go_at_call 27; with_reducible exact quiet_below (Cqrr _))))
      intro w9 hw9
      have hb := beyond_below hw9
      have y0 := cells_of y0 hb (Array.getElem?_eq_some_iff.1 y0).1
      have y1 := cells_of y1 hb (Array.getElem?_eq_some_iff.1 y1).1
      have y2 := cells_of y2 hb (Array.getElem?_eq_some_iff.1 y2).1
      have hbel := hbel.trans (hb.mono hbel.size)
      clear hb0 hw9 hb Cqr Cqrr Cqq Crq l0 l1 hEQ
      go_upto_region 5 with fail
      have Dqr : ∀ V : World, Calls Tryd.prog 26 #[.agg (hrow q), .agg (hrow r)] V fun e w' => e = .returned (.bool (Op.bytesLess q r)) ∧ Below V.heap.size V w' := fun V => less_any q r V hq hr
      simp only [Eqr] at Dqr
      go_wp2_with (first | (refine wpList_loadRowG (.tmp 3) 26 rfl Tryd.underlying26 (by rw [zq]; kernel_rfl) rfl y0 (by rfl) ?_) | (refine wpList_loadRowG (.tmp 4) 26 rfl Tryd.underlying26 (by rw [zr]; kernel_rfl) rfl y1 (by rfl) ?_) | (refine wpList_loadRowG (.tmp 5) 26 rfl Tryd.underlying26 (by rw [zs]; kernel_rfl) rfl y2 (by rfl) ?_) | (go_at_call 26; with_reducible refine (Dqr _).mono ?_; rintro e w5 ⟨rfl, hb⟩; have y0 := cells_of y0 hb (Array.getElem?_eq_some_iff.1 y0).1; have y1 := cells_of y1 hb (Array.getElem?_eq_some_iff.1 y1).1; have y2 := cells_of y2 hb (Array.getElem?_eq_some_iff.1 y2).1; have hbel := hbel.trans (hb.mono hbel.size)))
      go_ret
      exact ⟨rfl, hbel⟩
  · have Erq := less_asym q r Eqr
    have hne : q ≠ r := fun e => by rw [e, less_irr] at Eqr; cases Eqr
    have hEQ : ∀ V : World, (Op.equalIn 10000 26 (.agg (hrow q)) (.agg (hrow r))).run Tryd.prog V = .ok false V := fun V => by
      have := run_equal_hash V 26 q r hq hr Tryd.underlying26 Tryd.underlying5 (by kernel_rfl)
      rw [this]; congr 1; simp [hne]
    clear hne
    have Cqr : ∀ n : Beyond W, Calls Tryd.prog 26 #[.agg (hrow q), .agg (hrow r)] n.x fun e w' => e = .returned (.bool true) ∧ Below n.x.heap.size n.x w' := fun n => by have := less_any q r n.x hq hr; rw [Eqr] at this; exact this
    have Cqrr : ∀ n : Beyond W, Calls Tryd.prog 27 #[.agg (hrow q), .agg (hrow r)] n.x fun e w' => e = .returned (.bool true) ∧ Below n.x.heap.size n.x w' := fun n => by have := refLess_any q r n.x hq hr; rw [Eqr] at this; exact this
    have Cqq : ∀ n : Beyond W, Calls Tryd.prog 26 #[.agg (hrow q), .agg (hrow q)] n.x fun e w' => e = .returned (.bool false) ∧ Below n.x.heap.size n.x w' := fun n => by have := less_any q q n.x hq hq; rw [Eqq] at this; exact this
    have Crq : ∀ n : Beyond W, Calls Tryd.prog 26 #[.agg (hrow r), .agg (hrow q)] n.x fun e w' => e = .returned (.bool false) ∧ Below n.x.heap.size n.x w' := fun n => by have := less_any r q n.x hr hq; rw [Erq] at this; exact this
    have hb0 := hbel
    refine wp_region_below (by kernel_rfl) (by kernel_rfl) ?_
    repeat (first | (go_big_quiet_want; refine quiet_load (v := .agg (hrow q)) 26 (.tmp 3) rfl (by rfl) (by rintro _ ⟨n, rfl⟩; exact l0 n) ?_; simp only [Act.put, List.setIfInBounds_toArray, List.set_cons_succ, List.set_cons_zero]; go_big_quiet_on) | (go_big_quiet_want; refine quiet_load (v := .agg (hrow r)) 26 (.tmp 4) rfl (by rfl) (by rintro _ ⟨n, rfl⟩; exact l1 n) ?_; simp only [Act.put, List.setIfInBounds_toArray, List.set_cons_succ, List.set_cons_zero]; go_big_quiet_on) | go_big_quiet_step (first | (go_at_call 26; with_reducible exact quiet_below (Cqr _)) | (go_at_call 26; with_reducible exact quiet_below (Cqq _)) | (go_at_call 26; with_reducible exact quiet_below (Crq _)) | (go_at_call 27; with_reducible exact quiet_below (Cqrr _))))
    intro w9 hw9
    have hb := beyond_below hw9
    have y0 := cells_of y0 hb (Array.getElem?_eq_some_iff.1 y0).1
    have y1 := cells_of y1 hb (Array.getElem?_eq_some_iff.1 y1).1
    have y2 := cells_of y2 hb (Array.getElem?_eq_some_iff.1 y2).1
    have hbel := hbel.trans (hb.mono hbel.size)
    clear hb0 hw9 hb Cqr Cqrr Cqq Crq l0 l1 hEQ
    go_upto_region 5 with fail
    have Dqr : ∀ V : World, Calls Tryd.prog 26 #[.agg (hrow q), .agg (hrow r)] V fun e w' => e = .returned (.bool (Op.bytesLess q r)) ∧ Below V.heap.size V w' := fun V => less_any q r V hq hr
    simp only [Eqr] at Dqr
    cases Ers : Op.bytesLess r s
    · have Drs : ∀ V : World, Calls Tryd.prog 26 #[.agg (hrow r), .agg (hrow s)] V fun e w' => e = .returned (.bool (Op.bytesLess r s)) ∧ Below V.heap.size V w' := fun V => less_any r s V hr hs
      simp only [Ers] at Drs
      go_wp2_with (first | (refine wpList_loadRowG (.tmp 3) 26 rfl Tryd.underlying26 (by rw [zq]; kernel_rfl) rfl y0 (by rfl) ?_) | (refine wpList_loadRowG (.tmp 4) 26 rfl Tryd.underlying26 (by rw [zr]; kernel_rfl) rfl y1 (by rfl) ?_) | (refine wpList_loadRowG (.tmp 5) 26 rfl Tryd.underlying26 (by rw [zs]; kernel_rfl) rfl y2 (by rfl) ?_) | (go_at_call 26; with_reducible refine (Dqr _).mono ?_; rintro e w5 ⟨rfl, hb⟩; have y0 := cells_of y0 hb (Array.getElem?_eq_some_iff.1 y0).1; have y1 := cells_of y1 hb (Array.getElem?_eq_some_iff.1 y1).1; have y2 := cells_of y2 hb (Array.getElem?_eq_some_iff.1 y2).1; have hbel := hbel.trans (hb.mono hbel.size)) | (go_at_call 26; with_reducible refine (Drs _).mono ?_; rintro e w5 ⟨rfl, hb⟩; have y0 := cells_of y0 hb (Array.getElem?_eq_some_iff.1 y0).1; have y1 := cells_of y1 hb (Array.getElem?_eq_some_iff.1 y1).1; have y2 := cells_of y2 hb (Array.getElem?_eq_some_iff.1 y2).1; have hbel := hbel.trans (hb.mono hbel.size)))
      go_ret
      exact ⟨rfl, hbel⟩
    · have Eqs := less_trans q r s Eqr Ers
      have Drs : ∀ V : World, Calls Tryd.prog 26 #[.agg (hrow r), .agg (hrow s)] V fun e w' => e = .returned (.bool (Op.bytesLess r s)) ∧ Below V.heap.size V w' := fun V => less_any r s V hr hs
      simp only [Ers] at Drs
      have Dqs : ∀ V : World, Calls Tryd.prog 26 #[.agg (hrow q), .agg (hrow s)] V fun e w' => e = .returned (.bool (Op.bytesLess q s)) ∧ Below V.heap.size V w' := fun V => less_any q s V hq hs
      simp only [Eqs] at Dqs
      go_wp2_with (first | (refine wpList_loadRowG (.tmp 3) 26 rfl Tryd.underlying26 (by rw [zq]; kernel_rfl) rfl y0 (by rfl) ?_) | (refine wpList_loadRowG (.tmp 4) 26 rfl Tryd.underlying26 (by rw [zr]; kernel_rfl) rfl y1 (by rfl) ?_) | (refine wpList_loadRowG (.tmp 5) 26 rfl Tryd.underlying26 (by rw [zs]; kernel_rfl) rfl y2 (by rfl) ?_) | (go_at_call 26; with_reducible refine (Dqr _).mono ?_; rintro e w5 ⟨rfl, hb⟩; have y0 := cells_of y0 hb (Array.getElem?_eq_some_iff.1 y0).1; have y1 := cells_of y1 hb (Array.getElem?_eq_some_iff.1 y1).1; have y2 := cells_of y2 hb (Array.getElem?_eq_some_iff.1 y2).1; have hbel := hbel.trans (hb.mono hbel.size)) | (go_at_call 26; with_reducible refine (Drs _).mono ?_; rintro e w5 ⟨rfl, hb⟩; have y0 := cells_of y0 hb (Array.getElem?_eq_some_iff.1 y0).1; have y1 := cells_of y1 hb (Array.getElem?_eq_some_iff.1 y1).1; have y2 := cells_of y2 hb (Array.getElem?_eq_some_iff.1 y2).1; have hbel := hbel.trans (hb.mono hbel.size)) | (go_at_call 26; with_reducible refine (Dqs _).mono ?_; rintro e w5 ⟨rfl, hb⟩; have y0 := cells_of y0 hb (Array.getElem?_eq_some_iff.1 y0).1; have y1 := cells_of y1 hb (Array.getElem?_eq_some_iff.1 y1).1; have y2 := cells_of y2 hb (Array.getElem?_eq_some_iff.1 y2).1; have hbel := hbel.trans (hb.mono hbel.size)))
      go_ret
      exact ⟨rfl, hbel⟩
end Go.Proofs.YtfblbholkhdldaaDoor
