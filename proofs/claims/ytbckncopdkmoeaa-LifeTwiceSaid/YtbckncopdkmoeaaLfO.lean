/- The order of a life.Table's keys. -/
import Derived.Test.YtbckncopdkmoeaaEv1
import Derived.Test.YtbckncopdkmoeaaSt1
import Derived.Test.YtbckncopdkmoeaaLfK
import Derived.Sort.Grow
import Derived.Shelf.SlSortCmp.QuietGrown
import Derived.WalkKit
import Derived.ProofKit
import Derived.Handy
import Derived.Below
import Derived.Lib.Hide
import Derived.IntWalk
import Derived.Outline
import Derived.WalkLawsBesides
import Derived.WalkSpells
namespace Go.Proofs.Ytbckncopdkmoeaa
open Go.RowKit
attribute [local go_sem] strV
set_option linter.unusedVariables false
open Go.Sort
set_option linter.unusedSimpArgs false
theorem ba_toList_inj {p q : ByteArray} (h : p.toList = q.toList) : p = q := by
  rw [ByteArray.toList_eq, ByteArray.toList_eq] at h
  exact ByteArray.ext (Array.toList_inj.1 h)
theorem lessE_irr (p : ByteArray) (c : Int) : lessE p c p c = false := by unfold lessE; simp
theorem lessE_tri {p q : ByteArray} {c d : Int} (h1 : lessE p c q d = false) (h2 : lessE q d p c = false) : p = q ∧ c = d := by
  unfold lessE at h1 h2
  by_cases h : p = q
  · subst h
    simp at h1 h2
    exact ⟨rfl, by omega⟩
  · rw [if_neg h] at h1
    rw [if_neg (fun e => h e.symm)] at h2
    exact absurd (ba_toList_inj (less_tri _ _ h1 h2)) h
theorem lessE_trans {p q r : ByteArray} {c d e : Int} (h1 : lessE p c q d = true) (h2 : lessE q d r e = true) : lessE p c r e = true := by
  unfold lessE at h1 h2 ⊢
  by_cases h : p = q
  · subst h
    by_cases h' : p = r
    · subst h'
      simp at h1 h2 ⊢
      omega
    · rw [if_neg h'] at h2 ⊢
      exact h2
  · rw [if_neg h] at h1
    by_cases h' : q = r
    · subst h'
      rw [if_neg h]; exact h1
    · rw [if_neg h'] at h2
      by_cases h3 : p = r
      · subst h3
        rw [less_asym _ _ h1] at h2; cases h2
      · rw [if_neg h3]; exact less_trans _ _ _ h1 h2
/-- The order of keys. -/
def lkLess (x y : Lk) : Bool := if x.po = y.po ∧ x.ch = y.ch then (if x.ou = y.ou then decide (x.sq < y.sq) else y.ou) else lessE x.po x.ch y.po y.ch
theorem lkLess_irr (x : Lk) : lkLess x x = false := by unfold lkLess; simp
theorem lkLess_tri {x y : Lk} (h1 : lkLess x y = false) (h2 : lkLess y x = false) : x = y := by
  unfold lkLess at h1 h2
  by_cases h : x.po = y.po ∧ x.ch = y.ch
  · rw [if_pos h] at h1
    rw [if_pos ⟨h.1.symm, h.2.symm⟩] at h2
    by_cases ho : x.ou = y.ou
    · rw [if_pos ho] at h1
      rw [if_pos ho.symm] at h2
      simp at h1 h2
      cases x; cases y
      obtain ⟨ha, hb⟩ := h
      simp at ha hb ho h1 h2
      subst ha; subst hb; subst ho
      congr 1; omega
    · rw [if_neg ho] at h1
      rw [if_neg (fun e => ho e.symm)] at h2
      rw [h1, h2] at ho; exact absurd rfl ho
  · rw [if_neg h] at h1
    rw [if_neg (fun e => h ⟨e.1.symm, e.2.symm⟩)] at h2
    exact absurd (lessE_tri h1 h2) h
theorem lkLess_trans {x y z : Lk} (h1 : lkLess x y = true) (h2 : lkLess y z = true) : lkLess x z = true := by
  unfold lkLess at h1 h2 ⊢
  by_cases h : x.po = y.po ∧ x.ch = y.ch
  · rw [if_pos h] at h1
    obtain ⟨ha, hb⟩ := h
    rw [← ha, ← hb] at h2
    by_cases h' : x.po = z.po ∧ x.ch = z.ch
    · rw [if_pos h'] at h2 ⊢
      cases x; cases y; cases z
      rename_i o1 _ _ _ o2 _ _ _ o3 _
      simp only at h1 h2 ⊢
      cases o1 <;> cases o2 <;> cases o3 <;> simp at h1 h2 ⊢ <;> omega
    · rw [if_neg h'] at h2 ⊢
      exact h2
  · rw [if_neg h] at h1
    by_cases h' : y.po = z.po ∧ y.ch = z.ch
    · obtain ⟨ha, hb⟩ := h'
      rw [← ha, ← hb, if_neg h]; exact h1
    · rw [if_neg h'] at h2
      by_cases h3 : x.po = z.po ∧ x.ch = z.ch
      · obtain ⟨ha, hb⟩ := h3
        rw [← ha, ← hb] at h2
        have := lessE_trans h1 h2
        rw [lessE_irr] at this; cases this
      · rw [if_neg h3]; exact lessE_trans h1 h2
/-- The program's comparison of keys. -/
def cfE (p : ByteArray) (c : Int) (q : ByteArray) (d : Int) : Int := if lessE p c q d = true then -1 else if lessE q d p c = true then 1 else 0
def lkCmp (x y : Lk) : Int := if x.po = y.po ∧ x.ch = y.ch then (if x.ou = y.ou then (if x.sq < y.sq then -1 else if y.sq < x.sq then 1 else 0) else if y.ou = true then -1 else 1) else cfE x.po x.ch y.po y.ch
theorem lkCmp_lt (x y : Lk) : decide (lkCmp x y < 0) = lkLess x y := by
  unfold lkCmp lkLess cfE
  by_cases h : x.po = y.po ∧ x.ch = y.ch
  · rw [if_pos h, if_pos h]
    by_cases ho : x.ou = y.ou
    · rw [if_pos ho, if_pos ho]
      by_cases h1 : x.sq < y.sq
      · simp [h1]
      · by_cases h2 : y.sq < x.sq <;> simp [h1, h2]
    · rw [if_neg ho, if_neg ho]
      cases y.ou <;> simp
  · rw [if_neg h, if_neg h]
    cases h1 : lessE x.po x.ch y.po y.ch
    · cases h2 : lessE y.po y.ch x.po x.ch <;> simp
    · simp
theorem cfE_lt (p : ByteArray) (c : Int) (q : ByteArray) (d : Int) : decide (cfE p c q d < 0) = lessE p c q d := by
  unfold cfE
  cases h1 : lessE p c q d
  · cases h2 : lessE q d p c <;> simp
  · simp
/-- A world that has only grown. -/
def Grw (w w' : World) : Prop := ∃ q os, w' = grow (w.drewN q) os
theorem Grw.refl (w : World) : Grw w w := ⟨0, #[], by rw [grow_empty]; rfl⟩
theorem Grw.alloc {w w' : World} (h : Grw w w') (o : Obj) : Grw w (w'.alloc o) := by
  obtain ⟨q, os, rfl⟩ := h
  exact ⟨q, os ++ #[o], by rw [alloc_eq_grow, grow_grow]⟩
theorem Grw.trans {a b c : World} (h : Grw a b) (k : Grw b c) : Grw a c := by
  obtain ⟨q, os, rfl⟩ := h
  obtain ⟨q2, os2, rfl⟩ := k
  refine ⟨q + q2, os ++ os2, ?_⟩
  show grow (grow ((a.drewN q).drewN q2) os) os2 = _
  rw [grow_grow, World.drewN_drewN]
theorem Grw.below {w w' : World} (h : Grw w w') : Below w.heap.size w w' := by
  obtain ⟨q, os, rfl⟩ := h
  refine ⟨rfl, rfl, rfl, by simp [World.drewN], fun k hk => ?_⟩
  exact heap_grow_old (w.drewN q) os hk
set_option maxRecDepth 100000 in
set_option maxHeartbeats 1600000 in
theorem lessG_any (p : ByteArray) (c : Int) (q : ByteArray) (d : Int) (w : World) :
    Calls Try.prog 101 #[.agg #[.string p, .int .i64 c], .agg #[.string q, .int .i64 d]] w fun e w' => e = .returned (.bool (lessE p c q d)) ∧ Grw w w' := by
  by_cases hpq : p = q
  · subst hpq
    obtain ⟨x, hx⟩ : ∃ x, decide (c < d) = x := ⟨_, rfl⟩
    have HR : Hid (lessE p c p d = x) := Lib.hid (by unfold lessE; rw [if_pos rfl]; exact hx)
    cases x
    all_goals
      go_enter Try.func101, Try.ntmps101
      go_wp2
      go_ret
      exact ⟨by rw [HR.out]; first | done | rfl, by repeat (first | assumption | exact Grw.refl _ | refine Grw.alloc ?_ _)⟩
  · have e1 : (p.toList == q.toList) = false := by rw [ByteArray.toList_eq, ByteArray.toList_eq, beq_eq_false_iff_ne]; exact fun e => hpq (ByteArray.ext (Array.toList_inj.1 e))
    obtain ⟨x, hx⟩ : ∃ x, Op.bytesLess p.toList q.toList = x := ⟨_, rfl⟩
    have HR : Hid (lessE p c q d = x) := Lib.hid (by unfold lessE; rw [if_neg hpq]; exact hx)
    cases x
    all_goals
      go_enter Try.func101, Try.ntmps101
      go_wp2
      go_ret
      exact ⟨by rw [HR.out]; first | done | rfl, by repeat (first | assumption | exact Grw.refl _ | refine Grw.alloc ?_ _)⟩
set_option maxRecDepth 100000 in
set_option maxHeartbeats 1600000 in
theorem order_any (p : ByteArray) (c : Int) (q : ByteArray) (d : Int) (w : World) :
    Calls Try.prog 73 #[.agg #[.string p, .int .i64 c], .agg #[.string q, .int .i64 d]] w fun e w' => e = .returned (.int .i64 (cfE p c q d)) ∧ Grw w w' := by
  have C1 := fun W => lessG_any p c q d W
  have C2 := fun W => lessG_any q d p c W
  obtain ⟨x, hx⟩ : ∃ x, lessE p c q d = x := ⟨_, rfl⟩
  obtain ⟨y, hy⟩ : ∃ y, lessE q d p c = y := ⟨_, rfl⟩
  have HR : Hid (cfE p c q d = if x = true then -1 else if y = true then 1 else 0) := Lib.hid (by unfold cfE; rw [hx, hy])
  rw [hx] at C1
  rw [hy] at C2
  clear hx hy
  have g0 : Grw w ((w.alloc (.cells #[.string p, .int .i64 c] 60)).alloc (.cells #[.string q, .int .i64 d] 60)) := ((Grw.refl w).alloc _).alloc _
  go_enter Try.func73, Try.ntmps73
  go_upto_region 1 with fail
  refine wp_nameE _ (fun wr hwr => ?_)
  have hq1 : wr.heap[w.heap.size]? = some (.cells #[.string p, .int .i64 c] 60 (0, 0)) := by rw [hwr]; exact al2_0 w _ _
  have hq2 : wr.heap[w.heap.size + 1]? = some (.cells #[.string q, .int .i64 d] 60 (0, 0)) := by rw [hwr]; exact al2_1 w _ _
  have hg : Grw w wr := by rw [hwr]; exact g0
  clear hwr g0
  have p1 := cell_heap hq1 0; have p2 := cell_heap hq1 1; have p3 := cell_heap hq2 0; have p4 := cell_heap hq2 1
  cases x
  · go_upto_region 3 with (go_at_call 101; refine (C1 _).mono ?_; rintro e w1 ⟨rfl, hg1⟩; have hq1 := cells_of hq1 hg1.below (row_lt hq1); have hq2 := cells_of hq2 hg1.below (row_lt hq2); have hg := hg.trans hg1; clear hg1; have p1 := cell_heap hq1 0; have p2 := cell_heap hq1 1; have p3 := cell_heap hq2 0; have p4 := cell_heap hq2 1)
    cases y
    all_goals
      go_wp2_with (go_at_call 101; refine (C2 _).mono ?_; rintro e w2 ⟨rfl, hg2⟩)
      go_ret
      exact ⟨by rw [HR.out]; first | done | rfl, hg.trans hg2⟩
  · go_wp2_with (go_at_call 101; refine (C1 _).mono ?_; rintro e w1 ⟨rfl, hg1⟩)
    go_ret
    exact ⟨by rw [HR.out]; first | done | rfl, hg.trans hg1⟩
/-- cmp.Compare of numbers. -/
def cmpZ (a b : Int) : Int := if a < b then -1 else if b < a then 1 else 0
theorem isNaN_any (a : Int) (w : World) : Calls Try.prog 102 #[.int .i64 a] w fun e w' => e = .returned (.bool false) ∧ w' = w := by
  go_enter Try.func102, Try.ntmps102
  go_wp2
  go_ret
  exact ⟨by first | rfl | simp, rfl⟩
set_option maxRecDepth 100000 in
theorem cmpZ_any (a b : Int) (w : World) : Calls Try.prog 74 #[.int .i64 a, .int .i64 b] w fun e w' => e = .returned (.int .i64 (cmpZ a b)) ∧ w' = w := by
  obtain ⟨x, hx⟩ : ∃ x, decide (a < b) = x := ⟨_, rfl⟩
  obtain ⟨y, hy⟩ : ∃ y, decide (b < a) = y := ⟨_, rfl⟩
  have HR : Hid (cmpZ a b = if x = true then -1 else if y = true then 1 else 0) := Lib.hid (by unfold cmpZ; rw [← hx, ← hy]; simp)
  cases x <;> cases y
  all_goals
    go_enter Try.func74, Try.ntmps74
    go_wp2_with (go_at_call 102; refine (isNaN_any _ _).mono ?_; rintro e w1 ⟨rfl, hw1⟩; obtain rfl : _ = w1 := hw1.symm)
    go_ret
    exact ⟨by rw [HR.out]; first | done | rfl, rfl⟩
set_option maxRecDepth 100000 in
set_option maxHeartbeats 3200000 in
theorem keysCmp_any (x y : Lk) (w : World) :
    Calls Try.prog 72 #[.agg x.row, .agg y.row] w fun e w' => e = .returned (.int .i64 (lkCmp x y)) ∧ Grw w w' := by
  obtain ⟨xp, xc, xo, xs⟩ := x
  obtain ⟨yp, yc, yo, ys⟩ := y
  unfold Lk.row
  have CO := fun W => order_any xp xc yp yc W
  have CZ := fun W => cmpZ_any xs ys W
  obtain ⟨r, hr⟩ : ∃ r, lkCmp ⟨xp, xc, xo, xs⟩ ⟨yp, yc, yo, ys⟩ = r := ⟨_, rfl⟩
  rw [hr]
  unfold lkCmp at hr
  simp only at hr
  have hg : Grw w ((w.alloc (.cells #[.string xp, .int .i64 xc, .bool xo, .int .i64 xs] 62)).alloc (.cells #[.string yp, .int .i64 yc, .bool yo, .int .i64 ys] 62)) := ((Grw.refl w).alloc _).alloc _
  by_cases h : xp = yp ∧ xc = yc
  · obtain ⟨rfl, rfl⟩ := h
    rw [if_pos ⟨rfl, rfl⟩] at hr
    have HR : Hid ((if xo = yo then cmpZ xs ys else if yo = true then -1 else 1) = r) := Lib.hid hr
    clear hr CO
    generalize cmpZ xs ys = z at CZ HR
    cases xo <;> cases yo
    all_goals
      go_enter Try.func72, Try.ntmps72
      go_wp2_with (go_at_call 74; refine (CZ _).mono ?_; rintro e w1 ⟨rfl, hw1⟩; obtain rfl : _ = w1 := hw1.symm)
      go_ret
      exact ⟨by rw [← HR.out]; first | done | rfl, hg⟩
  · rw [if_neg h] at hr
    obtain rfl := hr
    generalize cfE xp xc yp yc = z at CO
    clear CZ
    by_cases hp : xp = yp
    · have e1 : (xc == yc) = false := by rw [beq_eq_false_iff_ne]; exact fun e => h ⟨hp, e⟩
      subst hp
      clear h
      go_enter Try.func72, Try.ntmps72
      go_wp2_with (go_at_call 73; refine (CO _).mono ?_; rintro e w1 ⟨rfl, hg1⟩)
      go_ret
      exact ⟨rfl, hg.trans hg1⟩
    · have e1 : (xp.toList == yp.toList) = false := by rw [beq_eq_false_iff_ne]; exact fun e => hp (ba_toList_inj e)
      clear h hp
      go_enter Try.func72, Try.ntmps72
      go_wp2_with (go_at_call 73; refine (CO _).mono ?_; rintro e w1 ⟨rfl, hg1⟩)
      go_ret
      exact ⟨rfl, hg.trans hg1⟩
end Go.Proofs.Ytbckncopdkmoeaa
