/- ligref22.LessKey, marked. -/
import Derived.Test.YtbckncopdkmoeaaLf8
import Derived.Test.YtbckncopdkmoeaaLfT
import Derived.Deep.MidRow
import Derived.Deep.Cut
import Derived.WalkKit
import Derived.ProofKit
import Derived.Handy
import Derived.Below
import Derived.Lib.Hide
import Derived.IntWalk
import Derived.Outline
import Derived.WalkLawsBesides
import Derived.WalkSpells
namespace Go.Proofs.Ytbckncopdkmoeaa
open Go.RowKit
attribute [local go_sem] strV
set_option linter.unusedVariables false
set_option linter.unusedSimpArgs false
set_option maxRecDepth 100000 in
set_option maxHeartbeats 3200000 in
theorem refLessKey_any (x y : Lk) (w : World) :
    Calls Try.prog 96 #[.agg x.row, .agg y.row] w fun e w' => e = .returned (.bool (lkLess x y)) ∧ Below w.heap.size w w' := by
  obtain ⟨xp, xc, xo, xs⟩ := x
  obtain ⟨yp, yc, yo, ys⟩ := y
  unfold Lk.row
  have CO := fun W => refLess_any xp xc yp yc W
  obtain ⟨r, hr⟩ : ∃ r, lkLess ⟨xp, xc, xo, xs⟩ ⟨yp, yc, yo, ys⟩ = r := ⟨_, rfl⟩
  rw [hr]
  unfold lkLess at hr
  simp only at hr
  have hg : Below w.heap.size w ((w.alloc (.cells #[.string xp, .int .i64 xc, .bool xo, .int .i64 xs] 81)).alloc (.cells #[.string yp, .int .i64 yc, .bool yo, .int .i64 ys] 81)) := al2_below w _ _
  by_cases h : xp = yp ∧ xc = yc
  · obtain ⟨rfl, rfl⟩ := h
    rw [if_pos ⟨rfl, rfl⟩] at hr
    have HR : Hid ((if xo = yo then decide (xs < ys) else yo) = r) := Lib.hid hr
    clear hr CO
    cases hz : decide (xs < ys) <;> cases xo <;> cases yo
    all_goals
      rw [hz] at HR
      obtain rfl := HR.out
      go_enter Try.func96, Try.ntmps96
      go_wp2
      go_ret
      exact ⟨by first | rfl | simp, hg⟩
  · rw [if_neg h] at hr
    rw [hr] at CO
    clear hr
    by_cases hp : xp = yp
    · have e1 : (xc == yc) = false := by rw [beq_eq_false_iff_ne]; exact fun e => h ⟨hp, e⟩
      subst hp
      clear h
      go_enter Try.func96, Try.ntmps96
      go_wp2_with (go_at_call 95; refine (CO _).mono ?_; rintro e w1 ⟨rfl, hb1⟩)
      go_ret
      exact ⟨rfl, hg.trans (hb1.mono hg.size)⟩
    · have e1 : (xp.toList == yp.toList) = false := by rw [beq_eq_false_iff_ne]; exact fun e => hp (ba_toList_inj e)
      clear h hp
      go_enter Try.func96, Try.ntmps96
      go_wp2_with (go_at_call 95; refine (CO _).mono ?_; rintro e w1 ⟨rfl, hb1⟩)
      go_ret
      exact ⟨rfl, hg.trans (hb1.mono hg.size)⟩
/-- Has an entry the mark of a kind of event? -/
def mkB (x : Ent) (kd : Int) : Bool := if kd = 1 then x.se else if kd = 2 then x.re else if kd = 3 then x.wr else if kd = 4 then x.ac else x.ti
set_option maxRecDepth 100000 in
set_option maxHeartbeats 3200000 in
theorem refMarked_any (x : Ent) (kd : Int) (w : World) :
    Calls Try.prog 66 #[.agg x.row, .int .i64 kd] w fun e w' => e = .returned (.bool (mkB x kd)) ∧ Below w.heap.size w w' := by
  obtain ⟨xsp, xsc, xdp, xdc, xsq, xda, xth, xta, xack, xse, xre, xwr, xac, xti⟩ := x
  obtain ⟨r, hr⟩ : ∃ r, mkB ⟨xsp, xsc, xdp, xdc, xsq, xda, xth, xta, xack, xse, xre, xwr, xac, xti⟩ kd = r := ⟨_, rfl⟩
  rw [hr]
  unfold mkB at hr
  simp only at hr
  simp only [Ent.row, Ent.L]
  by_cases k1 : kd = 1
  · subst k1
    have HR : Hid (xse = r) := Lib.hid hr
    clear hr
    go_enter Try.func66, Try.ntmps66
    go_wp2
    go_ret
    exact ⟨by rw [HR.out]; first | done | rfl, (Below.refl _ _).alloc (Nat.le_refl _) _⟩
  have e1 : (kd == 1) = false := beq_eq_false_iff_ne.2 k1
  rw [if_neg k1] at hr
  by_cases k2 : kd = 2
  · subst k2
    have HR : Hid (xre = r) := Lib.hid hr
    clear hr
    go_enter Try.func66, Try.ntmps66
    go_wp2
    go_ret
    exact ⟨by rw [HR.out]; first | done | rfl, (Below.refl _ _).alloc (Nat.le_refl _) _⟩
  have e2 : (kd == 2) = false := beq_eq_false_iff_ne.2 k2
  rw [if_neg k2] at hr
  by_cases k3 : kd = 3
  · subst k3
    have HR : Hid (xwr = r) := Lib.hid hr
    clear hr
    go_enter Try.func66, Try.ntmps66
    go_wp2
    go_ret
    exact ⟨by rw [HR.out]; first | done | rfl, (Below.refl _ _).alloc (Nat.le_refl _) _⟩
  have e3 : (kd == 3) = false := beq_eq_false_iff_ne.2 k3
  rw [if_neg k3] at hr
  by_cases k4 : kd = 4
  · subst k4
    have HR : Hid (xac = r) := Lib.hid hr
    clear hr
    go_enter Try.func66, Try.ntmps66
    go_wp2
    go_ret
    exact ⟨by rw [HR.out]; first | done | rfl, (Below.refl _ _).alloc (Nat.le_refl _) _⟩
  have e4 : (kd == 4) = false := beq_eq_false_iff_ne.2 k4
  rw [if_neg k4] at hr
  have HR : Hid (xti = r) := Lib.hid hr
  clear hr k1 k2 k3 k4
  go_enter Try.func66, Try.ntmps66
  go_wp2
  go_ret
  exact ⟨by rw [HR.out]; first | done | rfl, (Below.refl _ _).alloc (Nat.le_refl _) _⟩
end Go.Proofs.Ytbckncopdkmoeaa
