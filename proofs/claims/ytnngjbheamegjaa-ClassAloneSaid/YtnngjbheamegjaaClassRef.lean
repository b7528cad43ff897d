/- ligref22.Over, late and ligkeep's translations: one packet. -/
import Derived.Test.YtnngjbheamegjaaClassOf
import Derived.WalkKit
import Derived.ProofKit
import Derived.Handy
import Derived.Below
import Derived.Lib.Hide
import Derived.IntWalk
import Derived.Outline
import Derived.WalkLawsBesides
import Derived.WalkSpells
namespace Go.Proofs.Ytnngjbheamegjaa
open Go.RowKit

theorem if_ite_and (a b : Bool) : (a && b) = true ↔ a = true ∧ b = true := by simp

set_option maxRecDepth 100000 in
set_option maxHeartbeats 400000 in
theorem refOver_any {th ta h t : Int} {w : World} :
    Calls Try.prog 29 #[.int .i64 th, .int .i64 ta, .int .i64 h, .int .i64 t] w fun e w' => e = .returned (.bool (rchB th h || rchB ta t)) ∧ w = w' := by
  have H : ∀ b, rchB th h = b → Hid (rchB th h = b) := fun _ h => h
  by_cases h1 : 0 < th
  · by_cases h2 : th ≤ h
    · have HH : Hid (rchB th h = true) := Lib.hid (by unfold rchB; rw [decide_eq_true h1, decide_eq_true h2]; rfl)
      clear H
      go_enter Try.func29, Try.ntmps29
      go_wp2
      go_ret
      exact ⟨by rw [HH.out]; rfl, rfl⟩
    · have HH : Hid (rchB th h = false) := Lib.hid (by unfold rchB; rw [decide_eq_false h2, Bool.and_false])
      have d2 : decide (th ≤ h) = false := decide_eq_false h2
      clear H
      by_cases h3 : 0 < ta
      · by_cases h4 : ta ≤ t
        · have HI : Hid (rchB ta t = true) := Lib.hid (by unfold rchB; rw [decide_eq_true h3, decide_eq_true h4]; rfl)
          go_enter Try.func29, Try.ntmps29
          go_wp2
          go_ret
          exact ⟨by rw [HH.out, HI.out]; rfl, rfl⟩
        · have HI : Hid (rchB ta t = false) := Lib.hid (by unfold rchB; rw [decide_eq_false h4, Bool.and_false])
          go_enter Try.func29, Try.ntmps29
          go_wp2
          go_ret
          exact ⟨by rw [HH.out, HI.out]; rfl, rfl⟩
      · have HI : Hid (rchB ta t = false) := Lib.hid (by unfold rchB; rw [decide_eq_false h3, Bool.false_and])
        go_enter Try.func29, Try.ntmps29
        go_wp2
        go_ret
        exact ⟨by rw [HH.out, HI.out]; rfl, rfl⟩
  · have HH : Hid (rchB th h = false) := Lib.hid (by unfold rchB; rw [decide_eq_false h1, Bool.false_and])
    clear H
    by_cases h3 : 0 < ta
    · by_cases h4 : ta ≤ t
      · have HI : Hid (rchB ta t = true) := Lib.hid (by unfold rchB; rw [decide_eq_true h3, decide_eq_true h4]; rfl)
        go_enter Try.func29, Try.ntmps29
        go_wp2
        go_ret
        exact ⟨by rw [HH.out, HI.out]; rfl, rfl⟩
      · have HI : Hid (rchB ta t = false) := Lib.hid (by unfold rchB; rw [decide_eq_false h4, Bool.and_false])
        go_enter Try.func29, Try.ntmps29
        go_wp2
        go_ret
        exact ⟨by rw [HH.out, HI.out]; rfl, rfl⟩
    · have HI : Hid (rchB ta t = false) := Lib.hid (by unfold rchB; rw [decide_eq_false h3, Bool.false_and])
      go_enter Try.func29, Try.ntmps29
      go_wp2
      go_ret
      exact ⟨by rw [HH.out, HI.out]; rfl, rfl⟩

def lateI (c : Chn) (p : Pk) : Int := if lostB c p then endI c p else 5
set_option maxRecDepth 100000 in
set_option maxHeartbeats 1600000 in
theorem late_any {o opn oo oc : Bool} {st nr nd na ht tm ah at_ sh : Int} {sq pth pta : Int} {kp shn rcv dn ack : Bool} {w : World} :
    Calls Try.prog 36 #[.agg #[.bool o, .bool opn, .bool oo, .bool oc, .int .i64 st, .int .i64 nr, .int .i64 nd, .int .i64 na, .int .i64 ht, .int .i64 tm, .int .i64 ah, .int .i64 at_, .int .i64 sh], .agg #[.int .i64 sq, .int .i64 pth, .int .i64 pta, .bool kp, .bool shn, .bool rcv, .bool dn, .bool ack]] w fun e w' => e = .returned (.int .i64 (lateI ⟨o, opn, oo, oc, st, nr, nd, na, ht, tm, ah, at_, sh⟩ ⟨sq, pth, pta, kp, shn, rcv, dn, ack⟩)) ∧ Below w.heap.size w w' := by
  go_enter Try.func36, Try.ntmps36
  go_wp2_with (go_at_call 29; refine refOver_any.mono ?_; rintro e wx ⟨rfl, rfl⟩)
  all_goals go_ret
  all_goals refine ⟨?_, by repeat (first | assumption | exact Below.refl _ _ | refine bch ?_ (by assumption) | refine Below.alloc ?_ (by simp) _)⟩
  all_goals try (first | (simp [lateI, lostB, endI, turnB, overB, *]; done) | (simp_all [lateI, lostB, endI, turnB, overB]; done))
  all_goals simp_all [lateI, lostB, endI, turnB, overB]
  all_goals first | omega | (intro h; exfalso; omega) | (intro e; simp_all; done) | (rcases ‹_ ∨ _› with h | h <;> simp_all; done) | (intro e; subst e; simp_all; done)
end Go.Proofs.Ytnngjbheamegjaa
