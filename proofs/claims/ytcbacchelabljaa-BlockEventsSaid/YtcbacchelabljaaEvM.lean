/- Events: which may be. -/
import Derived.Test.YtcbacchelabljaaEvP
import Derived.Test.YtcbacchelabljaaPacket
import Derived.Deep.MidRow
import Derived.Deep.Cut
import Derived.WalkKit
import Derived.ProofKit
import Derived.Handy
import Derived.Below
import Derived.BigQuiet
import Derived.Lib.Hide
import Derived.IntWalk
import Derived.Outline
import Derived.WalkLawsBesides
import Derived.WalkSpells
namespace Go.Proofs.Ytcbacchelabljaa
open Go.RowKit
attribute [local go_sem] strV
set_option linter.unusedVariables false
/-- An event that may be. -/
def bodyE (e : Ev) : Bool := if e.kd = 6 then mayE e.ep e.ec else if e.kd = 7 then decide (1 ≤ e.ht) && decide (e.ht ≤ 1099511627776) else if e.kd = 3 then mayK e.sp e.sc e.dp e.dc e.sq e.da e.th e.ta && !(e.ack.toList == []) && decide ((e.ack.size : Int) ≤ 32) else hasP e.kd && mayK e.sp e.sc e.dp e.dc e.sq e.da e.th e.ta
def mayEv (e : Ev) : Bool := evB e (plainE e) && bodyE e
set_option maxRecDepth 100000 in
set_option maxHeartbeats 6400000 in
theorem mayEv_any (kd : Int) (sp : ByteArray) (sc : Int) (dp : ByteArray) (dc : Int) (sq : Int) (da : ByteArray) (th : Int) (ta : Int) (ack : ByteArray) (ep : ByteArray) (ec : Int) (ht : Int) (w : World) (h1 : sp.size ≤ maxLen) (h2 : dp.size ≤ maxLen) (h3 : ep.size ≤ maxLen) :
    Calls Try.prog 43 #[.agg #[.int .i64 kd, .string sp, .int .i64 sc, .string dp, .int .i64 dc, .int .i64 sq, .string da, .int .i64 th, .int .i64 ta, .string ack, .string ep, .int .i64 ec, .int .i64 ht]] w fun e w' => e = .returned (.bool (mayEv ⟨kd, sp, sc, dp, dc, sq, da, th, ta, ack, ep, ec, ht⟩)) ∧ Below w.heap.size w w' := by
  have CP := fun W => plain_any kd sp sc dp dc sq da th ta ack ep ec ht W
  have CM := fun W => mayPk_any sp sc dp dc sq da th ta W h1 h2
  have CE := fun W => mayEnd_any ep ec W h3
  have CH := fun W => (hasP_any kd W).mono (fun e w' (h : e = .returned (.bool (hasP kd)) ∧ w' = W) => (⟨h.1, h.2 ▸ Below.refl _ _⟩ : e = .returned (.bool (hasP kd)) ∧ Below W.heap.size W w'))
  have hEQ : ∀ W, (Op.equalIn 10000 43 (.agg #[.int .i64 kd, .string sp, .int .i64 sc, .string dp, .int .i64 dc, .int .i64 sq, .string da, .int .i64 th, .int .i64 ta, .string ack, .string ep, .int .i64 ec, .int .i64 ht]) (.agg (plainE ⟨kd, sp, sc, dp, dc, sq, da, th, ta, ack, ep, ec, ht⟩).row)).run Try.prog W = .ok (evB ⟨kd, sp, sc, dp, dc, sq, da, th, ta, ack, ep, ec, ht⟩ (plainE ⟨kd, sp, sc, dp, dc, sq, da, th, ta, ack, ep, ec, ht⟩)) W := fun W => by
    cases hpl : plainE ⟨kd, sp, sc, dp, dc, sq, da, th, ta, ack, ep, ec, ht⟩ with
    | mk kd2 sp2 sc2 dp2 dc2 sq2 da2 th2 ta2 ack2 ep2 ec2 ht2 => exact run_equal_ev kd kd2 sp sp2 sc sc2 dp dp2 dc dc2 sq sq2 da da2 th th2 ta ta2 ack ack2 ep ep2 ec ec2 ht ht2 W
  obtain ⟨PR, hPR⟩ : ∃ r, (plainE ⟨kd, sp, sc, dp, dc, sq, da, th, ta, ack, ep, ec, ht⟩).row = r := ⟨_, rfl⟩
  rw [hPR] at hEQ CP
  have hM : mayEv ⟨kd, sp, sc, dp, dc, sq, da, th, ta, ack, ep, ec, ht⟩ = (evB ⟨kd, sp, sc, dp, dc, sq, da, th, ta, ack, ep, ec, ht⟩ (plainE ⟨kd, sp, sc, dp, dc, sq, da, th, ta, ack, ep, ec, ht⟩) && bodyE ⟨kd, sp, sc, dp, dc, sq, da, th, ta, ack, ep, ec, ht⟩) := rfl
  obtain ⟨r, hr⟩ : ∃ b, bodyE ⟨kd, sp, sc, dp, dc, sq, da, th, ta, ack, ep, ec, ht⟩ = b := ⟨_, rfl⟩
  obtain ⟨eb, heb⟩ : ∃ b, evB ⟨kd, sp, sc, dp, dc, sq, da, th, ta, ack, ep, ec, ht⟩ (plainE ⟨kd, sp, sc, dp, dc, sq, da, th, ta, ack, ep, ec, ht⟩) = b := ⟨_, rfl⟩
  rw [hM, heb, hr]
  have HB := Lib.hid hr
  clear hr
  rw [heb] at hEQ
  clear hM heb hPR
  have hg0 : (w.alloc (.cells #[.int .i64 kd, .string sp, .int .i64 sc, .string dp, .int .i64 dc, .int .i64 sq, .string da, .int .i64 th, .int .i64 ta, .string ack, .string ep, .int .i64 ec, .int .i64 ht] 43)).heap[w.heap.size]? = some (.cells #[.int .i64 kd, .string sp, .int .i64 sc, .string dp, .int .i64 dc, .int .i64 sq, .string da, .int .i64 th, .int .i64 ta, .string ack, .string ep, .int .i64 ec, .int .i64 ht] 43 (0, 0)) := by
    show (w.heap.push _)[w.heap.size]? = _
    rw [Array.getElem?_push_size]
  have hbA : Below w.heap.size w (w.alloc (.cells #[.int .i64 kd, .string sp, .int .i64 sc, .string dp, .int .i64 dc, .int .i64 sq, .string da, .int .i64 th, .int .i64 ta, .string ack, .string ep, .int .i64 ec, .int .i64 ht] 43)) := Below.alloc (Below.refl _ _) (Nat.le_refl _) _
  go_enter Try.func43, Try.ntmps43
  go_wp2
  refine wp_nameE _ (fun W1 hW => ?_)
  have hg : W1.heap[w.heap.size]? = some (.cells #[.int .i64 kd, .string sp, .int .i64 sc, .string dp, .int .i64 dc, .int .i64 sq, .string da, .int .i64 th, .int .i64 ta, .string ack, .string ep, .int .i64 ec, .int .i64 ht] 43 (0, 0)) := by rw [hW]; exact hg0
  have hbel : Below w.heap.size w W1 := by rw [hW]; exact hbA
  clear hW hg0 hbA
  have hgl := (Array.getElem?_eq_some_iff.1 hg).1
  have q0 := cell_heap hg 0; have q1 := cell_heap hg 1; have q2 := cell_heap hg 2; have q3 := cell_heap hg 3; have q4 := cell_heap hg 4; have q5 := cell_heap hg 5; have q6 := cell_heap hg 6; have q7 := cell_heap hg 7; have q8 := cell_heap hg 8; have q9 := cell_heap hg 9; have q10 := cell_heap hg 10; have q11 := cell_heap hg 11; have q12 := cell_heap hg 12
  obtain ⟨hcb, hfb⟩ := beyond_cells (W := W1)
  refine wp_region_below (by kernel_rfl) (by kernel_rfl) ?_
  repeat (go_big_quiet_step ((go_at_call 62; exact quiet_below (CP _))))
  intro w9 hw9
  have hb9 := beyond_below hw9
  have hg := cells_of hg hb9 hgl
  have hgl := Nat.lt_of_lt_of_le hgl hb9.size
  have hbel := hbel.trans (hb9.mono hbel.size)
  clear hcb hfb hw9
  have q0 := cell_heap hg 0; have q1 := cell_heap hg 1; have q2 := cell_heap hg 2; have q3 := cell_heap hg 3; have q4 := cell_heap hg 4; have q5 := cell_heap hg 5; have q6 := cell_heap hg 6; have q7 := cell_heap hg 7; have q8 := cell_heap hg 8; have q9 := cell_heap hg 9; have q10 := cell_heap hg 10; have q11 := cell_heap hg 11; have q12 := cell_heap hg 12
  cases eb
  · go_wp2
    go_ret
    exact ⟨rfl, hbel⟩
  by_cases k6 : kd = 6
  · subst k6
    have hr : mayE ep ec = r := HB.out
    rw [hr] at CE
    clear hr HB CM CH
    go_wp2_with (go_at_call 63; refine (CE _).mono ?_; rintro e w2 ⟨rfl, hb⟩)
    go_ret
    exact ⟨rfl, hbel.trans (hb.mono hbel.size)⟩
  have e6 : (kd == 6) = false := beq_eq_false_iff_ne.2 k6
  by_cases k7 : kd = 7
  · subst k7
    have hr : (decide (1 ≤ ht) && decide (ht ≤ 1099511627776)) = r := HB.out
    clear HB CM CH CE
    cases hd : decide (1 ≤ ht)
    all_goals
      rw [hd] at hr
      obtain rfl := hr
      go_wp2
      go_ret
      exact ⟨by first | rfl | (simp; done), hbel⟩
  have e7 : (kd == 7) = false := beq_eq_false_iff_ne.2 k7
  obtain ⟨mk, hmk⟩ : ∃ b, mayK sp sc dp dc sq da th ta = b := ⟨_, rfl⟩
  rw [hmk] at CM
  by_cases k3 : kd = 3
  · subst k3
    obtain ⟨ab, hab⟩ : ∃ b, (ack.toList == []) = b := ⟨_, rfl⟩
    have hr : (mk && !ab && decide ((ack.size : Int) ≤ 32)) = r := by rw [← hmk, ← hab]; exact HB.out
    clear HB CH CE hmk
    cases mk
    · obtain rfl : false = r := hr
      go_wp2_with (go_at_call 64; refine (CM _).mono ?_; rintro e w2 ⟨rfl, hb⟩)
      go_ret
      exact ⟨rfl, hbel.trans (hb.mono hbel.size)⟩
    cases ab
    · obtain rfl : decide ((ack.size : Int) ≤ 32) = r := hr
      go_wp2_with (go_at_call 64; refine (CM _).mono ?_; rintro e w2 ⟨rfl, hb⟩; have hg := cells_of hg hb hgl; have hbel := hbel.trans (hb.mono hbel.size); have q0 := cell_heap hg 0; have q1 := cell_heap hg 1; have q2 := cell_heap hg 2; have q3 := cell_heap hg 3; have q4 := cell_heap hg 4; have q5 := cell_heap hg 5; have q6 := cell_heap hg 6; have q7 := cell_heap hg 7; have q8 := cell_heap hg 8; have q9 := cell_heap hg 9; have q10 := cell_heap hg 10; have q11 := cell_heap hg 11; have q12 := cell_heap hg 12)
      go_ret
      exact ⟨by first | rfl | (simp; done), hbel⟩
    · obtain rfl : false = r := hr
      go_wp2_with (go_at_call 64; refine (CM _).mono ?_; rintro e w2 ⟨rfl, hb⟩; have hg := cells_of hg hb hgl; have hbel := hbel.trans (hb.mono hbel.size); have q0 := cell_heap hg 0; have q1 := cell_heap hg 1; have q2 := cell_heap hg 2; have q3 := cell_heap hg 3; have q4 := cell_heap hg 4; have q5 := cell_heap hg 5; have q6 := cell_heap hg 6; have q7 := cell_heap hg 7; have q8 := cell_heap hg 8; have q9 := cell_heap hg 9; have q10 := cell_heap hg 10; have q11 := cell_heap hg 11; have q12 := cell_heap hg 12)
      go_ret
      exact ⟨rfl, hbel⟩
  have e3 : (kd == 3) = false := beq_eq_false_iff_ne.2 k3
  obtain ⟨hp, hhp⟩ : ∃ b, hasP kd = b := ⟨_, rfl⟩
  rw [hhp] at CH
  have hr : (hp && mk) = r := by rw [← hmk, ← hhp, ← HB.out]; unfold bodyE; simp only; rw [if_neg k6, if_neg k7, if_neg k3]
  clear HB CE hmk hhp
  cases hp
  · obtain rfl : false = r := hr
    go_wp2_with (go_at_call 51; refine (CH _).mono ?_; rintro e w2 ⟨rfl, hb⟩; have hg := cells_of hg hb hgl; have hbel := hbel.trans (hb.mono hbel.size); have q0 := cell_heap hg 0; have q1 := cell_heap hg 1; have q2 := cell_heap hg 2; have q3 := cell_heap hg 3; have q4 := cell_heap hg 4; have q5 := cell_heap hg 5; have q6 := cell_heap hg 6; have q7 := cell_heap hg 7; have q8 := cell_heap hg 8; have q9 := cell_heap hg 9; have q10 := cell_heap hg 10; have q11 := cell_heap hg 11; have q12 := cell_heap hg 12)
    go_ret
    exact ⟨rfl, hbel⟩
  · obtain rfl : mk = r := hr
    go_wp2_with (first | (go_at_call 51; refine (CH _).mono ?_; rintro e w2 ⟨rfl, hb⟩; have hgl2 := Nat.lt_of_lt_of_le hgl hb.size; have hg := cells_of hg hb hgl; have hbel := hbel.trans (hb.mono hbel.size); have q0 := cell_heap hg 0; have q1 := cell_heap hg 1; have q2 := cell_heap hg 2; have q3 := cell_heap hg 3; have q4 := cell_heap hg 4; have q5 := cell_heap hg 5; have q6 := cell_heap hg 6; have q7 := cell_heap hg 7; have q8 := cell_heap hg 8; have q9 := cell_heap hg 9; have q10 := cell_heap hg 10; have q11 := cell_heap hg 11; have q12 := cell_heap hg 12) | (go_at_call 64; refine (CM _).mono ?_; rintro e w3 ⟨rfl, hb3⟩))
    go_ret
    exact ⟨rfl, hbel.trans (hb3.mono hbel.size)⟩
end Go.Proofs.Ytcbacchelabljaa
