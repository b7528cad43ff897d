/- ClassRuns, walked. -/
import Derived.Test.YtnngjbheamegjaaClassTime
import Derived.WalkKit
import Derived.ProofKit
import Derived.Handy
import Derived.Below
import Derived.Lib.Hide
import Derived.IntWalk
import Derived.Outline
import Derived.WalkLawsBesides
import Derived.WalkSpells
namespace Go.Proofs.Ytnngjbheamegjaa
open Go.RowKit

theorem cls_step (c : Chn) (na nr : Int) (p : Pk) (l : List Pk) : clsL c na nr (p :: l) =
    oneI c na nr p :: clsL c (if oneI c na nr p = 2 then wrap64 (p.seq + 1) else na) (if oneI c na nr p = 1 then wrap64 (p.seq + 1) else nr) l := by
  have he := endI_or c p
  conv => lhs; unfold clsL
  unfold oneI
  by_cases h1 : p.kept = false
  · simp [h1]
  by_cases h2 : acksB c p na = true
  · simp [h1, h2]
  by_cases h3 : recvB c p nr = true
  · simp [h1, h2, h3]
  by_cases h4 : lostB c p = true
  · rcases he with he | he | he <;> simp [h1, h2, h3, h4, he]
  · simp [h1, h2, h3, h4]
theorem one_runs {c : Chn} {na nr : Int} {p : Pk} (ho : c.ordered = true) :
    (oneI c na nr p = 0 ∧ p.kept = false) ∨ (oneI c na nr p = 2 ∧ p.kept = true ∧ p.acked = true ∧ p.seq = na) ∨
      (oneI c na nr p = 1 ∧ p.kept = true ∧ p.shown = true ∧ p.seq = nr) ∨ ((oneI c na nr p = 3 ∨ oneI c na nr p = 4 ∨ oneI c na nr p = 5) ∧ p.kept = true) := by
  have he := endI_or c p
  unfold oneI
  by_cases h1 : p.kept = false
  · simp [h1]
  by_cases h2 : acksB c p na = true
  · right; left; simp [acksB, turnB, ho] at h2; simp_all [acksB, turnB]
  by_cases h3 : recvB c p nr = true
  · right; right; left; simp only [if_neg h1, if_neg h2, if_pos h3]; simp [recvB, turnB, ho] at h3; simp_all
  right; right; right
  simp only [if_neg h1, if_neg h2, if_neg h3]
  refine ⟨?_, by simpa using h1⟩
  by_cases h4 : lostB c p = true
  · simpa only [if_pos h4] using he
  · simp [h4]
theorem one_runs' {c : Chn} {na nr : Int} {p : Pk} (_ho : c.ordered = false) :
    (oneI c na nr p = 0 ∧ p.kept = false) ∨ (oneI c na nr p = 2 ∧ p.kept = true ∧ p.acked = true) ∨
      (oneI c na nr p = 1 ∧ p.kept = true ∧ p.shown = true) ∨ ((oneI c na nr p = 3 ∨ oneI c na nr p = 4 ∨ oneI c na nr p = 5) ∧ p.kept = true) := by
  have he := endI_or c p
  unfold oneI
  by_cases h1 : p.kept = false
  · simp [h1]
  by_cases h2 : acksB c p na = true
  · right; left; simp only [if_neg h1, if_pos h2]; simp [acksB] at h2; simp_all
  by_cases h3 : recvB c p nr = true
  · right; right; left; simp only [if_neg h1, if_neg h2, if_pos h3]; simp [recvB] at h3; simp_all
  right; right; right
  simp only [if_neg h1, if_neg h2, if_neg h3]
  refine ⟨?_, by simpa using h1⟩
  by_cases h4 : lostB c p = true
  · simpa only [if_pos h4] using he
  · simp [h4]

set_option maxRecDepth 100000 in
set_option maxHeartbeats 6400000 in
theorem walkClassRuns (o opn oo oc : Bool) (st nr nd na ht tm ah at_ sh : Int) (a : Option Addr) (n cap : Nat) (ps : List Pk) (w : World) (hr : RowAt w a (ps.flatMap Pk.cells)) (hn : ps.length = n) (hl : n ≤ maxLen) :
    Calls Try.prog 7 #[.agg #[.bool o, .bool opn, .bool oo, .bool oc, .int .i64 st, .int .i64 nr, .int .i64 nd, .int .i64 na, .int .i64 ht, .int .i64 tm, .int .i64 ah, .int .i64 at_, .int .i64 sh], .slice a n cap] w fun e w' => e = .returned (.bool true) ∧ Below w.heap.size w w' := by
  have hl' := hl; unfold maxLen at hl'
  have hbA := (Below.refl w.heap.size w).alloc (Nat.le_refl _) (.cells #[.bool o, .bool opn, .bool oo, .bool oc, .int .i64 st, .int .i64 nr, .int .i64 nd, .int .i64 na, .int .i64 ht, .int .i64 tm, .int .i64 ah, .int .i64 at_, .int .i64 sh] 33)
  have hrB := hr.below hbA
  have hcA : ChnAt (w.alloc (.cells #[.bool o, .bool opn, .bool oo, .bool oc, .int .i64 st, .int .i64 nr, .int .i64 nd, .int .i64 na, .int .i64 ht, .int .i64 tm, .int .i64 ah, .int .i64 at_, .int .i64 sh] 33)) w.heap.size ⟨o, opn, oo, oc, st, nr, nd, na, ht, tm, ah, at_, sh⟩ := chn_new w ⟨o, opn, oo, oc, st, nr, nd, na, ht, tm, ah, at_, sh⟩ _
  have hzL : w.heap.size < (w.alloc (.cells #[.bool o, .bool opn, .bool oo, .bool oc, .int .i64 st, .int .i64 nr, .int .i64 nd, .int .i64 na, .int .i64 ht, .int .i64 tm, .int .i64 ah, .int .i64 at_, .int .i64 sh] 33)).heap.size := by simp
  have HN := Lib.hid hn; clear hn
  cases hrise : riseB ps
  · have HR := Lib.hid hrise; clear hrise
    by_cases h60 : 60 < n
    all_goals
      go_enter Try.func7, Try.ntmps7
      go_wp2_with (first | (go_at_call 19; refine (first25_any _).mono ?_; rintro e w1 ⟨rfl, hb⟩; have hrB := hrB.below hb; have hbA := hbA.trans (hb.mono (Nat.le_of_lt hzL)); have hcA := hcA.below hb hzL; have hzL := Nat.lt_of_lt_of_le hzL hb.size; have hcC := hcA; obtain ⟨f0, f1, f2, f3, f4, f5, f6, f7, f8, f9, f10, f11, f12⟩ := hcC; simp only at f0 f1 f2 f3 f4 f5 f6 f7 f8 f9 f10 f11 f12) | (go_at_call 20; refine (rise_n hrB HN.out hl).mono ?_; rintro e w1 ⟨rfl, hb⟩; rw [HR.out]; have hrB := hrB.below hb; have hbA := hbA.trans (hb.mono (Nat.le_of_lt hzL)); have hcA := hcA.below hb hzL; have hzL := Nat.lt_of_lt_of_le hzL hb.size; have hcC := hcA; obtain ⟨f0, f1, f2, f3, f4, f5, f6, f7, f8, f9, f10, f11, f12⟩ := hcC; simp only at f0 f1 f2 f3 f4 f5 f6 f7 f8 f9 f10 f11 f12))
      go_ret
      exact ⟨rfl, hbA⟩
  · have HR := Lib.hid hrise; clear hrise
    by_cases h60 : 60 < n
    · skip
      go_enter Try.func7, Try.ntmps7
      go_wp2_with (first | (go_at_call 19; refine (first25_any _).mono ?_; rintro e w1 ⟨rfl, hb⟩; have hrB := hrB.below hb; have hbA := hbA.trans (hb.mono (Nat.le_of_lt hzL)); have hcA := hcA.below hb hzL; have hzL := Nat.lt_of_lt_of_le hzL hb.size; have hcC := hcA; obtain ⟨f0, f1, f2, f3, f4, f5, f6, f7, f8, f9, f10, f11, f12⟩ := hcC; simp only at f0 f1 f2 f3 f4 f5 f6 f7 f8 f9 f10 f11 f12) | (go_at_call 20; refine (rise_n hrB HN.out hl).mono ?_; rintro e w1 ⟨rfl, hb⟩; rw [HR.out]; have hrB := hrB.below hb; have hbA := hbA.trans (hb.mono (Nat.le_of_lt hzL)); have hcA := hcA.below hb hzL; have hzL := Nat.lt_of_lt_of_le hzL hb.size; have hcC := hcA; obtain ⟨f0, f1, f2, f3, f4, f5, f6, f7, f8, f9, f10, f11, f12⟩ := hcC; simp only at f0 f1 f2 f3 f4 f5 f6 f7 f8 f9 f10 f11 f12))
      go_ret
      exact ⟨rfl, hbA⟩
    have HOF : Hid (ofL ⟨o, opn, oo, oc, st, nr, nd, na, ht, tm, ah, at_, sh⟩ ps = clsL ⟨o, opn, oo, oc, st, nr, nd, na, ht, tm, ah, at_, sh⟩ na nr ps) := Lib.hid (by unfold ofL; rw [if_pos HR.out])
    have HLEN : Hid ((clsL ⟨o, opn, oo, oc, st, nr, nd, na, ht, tm, ah, at_, sh⟩ na nr ps).length = n) := Lib.hid (by rw [clsL_len, HN.out])
    cases o
    all_goals
      go_enter Try.func7, Try.ntmps7
      go_wp2_with (first | (go_at_call 19; refine (first25_any _).mono ?_; rintro e w1 ⟨rfl, hb⟩; have hrB := hrB.below hb; have hbA := hbA.trans (hb.mono (Nat.le_of_lt hzL)); have hcA := hcA.below hb hzL; have hzL := Nat.lt_of_lt_of_le hzL hb.size; have hcC := hcA; obtain ⟨f0, f1, f2, f3, f4, f5, f6, f7, f8, f9, f10, f11, f12⟩ := hcC; simp only at f0 f1 f2 f3 f4 f5 f6 f7 f8 f9 f10 f11 f12) | (go_at_call 20; refine (rise_n hrB HN.out hl).mono ?_; rintro e w1 ⟨rfl, hb⟩; rw [HR.out]; have hrB := hrB.below hb; have hbA := hbA.trans (hb.mono (Nat.le_of_lt hzL)); have hcA := hcA.below hb hzL; have hzL := Nat.lt_of_lt_of_le hzL hb.size; have hcC := hcA; obtain ⟨f0, f1, f2, f3, f4, f5, f6, f7, f8, f9, f10, f11, f12⟩ := hcC; simp only at f0 f1 f2 f3 f4 f5 f6 f7 f8 f9 f10 f11 f12) | (go_at_call 26; refine (of_any _ _ _ _ _ _ _ _ _ _ _ _ _ _ _ _ _ _ hrB HN.out hl (by omega)).mono ?_; rintro e w1 ⟨v, rfl, hown, hb⟩; rw [HOF.out, HLEN.out] at hown; obtain ⟨a', cap', rfl, hrow, _⟩ := RowAt.own hown; have hrB := hrB.below hb; have hbA := hbA.trans (hb.mono (Nat.le_of_lt hzL)); have hcA := hcA.below hb hzL; have hzL := Nat.lt_of_lt_of_le hzL hb.size; have hcC := hcA; obtain ⟨f0, f1, f2, f3, f4, f5, f6, f7, f8, f9, f10, f11, f12⟩ := hcC; simp only at f0 f1 f2 f3 f4 f5 f6 f7 f8 f9 f10 f11 f12))
      go_quiet (fail)
      go_wp2
    · skip
      generalize hX : clsL ⟨false, opn, oo, oc, st, nr, nd, na, ht, tm, ah, at_, sh⟩ na nr ps = X at hrow
      have HX := Lib.hid hX; clear hX
      have HXL : Hid (X.length = n) := Lib.hid (by rw [← HX.out]; exact HLEN.out)
      have hbA := hbA.trans ((drewN_below w1 nq).mono (Nat.le_of_lt hzL))
      have hrow := hrow.below (drewN_below w1 nq)
      have hrB := hrB.below (drewN_below w1 nq)
      have hcA := hcA.below (drewN_below w1 nq) hzL
      have hzL : w.heap.size < (w1.drewN nq).heap.size := hzL
      generalize w1.drewN nq = w1 at hbA hrow hrB hcA hzL ⊢
      go_loopw [6, 7, 8] (fun r s i wr => ∃ (k : Nat), k ≤ n ∧ Below w1.heap.size w1 wr ∧ i = .int .i64 k ∧ r = .int .i64 nr ∧ s = .int .i64 na) (fun _ _ i _ => n - (intOf i).toNat)
      case atStart => exact ⟨0, by omega, Below.refl _ _, rfl, rfl, rfl⟩
      case round =>
        obtain ⟨k, hk, hbel, rfl, rfl, rfl⟩ := hrel
        have hzR := hbel.size
        by_cases hlt : k < n
        · obtain ⟨b, off, rfl, hbl, hp⟩ := pk_at (hrB.below hbel) (k := k) (by rw [HN.out]; exact hlt)
          obtain ⟨b', off', rfl, hbl', hz⟩ := row_get (hrow.below hbel) (k := k) (by rw [HXL.out]; exact hlt)
          obtain ⟨NA, NR, hone⟩ := cls_one ⟨false, opn, oo, oc, st, nr, nd, na, ht, tm, ah, at_, sh⟩ ps na nr k _ (List.getElem?_eq_getElem (show k < ps.length by rw [HN.out]; exact hlt))
          have hxk : X[k]'(by rw [HXL.out]; exact hlt) = oneI ⟨false, opn, oo, oc, st, nr, nd, na, ht, tm, ah, at_, sh⟩ NA NR (ps[k]'(by rw [HN.out]; exact hlt)) := by
            have h1 : X[k]? = some (X[k]'(by rw [HXL.out]; exact hlt)) := List.getElem?_eq_getElem _
            rw [HX.out, h1] at hone; exact Option.some.inj hone
          have hfacts := one_runs' (c := ⟨false, opn, oo, oc, st, nr, nd, na, ht, tm, ah, at_, sh⟩) (na := NA) (nr := NR) (p := ps[k]'(by rw [HN.out]; exact hlt)) rfl
          rw [← hxk] at hfacts
          clear hone hxk
          generalize X[k]'(by rw [HXL.out]; exact hlt) = z at hz hfacts
          generalize ps[k]'(by rw [HN.out]; exact hlt) = p at hp hfacts
          obtain ⟨sq, pth, pta, kp, shn, rcv, dn, ack⟩ := p
          obtain ⟨p0, p1, p2, p3, p4, p5, p6, p7⟩ := hp
          have hcR := hcA.below hbel hzL
          obtain ⟨f0, f1, f2, f3, f4, f5, f6, f7, f8, f9, f10, f11, f12⟩ := hcR
          simp only at p0 p1 p2 p3 p4 p5 p6 p7 f0 f1 f2 f3 f4 f5 f6 f7 f8 f9 f10 f11 f12 hfacts
          have hzW : w.heap.size < wr.heap.size := Nat.lt_of_lt_of_le hzL hbel.size
          rcases hfacts with ⟨rfl, rfl⟩ | ⟨rfl, rfl, rfl⟩ | ⟨rfl, rfl, rfl⟩ | ⟨rfl | rfl | rfl, rfl⟩
          · go_wp2
            go_quiet (fail)
            have hbq : Below w1.heap.size w1 (wr.drewN nq) := hbel.trans ((drewN_below _ _).mono (by omega))
            go_wp2
            go_roundw
            case rel => exact ⟨k + 1, by omega, hbq, by go_num, rfl, rfl⟩
            case measure => simp [intOf]; omega
          · go_wp2
            go_quiet (fail)
            have hbq : Below w1.heap.size w1 (wr.drewN nq) := hbel.trans ((drewN_below _ _).mono (by omega))
            go_wp2
            go_roundw
            case rel => exact ⟨k + 1, by omega, hbq, by go_num, rfl, rfl⟩
            case measure => simp [intOf]; omega
          · go_wp2
            go_quiet (fail)
            have hbq : Below w1.heap.size w1 (wr.drewN nq) := hbel.trans ((drewN_below _ _).mono (by omega))
            go_wp2
            go_roundw
            case rel => exact ⟨k + 1, by omega, hbq, by go_num, rfl, rfl⟩
            case measure => simp [intOf]; omega
          · go_wp2
            go_quiet (fail)
            have hbq : Below w1.heap.size w1 (wr.drewN nq) := hbel.trans ((drewN_below _ _).mono (by omega))
            go_wp2
            go_roundw
            case rel => exact ⟨k + 1, by omega, hbq, by go_num, rfl, rfl⟩
            case measure => simp [intOf]; omega
          · go_wp2
            go_quiet (fail)
            have hbq : Below w1.heap.size w1 (wr.drewN nq) := hbel.trans ((drewN_below _ _).mono (by omega))
            go_wp2
            go_roundw
            case rel => exact ⟨k + 1, by omega, hbq, by go_num, rfl, rfl⟩
            case measure => simp [intOf]; omega
          · go_wp2
            go_quiet (fail)
            have hbq : Below w1.heap.size w1 (wr.drewN nq) := hbel.trans ((drewN_below _ _).mono (by omega))
            go_wp2
            go_roundw
            case rel => exact ⟨k + 1, by omega, hbq, by go_num, rfl, rfl⟩
            case measure => simp [intOf]; omega
        · go_wp2
          go_ret
          exact ⟨rfl, hbA.trans (hbel.mono (Nat.le_of_lt hzL))⟩
    · skip
      generalize hX : clsL ⟨true, opn, oo, oc, st, nr, nd, na, ht, tm, ah, at_, sh⟩ na nr ps = X at hrow
      have HX := Lib.hid hX; clear hX
      have HXL : Hid (X.length = n) := Lib.hid (by rw [← HX.out]; exact HLEN.out)
      have hbA := hbA.trans ((drewN_below w1 nq).mono (Nat.le_of_lt hzL))
      have hrow := hrow.below (drewN_below w1 nq)
      have hrB := hrB.below (drewN_below w1 nq)
      have hcA := hcA.below (drewN_below w1 nq) hzL
      have hzL : w.heap.size < (w1.drewN nq).heap.size := hzL
      generalize w1.drewN nq = w1 at hbA hrow hrB hcA hzL ⊢
      go_loopw [6, 7, 8] (fun r s i wr => ∃ (k : Nat) (R A : Int), k ≤ n ∧ Below w1.heap.size w1 wr ∧ Hid (clsL ⟨true, opn, oo, oc, st, nr, nd, na, ht, tm, ah, at_, sh⟩ A R (ps.drop k) = X.drop k) ∧ i = .int .i64 k ∧ r = .int .i64 R ∧ s = .int .i64 A) (fun _ _ i _ => n - (intOf i).toNat)
      case atStart => exact ⟨0, _, _, by omega, Below.refl _ _, Lib.hid (by rw [List.drop_zero, List.drop_zero]; exact HX.out), rfl, rfl, rfl⟩
      case round =>
        obtain ⟨k, R, A, hk, hbel, HC, rfl, rfl, rfl⟩ := hrel
        have hzR := hbel.size
        by_cases hlt : k < n
        · obtain ⟨b, off, rfl, hbl, hp⟩ := pk_at (hrB.below hbel) (k := k) (by rw [HN.out]; exact hlt)
          obtain ⟨b', off', rfl, hbl', hz⟩ := row_get (hrow.below hbel) (k := k) (by rw [HXL.out]; exact hlt)
          have hdp : ps.drop k = ps[k]'(by rw [HN.out]; exact hlt) :: ps.drop (k + 1) := List.drop_eq_getElem_cons _
          have hdx : X.drop k = X[k]'(by rw [HXL.out]; exact hlt) :: X.drop (k + 1) := List.drop_eq_getElem_cons _
          have hst := HC.out
          rw [hdp, hdx, cls_step] at hst
          injection hst with hx hnext
          have HC' := Lib.hid hnext
          have hfacts := one_runs (c := ⟨true, opn, oo, oc, st, nr, nd, na, ht, tm, ah, at_, sh⟩) (na := A) (nr := R) (p := ps[k]'(by rw [HN.out]; exact hlt)) rfl
          clear hdp hdx hnext HC
          rw [hx] at hfacts HC'
          clear hx
          generalize X[k]'(by rw [HXL.out]; exact hlt) = z at hz hfacts HC'
          generalize ps[k]'(by rw [HN.out]; exact hlt) = p at hp hfacts HC'
          obtain ⟨sq, pth, pta, kp, shn, rcv, dn, ack⟩ := p
          obtain ⟨p0, p1, p2, p3, p4, p5, p6, p7⟩ := hp
          have hcR := hcA.below hbel hzL
          obtain ⟨f0, f1, f2, f3, f4, f5, f6, f7, f8, f9, f10, f11, f12⟩ := hcR
          simp only at p0 p1 p2 p3 p4 p5 p6 p7 f0 f1 f2 f3 f4 f5 f6 f7 f8 f9 f10 f11 f12 hfacts HC'
          have hzW : w.heap.size < wr.heap.size := Nat.lt_of_lt_of_le hzL hbel.size
          rcases hfacts with ⟨rfl, rfl⟩ | ⟨rfl, rfl, rfl, rfl⟩ | ⟨rfl, rfl, rfl, rfl⟩ | ⟨rfl | rfl | rfl, rfl⟩
          · go_wp2
            go_quiet (fail)
            have hbq : Below w1.heap.size w1 (wr.drewN nq) := hbel.trans ((drewN_below _ _).mono (by omega))
            go_wp2
            go_roundw
            case rel => exact ⟨k + 1, R, A, by omega, hbq, HC', by go_num, by go_num, by go_num⟩
            case measure => simp [intOf]; omega
          · go_wp2
            go_quiet (fail)
            have hbq : Below w1.heap.size w1 (wr.drewN nq) := hbel.trans ((drewN_below _ _).mono (by omega))
            go_wp2
            go_roundw
            case rel => exact ⟨k + 1, R, (wrap64 (sq + 1)), by omega, hbq, HC', by go_num, by go_num, by go_num⟩
            case measure => simp [intOf]; omega
          · go_wp2
            go_quiet (fail)
            have hbq : Below w1.heap.size w1 (wr.drewN nq) := hbel.trans ((drewN_below _ _).mono (by omega))
            go_wp2
            go_roundw
            case rel => exact ⟨k + 1, (wrap64 (sq + 1)), A, by omega, hbq, HC', by go_num, by go_num, by go_num⟩
            case measure => simp [intOf]; omega
          · go_wp2
            go_quiet (fail)
            have hbq : Below w1.heap.size w1 (wr.drewN nq) := hbel.trans ((drewN_below _ _).mono (by omega))
            go_wp2
            go_roundw
            case rel => exact ⟨k + 1, R, A, by omega, hbq, HC', by go_num, by go_num, by go_num⟩
            case measure => simp [intOf]; omega
          · go_wp2
            go_quiet (fail)
            have hbq : Below w1.heap.size w1 (wr.drewN nq) := hbel.trans ((drewN_below _ _).mono (by omega))
            go_wp2
            go_roundw
            case rel => exact ⟨k + 1, R, A, by omega, hbq, HC', by go_num, by go_num, by go_num⟩
            case measure => simp [intOf]; omega
          · go_wp2
            go_quiet (fail)
            have hbq : Below w1.heap.size w1 (wr.drewN nq) := hbel.trans ((drewN_below _ _).mono (by omega))
            go_wp2
            go_roundw
            case rel => exact ⟨k + 1, R, A, by omega, hbq, HC', by go_num, by go_num, by go_num⟩
            case measure => simp [intOf]; omega
        · go_wp2
          go_ret
          exact ⟨rfl, hbA.trans (hbel.mono (Nat.le_of_lt hzL))⟩
end Go.Proofs.Ytnngjbheamegjaa
