/- ClassTime and ClassRuns, walked. -/
import Derived.Test.YtnngjbheamegjaaClassLaws
import Derived.WalkKit
import Derived.ProofKit
import Derived.Handy
import Derived.Below
import Derived.Lib.Hide
import Derived.IntWalk
import Derived.Outline
import Derived.WalkLawsBesides
import Derived.WalkSpells
namespace Go.Proofs.Ytnngjbheamegjaa
open Go.RowKit

/-- The class of one packet, the next numbers being given. -/
def oneI (c : Chn) (na nr : Int) (p : Pk) : Int :=
  if p.kept = false then 0 else if acksB c p na then 2 else if recvB c p nr then 1 else if lostB c p then endI c p else 5
theorem cls_one (c : Chn) (ps : List Pk) : ∀ (na nr : Int) (i : Nat) (p : Pk), ps[i]? = some p → ∃ NA NR, (clsL c na nr ps)[i]? = some (oneI c NA NR p) := by
  induction ps with
  | nil => intro na nr i p h; simp at h
  | cons q l ih =>
    intro na nr i p h
    cases i with
    | zero =>
      simp only [List.getElem?_cons_zero, Option.some.injEq] at h
      subst h
      refine ⟨na, nr, ?_⟩
      unfold clsL oneI
      (repeat' split) <;> simp_all
    | succ i =>
      have h' : l[i]? = some p := by simpa using h
      unfold clsL
      (repeat' split) <;> (simp only [List.getElem?_cons_succ]; exact ih _ _ i p h')
theorem endI_or (c : Chn) (p : Pk) : endI c p = 3 ∨ endI c p = 4 ∨ endI c p = 5 := by
  unfold endI; (repeat' split) <;> simp
/-- With both ends open: what a class tells. -/
theorem one_time {c : Chn} {na nr : Int} {p : Pk} (ho : c.opn = true) (hc : c.otherClosed = false) :
    oneI c na nr p = 0 ∨ oneI c na nr p = 2 ∨ oneI c na nr p = 5 ∨ (oneI c na nr p = 1 ∧ overB p c.height c.time = false ∧ c.otherOpen = true) ∨
      (oneI c na nr p = 3 ∧ overB p c.atHeight c.atTime = true ∧ (c.atHeight == 0) = false ∧ (c.ordered = false ∨ (c.ordered = true ∧ (p.seq != c.nextDone) = false))) := by
  unfold oneI
  by_cases h1 : p.kept = false
  · rw [if_pos h1]; exact .inl rfl
  rw [if_neg h1]
  by_cases h2 : acksB c p na = true
  · rw [if_pos h2]; exact .inr (.inl rfl)
  rw [if_neg h2]
  by_cases h3 : recvB c p nr = true
  · rw [if_pos h3]
    refine .inr (.inr (.inr (.inl ⟨rfl, ?_⟩)))
    simp [recvB] at h3
    simp [h3]
  rw [if_neg h3]
  by_cases h4 : lostB c p = true
  · rw [if_pos h4]
    unfold endI
    rw [ho, hc]
    simp only [Bool.true_eq_false, if_false, Bool.false_eq_true]
    by_cases h5 : (overB p c.atHeight c.atTime && turnB c p c.nextDone) = true
    · rw [if_pos h5]
      rw [Bool.and_eq_true] at h5
      refine .inr (.inr (.inr (.inr ⟨rfl, h5.1, ?_, ?_⟩)))
      · simp [lostB] at h4; simp [h4]
      · have := h5.2
        unfold turnB at this
        cases ho' : c.ordered
        · exact .inl rfl
        · rw [ho'] at this; exact .inr ⟨rfl, by simpa using this⟩
    · rw [if_neg h5]; exact .inr (.inr (.inl rfl))
  · rw [if_neg h4]; exact .inr (.inr (.inl rfl))

set_option maxRecDepth 100000 in
set_option maxHeartbeats 6400000 in
theorem walkClassTime (o opn oo oc : Bool) (st nr nd na ht tm ah at_ sh : Int) (a : Option Addr) (n cap : Nat) (ps : List Pk) (w : World) (hr : RowAt w a (ps.flatMap Pk.cells)) (hn : ps.length = n) (hl : n ≤ maxLen) :
    Calls Try.prog 9 #[.agg #[.bool o, .bool opn, .bool oo, .bool oc, .int .i64 st, .int .i64 nr, .int .i64 nd, .int .i64 na, .int .i64 ht, .int .i64 tm, .int .i64 ah, .int .i64 at_, .int .i64 sh], .slice a n cap] w fun e w' => e = .returned (.bool true) ∧ Below w.heap.size w w' := by
  have hl' := hl; unfold maxLen at hl'
  have hbA := (Below.refl w.heap.size w).alloc (Nat.le_refl _) (.cells #[.bool o, .bool opn, .bool oo, .bool oc, .int .i64 st, .int .i64 nr, .int .i64 nd, .int .i64 na, .int .i64 ht, .int .i64 tm, .int .i64 ah, .int .i64 at_, .int .i64 sh] 33)
  have hrB := hr.below hbA
  have hcA : ChnAt (w.alloc (.cells #[.bool o, .bool opn, .bool oo, .bool oc, .int .i64 st, .int .i64 nr, .int .i64 nd, .int .i64 na, .int .i64 ht, .int .i64 tm, .int .i64 ah, .int .i64 at_, .int .i64 sh] 33)) w.heap.size ⟨o, opn, oo, oc, st, nr, nd, na, ht, tm, ah, at_, sh⟩ := chn_new w ⟨o, opn, oo, oc, st, nr, nd, na, ht, tm, ah, at_, sh⟩ _
  have hzL : w.heap.size < (w.alloc (.cells #[.bool o, .bool opn, .bool oo, .bool oc, .int .i64 st, .int .i64 nr, .int .i64 nd, .int .i64 na, .int .i64 ht, .int .i64 tm, .int .i64 ah, .int .i64 at_, .int .i64 sh] 33)).heap.size := by simp
  have HN := Lib.hid hn; clear hn
  cases hrise : riseB ps
  · have HR := Lib.hid hrise; clear hrise
    by_cases h60 : 60 < n
    all_goals
      go_enter Try.func9, Try.ntmps9
      go_wp2_with (first | (go_at_call 19; refine (first25_any _).mono ?_; rintro e w1 ⟨rfl, hb⟩; have hrB := hrB.below hb; have hbA := hbA.trans (hb.mono (Nat.le_of_lt hzL)); have hcA := hcA.below hb hzL; have hzL := Nat.lt_of_lt_of_le hzL hb.size; have hcC := hcA; obtain ⟨f0, f1, f2, f3, f4, f5, f6, f7, f8, f9, f10, f11, f12⟩ := hcC; simp only at f0 f1 f2 f3 f4 f5 f6 f7 f8 f9 f10 f11 f12) | (go_at_call 20; refine (rise_n hrB HN.out hl).mono ?_; rintro e w1 ⟨rfl, hb⟩; rw [HR.out]; have hrB := hrB.below hb; have hbA := hbA.trans (hb.mono (Nat.le_of_lt hzL)); have hcA := hcA.below hb hzL; have hzL := Nat.lt_of_lt_of_le hzL hb.size; have hcC := hcA; obtain ⟨f0, f1, f2, f3, f4, f5, f6, f7, f8, f9, f10, f11, f12⟩ := hcC; simp only at f0 f1 f2 f3 f4 f5 f6 f7 f8 f9 f10 f11 f12))
      go_ret
      exact ⟨rfl, hbA⟩
  · have HR := Lib.hid hrise; clear hrise
    by_cases h60 : 60 < n
    · skip
      go_enter Try.func9, Try.ntmps9
      go_wp2_with (first | (go_at_call 19; refine (first25_any _).mono ?_; rintro e w1 ⟨rfl, hb⟩; have hrB := hrB.below hb; have hbA := hbA.trans (hb.mono (Nat.le_of_lt hzL)); have hcA := hcA.below hb hzL; have hzL := Nat.lt_of_lt_of_le hzL hb.size; have hcC := hcA; obtain ⟨f0, f1, f2, f3, f4, f5, f6, f7, f8, f9, f10, f11, f12⟩ := hcC; simp only at f0 f1 f2 f3 f4 f5 f6 f7 f8 f9 f10 f11 f12) | (go_at_call 20; refine (rise_n hrB HN.out hl).mono ?_; rintro e w1 ⟨rfl, hb⟩; rw [HR.out]; have hrB := hrB.below hb; have hbA := hbA.trans (hb.mono (Nat.le_of_lt hzL)); have hcA := hcA.below hb hzL; have hzL := Nat.lt_of_lt_of_le hzL hb.size; have hcC := hcA; obtain ⟨f0, f1, f2, f3, f4, f5, f6, f7, f8, f9, f10, f11, f12⟩ := hcC; simp only at f0 f1 f2 f3 f4 f5 f6 f7 f8 f9 f10 f11 f12))
      go_ret
      exact ⟨rfl, hbA⟩
    cases opn
    · skip
      go_enter Try.func9, Try.ntmps9
      go_wp2_with (first | (go_at_call 19; refine (first25_any _).mono ?_; rintro e w1 ⟨rfl, hb⟩; have hrB := hrB.below hb; have hbA := hbA.trans (hb.mono (Nat.le_of_lt hzL)); have hcA := hcA.below hb hzL; have hzL := Nat.lt_of_lt_of_le hzL hb.size; have hcC := hcA; obtain ⟨f0, f1, f2, f3, f4, f5, f6, f7, f8, f9, f10, f11, f12⟩ := hcC; simp only at f0 f1 f2 f3 f4 f5 f6 f7 f8 f9 f10 f11 f12) | (go_at_call 20; refine (rise_n hrB HN.out hl).mono ?_; rintro e w1 ⟨rfl, hb⟩; rw [HR.out]; have hrB := hrB.below hb; have hbA := hbA.trans (hb.mono (Nat.le_of_lt hzL)); have hcA := hcA.below hb hzL; have hzL := Nat.lt_of_lt_of_le hzL hb.size; have hcC := hcA; obtain ⟨f0, f1, f2, f3, f4, f5, f6, f7, f8, f9, f10, f11, f12⟩ := hcC; simp only at f0 f1 f2 f3 f4 f5 f6 f7 f8 f9 f10 f11 f12))
      go_ret
      exact ⟨rfl, hbA⟩
    cases oc
    rotate_left
    · skip
      go_enter Try.func9, Try.ntmps9
      go_wp2_with (first | (go_at_call 19; refine (first25_any _).mono ?_; rintro e w1 ⟨rfl, hb⟩; have hrB := hrB.below hb; have hbA := hbA.trans (hb.mono (Nat.le_of_lt hzL)); have hcA := hcA.below hb hzL; have hzL := Nat.lt_of_lt_of_le hzL hb.size; have hcC := hcA; obtain ⟨f0, f1, f2, f3, f4, f5, f6, f7, f8, f9, f10, f11, f12⟩ := hcC; simp only at f0 f1 f2 f3 f4 f5 f6 f7 f8 f9 f10 f11 f12) | (go_at_call 20; refine (rise_n hrB HN.out hl).mono ?_; rintro e w1 ⟨rfl, hb⟩; rw [HR.out]; have hrB := hrB.below hb; have hbA := hbA.trans (hb.mono (Nat.le_of_lt hzL)); have hcA := hcA.below hb hzL; have hzL := Nat.lt_of_lt_of_le hzL hb.size; have hcC := hcA; obtain ⟨f0, f1, f2, f3, f4, f5, f6, f7, f8, f9, f10, f11, f12⟩ := hcC; simp only at f0 f1 f2 f3 f4 f5 f6 f7 f8 f9 f10 f11 f12))
      go_ret
      exact ⟨rfl, hbA⟩
    have HOF : Hid (ofL ⟨o, true, oo, false, st, nr, nd, na, ht, tm, ah, at_, sh⟩ ps = clsL ⟨o, true, oo, false, st, nr, nd, na, ht, tm, ah, at_, sh⟩ na nr ps) := Lib.hid (by unfold ofL; rw [if_pos HR.out])
    have HLEN : Hid ((clsL ⟨o, true, oo, false, st, nr, nd, na, ht, tm, ah, at_, sh⟩ na nr ps).length = n) := Lib.hid (by rw [clsL_len, HN.out])
    go_enter Try.func9, Try.ntmps9
    go_wp2_with (first | (go_at_call 19; refine (first25_any _).mono ?_; rintro e w1 ⟨rfl, hb⟩; have hrB := hrB.below hb; have hbA := hbA.trans (hb.mono (Nat.le_of_lt hzL)); have hcA := hcA.below hb hzL; have hzL := Nat.lt_of_lt_of_le hzL hb.size; have hcC := hcA; obtain ⟨f0, f1, f2, f3, f4, f5, f6, f7, f8, f9, f10, f11, f12⟩ := hcC; simp only at f0 f1 f2 f3 f4 f5 f6 f7 f8 f9 f10 f11 f12) | (go_at_call 20; refine (rise_n hrB HN.out hl).mono ?_; rintro e w1 ⟨rfl, hb⟩; rw [HR.out]; have hrB := hrB.below hb; have hbA := hbA.trans (hb.mono (Nat.le_of_lt hzL)); have hcA := hcA.below hb hzL; have hzL := Nat.lt_of_lt_of_le hzL hb.size; have hcC := hcA; obtain ⟨f0, f1, f2, f3, f4, f5, f6, f7, f8, f9, f10, f11, f12⟩ := hcC; simp only at f0 f1 f2 f3 f4 f5 f6 f7 f8 f9 f10 f11 f12) | (go_at_call 26; refine (of_any _ _ _ _ _ _ _ _ _ _ _ _ _ _ _ _ _ _ hrB HN.out hl (by omega)).mono ?_; rintro e w1 ⟨v, rfl, hown, hb⟩; rw [HOF.out, HLEN.out] at hown; obtain ⟨a', cap', rfl, hrow, _⟩ := RowAt.own hown; have hrB := hrB.below hb; have hbA := hbA.trans (hb.mono (Nat.le_of_lt hzL)); have hcA := hcA.below hb hzL; have hzL := Nat.lt_of_lt_of_le hzL hb.size))
    generalize hX : clsL ⟨o, true, oo, false, st, nr, nd, na, ht, tm, ah, at_, sh⟩ na nr ps = X at hrow
    have HX := Lib.hid hX; clear hX
    have HXL : Hid (X.length = n) := Lib.hid (by rw [← HX.out]; exact HLEN.out)
    go_loopw [6] (fun i wr => ∃ k : Nat, k ≤ n ∧ Below w1.heap.size w1 wr ∧ i = .int .i64 k) (fun i _ => n - (intOf i).toNat)
    case atStart => exact ⟨0, by omega, Below.refl _ _, rfl⟩
    case round =>
      obtain ⟨k, hk, hbel, rfl⟩ := hrel
      have hzR := hbel.size
      by_cases hlt : k < n
      · obtain ⟨b, off, rfl, hbl, hp⟩ := pk_at (hrB.below hbel) (k := k) (by rw [HN.out]; exact hlt)
        obtain ⟨b', off', rfl, hbl', hz⟩ := row_get (hrow.below hbel) (k := k) (by rw [HXL.out]; exact hlt)
        obtain ⟨NA, NR, hone⟩ := cls_one ⟨o, true, oo, false, st, nr, nd, na, ht, tm, ah, at_, sh⟩ ps na nr k _ (List.getElem?_eq_getElem (show k < ps.length by rw [HN.out]; exact hlt))
        have hxk : X[k]'(by rw [HXL.out]; exact hlt) = oneI ⟨o, true, oo, false, st, nr, nd, na, ht, tm, ah, at_, sh⟩ NA NR (ps[k]'(by rw [HN.out]; exact hlt)) := by
          have h1 : X[k]? = some (X[k]'(by rw [HXL.out]; exact hlt)) := List.getElem?_eq_getElem _
          rw [HX.out, h1] at hone; exact Option.some.inj hone
        have htime := one_time (c := ⟨o, true, oo, false, st, nr, nd, na, ht, tm, ah, at_, sh⟩) (na := NA) (nr := NR) (p := ps[k]'(by rw [HN.out]; exact hlt)) rfl rfl
        rw [← hxk] at htime
        clear hone hxk
        generalize X[k]'(by rw [HXL.out]; exact hlt) = z at hz htime
        generalize ps[k]'(by rw [HN.out]; exact hlt) = p at hp htime
        obtain ⟨sq, pth, pta, kp, shn, rcv, dn, ack⟩ := p
        obtain ⟨p0, p1, p2, p3, p4, p5, p6, p7⟩ := hp
        have hcR := hcA.below hbel hzL
        obtain ⟨f0, f1, f2, f3, f4, f5, f6, f7, f8, f9, f10, f11, f12⟩ := hcR
        simp only at p0 p1 p2 p3 p4 p5 p6 p7 f0 f1 f2 f3 f4 f5 f6 f7 f8 f9 f10 f11 f12 htime
        have hzW : w.heap.size < wr.heap.size := Nat.lt_of_lt_of_le hzL hbel.size
        have hHT := Lib.hid htime; clear htime
        go_wp2
        go_quiet ((go_at_call 29; exact Calls.quiet_of_same (refOver_any.mono fun _ _ ⟨h1, h2⟩ => ⟨h1, h2.symm⟩)))
        have hbq : Below w1.heap.size w1 ((wr.alloc (.cells #[.int .i64 sq, .int .i64 pth, .int .i64 pta, .bool kp, .bool shn, .bool rcv, .bool dn, .bool ack] 46)).drewN nq) := (hbel.alloc hzR _).trans ((drewN_below _ _).mono (by simp; omega))
        rcases hHT.out with rfl | rfl | rfl | ⟨rfl, hov, rfl⟩ | ⟨rfl, hov, hah, hod⟩
        · go_wp2
          go_roundw
          case rel => exact ⟨k + 1, by omega, hbq, by go_num⟩
          case measure => simp [intOf]; omega
        · go_wp2
          go_roundw
          case rel => exact ⟨k + 1, by omega, hbq, by go_num⟩
          case measure => simp [intOf]; omega
        · go_wp2
          go_roundw
          case rel => exact ⟨k + 1, by omega, hbq, by go_num⟩
          case measure => simp [intOf]; omega
        · unfold overB at hov
          simp only at hov
          go_wp2
          go_roundw
          case rel => exact ⟨k + 1, by omega, hbq, by go_num⟩
          case measure => simp [intOf]; omega
        · unfold overB at hov
          simp only at hov
          rcases hod with rfl | ⟨rfl, hsq⟩
          · go_wp2
            go_roundw
            case rel => exact ⟨k + 1, by omega, hbq, by go_num⟩
            case measure => simp [intOf]; omega
          · go_wp2
            go_roundw
            case rel => exact ⟨k + 1, by omega, hbq, by go_num⟩
            case measure => simp [intOf]; omega
      · go_wp2
        go_ret
        exact ⟨rfl, hbA.trans (hbel.mono (Nat.le_of_lt hzL))⟩
end Go.Proofs.Ytnngjbheamegjaa
