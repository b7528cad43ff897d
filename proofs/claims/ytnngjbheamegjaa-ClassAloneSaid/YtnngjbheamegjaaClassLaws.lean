/- The laws of chapter 25, walked. -/
import Derived.Test.YtnngjbheamegjaaClassCls
import Derived.Test.YtnngjbheamegjaaPhi
import Derived.WalkKit
import Derived.ProofKit
import Derived.Handy
import Derived.Below
import Derived.Lib.Hide
import Derived.IntWalk
import Derived.Outline
import Derived.WalkLawsBesides
import Derived.WalkSpells
namespace Go.Proofs.Ytnngjbheamegjaa
open Go.RowKit

theorem RowAt.lit {w : World} {cs : Array Value} {e : TypeId} {g : Nat} {vs : List Value} (hg : g = w.heap.size) (h : cs.toList = vs) : RowAt (w.alloc (.cells cs e)) (some ⟨g, 0, none⟩) vs := by
  subst hg h
  refine .inr ⟨_, _, rfl, by simp, fun j hj => ?_⟩
  rw [Nat.zero_add, World.cell?_alloc_at _ _ _ _ rfl]; simp
def exPs : List Pk := [⟨4, 0, 0, true, true, false, false, false⟩, ⟨5, 0, 0, true, false, false, false, false⟩, ⟨6, 0, 0, true, true, false, false, false⟩]

set_option maxRecDepth 100000 in
set_option maxHeartbeats 1600000 in
theorem first25_any (w : World) :
    Calls Try.prog 19 #[] w fun e w' => e = .returned (.bool true) ∧ Below w.heap.size w w' := by
  have HEX : Hid (ofL ⟨true, true, true, false, 0, 4, 0, 4, 0, 0, 0, 0, 1⟩ exPs = [1, 5, 5]) := Lib.hid (by decide +kernel)
  go_enter Try.func19, Try.ntmps19
  go_wp2_with fail
  have hrow : RowAt ((w.alloc (.cells #[.bool true, .bool true, .bool true, .bool false, .int .i64 0, .int .i64 4, .int .i64 0, .int .i64 4, .int .i64 0, .int .i64 0, .int .i64 0, .int .i64 0, .int .i64 1] 33)).alloc (.cells #[.int .i64 4, .int .i64 0, .int .i64 0, .bool true, .bool true, .bool false, .bool false, .bool false, .int .i64 5, .int .i64 0, .int .i64 0, .bool true, .bool false, .bool false, .bool false, .bool false, .int .i64 6, .int .i64 0, .int .i64 0, .bool true, .bool true, .bool false, .bool false, .bool false] 46)) (some ⟨w.heap.size + 1, 0, none⟩) (exPs.flatMap Pk.cells) := RowAt.lit (by simp) rfl
  refine (of_any true true true false 0 4 0 4 0 0 0 0 1 _ 3 3 exPs _ hrow rfl (by unfold maxLen; omega) (by omega)).mono ?_
  rintro e w1 ⟨v, rfl, hown, hb⟩
  rw [HEX.out] at hown
  obtain ⟨a', cap', rfl, hr1, _⟩ := RowAt.own hown
  go_wp2_with fail
  have hr2 : RowAt (w1.alloc (.cells #[.int .i64 1, .int .i64 5, .int .i64 5] 3)) (some ⟨w1.heap.size, 0, none⟩) (([1, 5, 5] : List Int).map (Value.int .i64)) := RowAt.lit rfl rfl
  refine (ints_any (n := 3) (n' := 3) (x := [1, 5, 5]) (y := [1, 5, 5]) (hr1.below ((Below.refl _ _).alloc (Nat.le_refl _) _)) hr2 rfl rfl (by unfold maxLen; omega) (by unfold maxLen; omega)).mono ?_
  rintro e w2 ⟨rfl, hb2⟩
  rw [show (([1, 5, 5] : List Int) == [1, 5, 5]) = true from rfl]
  have hw2 : wantsB 2 = true := by decide
  have hw5 : wantsB 5 = false := by decide
  go_wp2_with (go_at_call 23; refine (wants_any _ _).mono ?_; rintro e wx ⟨rfl, rfl⟩)
  go_ret
  have hA := ((Below.refl w.heap.size w).alloc (Nat.le_refl _) (.cells #[.bool true, .bool true, .bool true, .bool false, .int .i64 0, .int .i64 4, .int .i64 0, .int .i64 4, .int .i64 0, .int .i64 0, .int .i64 0, .int .i64 0, .int .i64 1] 33)).alloc (by simp) (.cells #[.int .i64 4, .int .i64 0, .int .i64 0, .bool true, .bool true, .bool false, .bool false, .bool false, .int .i64 5, .int .i64 0, .int .i64 0, .bool true, .bool false, .bool false, .bool false, .bool false, .int .i64 6, .int .i64 0, .int .i64 0, .bool true, .bool true, .bool false, .bool false, .bool false] 46)
  have hz := hb.size
  simp only [World.size_alloc] at hz
  exact ⟨rfl, ((hA.trans (hb.mono (by simp; omega))).alloc (by omega) _).trans (hb2.mono (by simp; omega))⟩

set_option maxRecDepth 100000 in
set_option maxHeartbeats 6400000 in
theorem walkClassTells (o opn oo oc : Bool) (st nr nd na ht tm ah at_ sh : Int) (a : Option Addr) (n cap : Nat) (ps : List Pk) (kd : Int) (w : World) (hr : RowAt w a (ps.flatMap Pk.cells)) (hn : ps.length = n) (hl : n ≤ maxLen) :
    Calls Try.prog 6 #[.agg #[.bool o, .bool opn, .bool oo, .bool oc, .int .i64 st, .int .i64 nr, .int .i64 nd, .int .i64 na, .int .i64 ht, .int .i64 tm, .int .i64 ah, .int .i64 at_, .int .i64 sh], .slice a n cap, .int .i64 kd] w fun e w' => e = .returned (.bool true) ∧ Below w.heap.size w w' := by
  have hl' := hl; unfold maxLen at hl'
  by_cases h60 : 60 < n
  · go_enter Try.func6, Try.ntmps6
    go_wp2_with (go_at_call 19; refine (first25_any _).mono ?_; rintro e w1 ⟨rfl, hb⟩)
    go_ret
    exact ⟨rfl, by repeat (first | assumption | exact Below.refl _ _ | refine bch ?_ (by assumption) | refine Below.alloc ?_ (by simp) _)⟩
  · have HN := Lib.hid hn; clear hn
    have hofm : (ofL ⟨o, opn, oo, oc, st, nr, nd, na, ht, tm, ah, at_, sh⟩ ps).length ≤ maxLen := by
      unfold ofL; split
      · rw [clsL_len, HN.out]; exact hl
      · exact Nat.zero_le _
    have hbA := (Below.refl w.heap.size w).alloc (Nat.le_refl _) (.cells #[.bool o, .bool opn, .bool oo, .bool oc, .int .i64 st, .int .i64 nr, .int .i64 nd, .int .i64 na, .int .i64 ht, .int .i64 tm, .int .i64 ah, .int .i64 at_, .int .i64 sh] 33)
    have hcA : ChnAt (w.alloc (.cells #[.bool o, .bool opn, .bool oo, .bool oc, .int .i64 st, .int .i64 nr, .int .i64 nd, .int .i64 na, .int .i64 ht, .int .i64 tm, .int .i64 ah, .int .i64 at_, .int .i64 sh] 33)) w.heap.size ⟨o, opn, oo, oc, st, nr, nd, na, ht, tm, ah, at_, sh⟩ := chn_new w ⟨o, opn, oo, oc, st, nr, nd, na, ht, tm, ah, at_, sh⟩ _
    go_enter Try.func6, Try.ntmps6
    go_wp2_with (go_at_call 19; refine (first25_any _).mono ?_; rintro e w1 ⟨rfl, hb⟩)
    have hb1 : Below w.heap.size w w1 := hbA.trans (hb.mono (by simp))
    have hc1 : ChnAt w1 w.heap.size ⟨o, opn, oo, oc, st, nr, nd, na, ht, tm, ah, at_, sh⟩ := hcA.below hb (by simp)
    have hz1 : w.heap.size < w1.heap.size := by have := hb.size; simp at this; omega
    have hr1 := hr.below hb1
    clear hbA hcA hb
    refine wp_region_facts [Fact.eq (.slice a n cap), Fact.eq (.bool (riseB ps)), Fact.eq (.slice a n cap), Fact.row (n) (ps.flatMap Pk.cells), Fact.eq (.bool (riseB ps)), Fact.eq (.bool true), Fact.eq (.bool true), Fact.eq (.int .i64 kd), Fact.eq (.bool (wantsB kd)), Fact.eq (.int .i64 kd), Fact.eq (.bool (wantsB kd)), Fact.eq (.bool true), Fact.eq (.bool true), Fact.eq (.bool true), Fact.eq (.agg #[.bool o, .bool opn, .bool oo, .bool oc, .int .i64 st, .int .i64 nr, .int .i64 nd, .int .i64 na, .int .i64 ht, .int .i64 tm, .int .i64 ah, .int .i64 at_, .int .i64 sh]), Fact.eq (.slice a n cap), Fact.row ((ofL ⟨o, opn, oo, oc, st, nr, nd, na, ht, tm, ah, at_, sh⟩ ps).length) (((ofL ⟨o, opn, oo, oc, st, nr, nd, na, ht, tm, ah, at_, sh⟩ ps).map (Value.int .i64))), Fact.eq (.agg #[.bool o, .bool opn, .bool oo, .bool oc, .int .i64 st, .int .i64 nr, .int .i64 nd, .int .i64 na, .int .i64 ht, .int .i64 tm, .int .i64 ah, .int .i64 at_, .int .i64 sh]), Fact.eq (.agg #[.bool o, .bool opn, .bool oo, .bool oc, .int .i64 st, .int .i64 nr, .int .i64 nd, .int .i64 na, .int .i64 ht, .int .i64 tm, .int .i64 ah, .int .i64 at_, .int .i64 sh]), Fact.eq (.slice a n cap), Fact.row (n) (ps.flatMap Pk.cells), Fact.row ((ofL ⟨o, opn, oo, oc, st, nr, nd, na, ht, tm, ah, at_, sh⟩ ps).length) (((ofL ⟨o, opn, oo, oc, st, nr, nd, na, ht, tm, ah, at_, sh⟩ ps).map (Value.int .i64))), Fact.eq (.bool true), Fact.eq (.bool true), Fact.eq (.bool true)] (by kernel_rfl) (by kernel_rfl) (by kernel_rfl) (by kernel_rfl) (fun x => by simp only [fillFrom, Act.put, List.setIfInBounds_toArray, List.set_cons_succ, List.set_cons_zero]; rfl) ?_ ?_
    · refine ⟨?_, ?_, ?_, ?_, ?_, ?_, ?_, ?_, ?_, ?_, ?_, ?_, ?_, ?_, ?_, ?_, ?_, ?_, ?_, ?_, ?_, ?_, ?_, ?_, ?_, trivial⟩
      · intro x w' hbw hd
        clear hd
        go_wp2_with fail
        exact frPost_mk rfl (by repeat (first | assumption | exact Below.refl _ _ | refine bch ?_ (by assumption) | refine Below.alloc ?_ (by simp) _)) rfl
      · intro x w' hbw hd
        have d0 : x 0 = .slice a n cap := hd 0 rfl
        clear hd
        go_wp2_with (first | (go_at_call 20; refine (rise_n (hr1.below hbw) HN.out hl).mono ?_; rintro e w1 ⟨rfl, hb⟩))
        exact frPost_mk rfl (by repeat (first | assumption | exact Below.refl _ _ | refine bch ?_ (by assumption) | refine Below.alloc ?_ (by simp) _)) rfl
      · intro x w' hbw hd
        clear hd
        go_wp2_with fail
        exact frPost_mk rfl (by repeat (first | assumption | exact Below.refl _ _ | refine bch ?_ (by assumption) | refine Below.alloc ?_ (by simp) _)) rfl
      · intro x w' hbw hd
        have d2 : x 2 = .slice a n cap := hd 2 rfl
        clear hd
        go_wp2_with (first | (go_at_call 22; refine (doc_any (hr1.below hbw) HN.out (by omega)).mono ?_; rintro e w1 ⟨a', cap', rfl, hrow, hb⟩))
        exact frPost_mk rfl (by repeat (first | assumption | exact Below.refl _ _ | refine bch ?_ (by assumption) | refine Below.alloc ?_ (by simp) _)) ⟨_, _, rfl, by assumption⟩
      · intro x w' hbw hd
        obtain ⟨a3, cap3, d3, r3⟩ := (show (Fact.row (n) (ps.flatMap Pk.cells)).holds (x 3) w' from hd 3 rfl)
        clear hd
        go_wp2_with (first | (go_at_call 21; refine (refRise_n r3 HN.out hl).mono ?_; rintro e w1 ⟨rfl, hb⟩))
        exact frPost_mk rfl (by repeat (first | assumption | exact Below.refl _ _ | refine bch ?_ (by assumption) | refine Below.alloc ?_ (by simp) _)) rfl
      · intro x w' hbw hd
        have d1 : x 1 = .bool (riseB ps) := hd 1 rfl
        have d4 : x 4 = .bool (riseB ps) := hd 4 rfl
        clear hd
        go_wp2_with fail
        exact frPost_mk rfl (by repeat (first | assumption | exact Below.refl _ _ | refine bch ?_ (by assumption) | refine Below.alloc ?_ (by simp) _)) rfl
      · intro x w' hbw hd
        have d5 : x 5 = .bool true := hd 5 rfl
        clear hd
        go_wp2_with fail
        exact frPost_mk rfl (by repeat (first | assumption | exact Below.refl _ _ | refine bch ?_ (by assumption) | refine Below.alloc ?_ (by simp) _)) rfl
      · intro x w' hbw hd
        have d6 : x 6 = .bool true := hd 6 rfl
        clear hd
        go_wp2_with fail
        exact frPost_mk rfl (by repeat (first | assumption | exact Below.refl _ _ | refine bch ?_ (by assumption) | refine Below.alloc ?_ (by simp) _)) rfl
      · intro x w' hbw hd
        have d6 : x 6 = .bool true := hd 6 rfl
        have d7 : x 7 = .int .i64 kd := hd 7 rfl
        clear hd
        go_wp2_with (first | (go_at_call 23; refine (wants_any _ _).mono ?_; rintro e w1 ⟨rfl, rfl⟩))
        exact frPost_mk rfl (by repeat (first | assumption | exact Below.refl _ _ | refine bch ?_ (by assumption) | refine Below.alloc ?_ (by simp) _)) rfl
      · intro x w' hbw hd
        have d6 : x 6 = .bool true := hd 6 rfl
        clear hd
        go_wp2_with fail
        exact frPost_mk rfl (by repeat (first | assumption | exact Below.refl _ _ | refine bch ?_ (by assumption) | refine Below.alloc ?_ (by simp) _)) rfl
      · intro x w' hbw hd
        have d6 : x 6 = .bool true := hd 6 rfl
        have d9 : x 9 = .int .i64 kd := hd 9 rfl
        clear hd
        go_wp2_with (first | (go_at_call 24; refine (refWants_any _ _).mono ?_; rintro e w1 ⟨rfl, rfl⟩))
        exact frPost_mk rfl (by repeat (first | assumption | exact Below.refl _ _ | refine bch ?_ (by assumption) | refine Below.alloc ?_ (by simp) _)) rfl
      · intro x w' hbw hd
        have d6 : x 6 = .bool true := hd 6 rfl
        have d8 : x 8 = .bool (wantsB kd) := hd 8 rfl
        have d10 : x 10 = .bool (wantsB kd) := hd 10 rfl
        clear hd
        go_wp2_with fail
        exact frPost_mk rfl (by repeat (first | assumption | exact Below.refl _ _ | refine bch ?_ (by assumption) | refine Below.alloc ?_ (by simp) _)) rfl
      · intro x w' hbw hd
        have d6 : x 6 = .bool true := hd 6 rfl
        have d11 : x 11 = .bool true := hd 11 rfl
        clear hd
        go_wp2_with fail
        exact frPost_mk rfl (by repeat (first | assumption | exact Below.refl _ _ | refine bch ?_ (by assumption) | refine Below.alloc ?_ (by simp) _)) rfl
      · intro x w' hbw hd
        have d12 : x 12 = .bool true := hd 12 rfl
        clear hd
        go_wp2_with fail
        exact frPost_mk rfl (by repeat (first | assumption | exact Below.refl _ _ | refine bch ?_ (by assumption) | refine Below.alloc ?_ (by simp) _)) rfl
      · intro x w' hbw hd
        have d13 : x 13 = .bool true := hd 13 rfl
        clear hd
        obtain ⟨f0, f1, f2, f3, f4, f5, f6, f7, f8, f9, f10, f11, f12⟩ := hc1.below hbw hz1
        simp only at f0 f1 f2 f3 f4 f5 f6 f7 f8 f9 f10 f11 f12
        go_wp2_with fail
        exact frPost_mk rfl (by repeat (first | assumption | exact Below.refl _ _ | refine bch ?_ (by assumption) | refine Below.alloc ?_ (by simp) _)) rfl
      · intro x w' hbw hd
        have d13 : x 13 = .bool true := hd 13 rfl
        clear hd
        go_wp2_with fail
        exact frPost_mk rfl (by repeat (first | assumption | exact Below.refl _ _ | refine bch ?_ (by assumption) | refine Below.alloc ?_ (by simp) _)) rfl
      · intro x w' hbw hd
        have d13 : x 13 = .bool true := hd 13 rfl
        have d14 : x 14 = .agg #[.bool o, .bool opn, .bool oo, .bool oc, .int .i64 st, .int .i64 nr, .int .i64 nd, .int .i64 na, .int .i64 ht, .int .i64 tm, .int .i64 ah, .int .i64 at_, .int .i64 sh] := hd 14 rfl
        have d15 : x 15 = .slice a n cap := hd 15 rfl
        clear hd
        go_wp2_with (first | (go_at_call 26; refine (of_any _ _ _ _ _ _ _ _ _ _ _ _ _ _ _ _ _ _ (hr1.below hbw) HN.out hl (by omega)).mono ?_; rintro e w1 ⟨v, rfl, hown, hb⟩; obtain ⟨a', cap', rfl, hrow, _⟩ := RowAt.own hown))
        exact frPost_mk rfl (by repeat (first | assumption | exact Below.refl _ _ | refine bch ?_ (by assumption) | refine Below.alloc ?_ (by simp) _)) ⟨_, _, rfl, by assumption⟩
      · intro x w' hbw hd
        have d13 : x 13 = .bool true := hd 13 rfl
        clear hd
        obtain ⟨f0, f1, f2, f3, f4, f5, f6, f7, f8, f9, f10, f11, f12⟩ := hc1.below hbw hz1
        simp only at f0 f1 f2 f3 f4 f5 f6 f7 f8 f9 f10 f11 f12
        go_wp2_with fail
        exact frPost_mk rfl (by repeat (first | assumption | exact Below.refl _ _ | refine bch ?_ (by assumption) | refine Below.alloc ?_ (by simp) _)) rfl
      · intro x w' hbw hd
        have d13 : x 13 = .bool true := hd 13 rfl
        have d17 : x 17 = .agg #[.bool o, .bool opn, .bool oo, .bool oc, .int .i64 st, .int .i64 nr, .int .i64 nd, .int .i64 na, .int .i64 ht, .int .i64 tm, .int .i64 ah, .int .i64 at_, .int .i64 sh] := hd 17 rfl
        clear hd
        go_wp2_with (first | (go_at_call 28; refine (keepChannel_any).mono ?_; rintro e w1 ⟨rfl, hb⟩))
        exact frPost_mk rfl (by repeat (first | assumption | exact Below.refl _ _ | refine bch ?_ (by assumption) | refine Below.alloc ?_ (by simp) _)) rfl
      · intro x w' hbw hd
        have d13 : x 13 = .bool true := hd 13 rfl
        clear hd
        go_wp2_with fail
        exact frPost_mk rfl (by repeat (first | assumption | exact Below.refl _ _ | refine bch ?_ (by assumption) | refine Below.alloc ?_ (by simp) _)) rfl
      · intro x w' hbw hd
        have d13 : x 13 = .bool true := hd 13 rfl
        have d19 : x 19 = .slice a n cap := hd 19 rfl
        clear hd
        go_wp2_with (first | (go_at_call 22; refine (doc_any (hr1.below hbw) HN.out (by omega)).mono ?_; rintro e w1 ⟨a', cap', rfl, hrow, hb⟩))
        exact frPost_mk rfl (by repeat (first | assumption | exact Below.refl _ _ | refine bch ?_ (by assumption) | refine Below.alloc ?_ (by simp) _)) ⟨_, _, rfl, by assumption⟩
      · intro x w' hbw hd
        have d13 : x 13 = .bool true := hd 13 rfl
        have d18 : x 18 = .agg #[.bool o, .bool opn, .bool oo, .bool oc, .int .i64 st, .int .i64 nr, .int .i64 nd, .int .i64 na, .int .i64 ht, .int .i64 tm, .int .i64 ah, .int .i64 at_, .int .i64 sh] := hd 18 rfl
        obtain ⟨a20, cap20, d20, r20⟩ := (show (Fact.row (n) (ps.flatMap Pk.cells)).holds (x 20) w' from hd 20 rfl)
        clear hd
        go_wp2_with (first | (go_at_call 27; refine (class_any _ _ _ _ _ _ _ _ _ _ _ _ _ r20 HN.out hl (by omega)).mono ?_; rintro e w1 ⟨v, rfl, hown, hb⟩; obtain ⟨a', cap', rfl, hrow, _⟩ := RowAt.own hown))
        exact frPost_mk rfl (by repeat (first | assumption | exact Below.refl _ _ | refine bch ?_ (by assumption) | refine Below.alloc ?_ (by simp) _)) ⟨_, _, rfl, by assumption⟩
      · intro x w' hbw hd
        have d13 : x 13 = .bool true := hd 13 rfl
        obtain ⟨a16, cap16, d16, r16⟩ := (show (Fact.row ((ofL ⟨o, opn, oo, oc, st, nr, nd, na, ht, tm, ah, at_, sh⟩ ps).length) (((ofL ⟨o, opn, oo, oc, st, nr, nd, na, ht, tm, ah, at_, sh⟩ ps).map (Value.int .i64)))).holds (x 16) w' from hd 16 rfl)
        obtain ⟨a21, cap21, d21, r21⟩ := (show (Fact.row ((ofL ⟨o, opn, oo, oc, st, nr, nd, na, ht, tm, ah, at_, sh⟩ ps).length) (((ofL ⟨o, opn, oo, oc, st, nr, nd, na, ht, tm, ah, at_, sh⟩ ps).map (Value.int .i64)))).holds (x 21) w' from hd 21 rfl)
        clear hd
        go_wp2_with (first | (go_at_call 25; refine (ints_any r16 r21 (by simp) (by simp) hofm hofm).mono ?_; rintro e w1 ⟨rfl, hb⟩))
        exact frPost_mk rfl (by repeat (first | assumption | exact Below.refl _ _ | refine bch ?_ (by assumption) | refine Below.alloc ?_ (by simp) _)) rfl
      · intro x w' hbw hd
        have d13 : x 13 = .bool true := hd 13 rfl
        have d22 : x 22 = .bool true := hd 22 rfl
        clear hd
        go_wp2_with fail
        exact frPost_mk rfl (by repeat (first | assumption | exact Below.refl _ _ | refine bch ?_ (by assumption) | refine Below.alloc ?_ (by simp) _)) rfl
      · intro x w' hbw hd
        have d23 : x 23 = .bool true := hd 23 rfl
        clear hd
        go_wp2_with fail
        exact frPost_mk rfl (by repeat (first | assumption | exact Below.refl _ _ | refine bch ?_ (by assumption) | refine Below.alloc ?_ (by simp) _)) rfl
    · intro x w' hbw hall
      have h24 : x 24 = .bool true := hall 24 (by decide)
      clear hall
      go_wp2
      go_ret
      exact ⟨by first | rfl | exact congrArg Ending.returned h24, hb1.trans (hbw.mono (Nat.le_of_lt hz1))⟩
end Go.Proofs.Ytnngjbheamegjaa
