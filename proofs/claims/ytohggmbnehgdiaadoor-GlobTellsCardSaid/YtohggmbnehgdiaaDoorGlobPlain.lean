/- GlobPlain, walked. -/
import Derived.Test.YtohggmbnehgdiaaDoorGlobFirst
import Derived.WalkKit
import Derived.ProofKit
import Derived.Handy
import Derived.Below
import Derived.BigQuiet
import Derived.Lib.Hide
import Derived.IntWalk
import Derived.Outline
import Derived.WalkLawsBesides
import Derived.WalkSpells
namespace Go.Proofs.YtohggmbnehgdiaaDoor
open Go.RowKit
attribute [local go_sem] strV

/-- The answer of Match, by its arguments; nothing that simp looks into. -/
def gmB (q x : ByteArray) : Bool := matchP q.data.toList x.data.toList
theorem matchB_any (q x : ByteArray) (w : World) (hq : q.size ≤ maxLen) (hx : x.size ≤ maxLen) :
    Calls Tryd.prog 10 #[.string q, .string x] w fun e w' => e = .returned (.bool (gmB q x)) ∧ Below w.heap.size w w' := match_any q x w hq hx

set_option maxRecDepth 100000 in
set_option maxHeartbeats 6400000 in
theorem walkGlobPlain (p s : ByteArray) (at_ : Int) (w : World) (hp : p.size ≤ maxLen) (hs : s.size ≤ maxLen) (hi1 : -9223372036854775808 ≤ at_) (hi2 : at_ ≤ 9223372036854775807) :
    Calls Tryd.prog 5 #[.string p, .string s, .int .i64 at_] w fun e w' => e = .returned (.bool true) ∧ Below w.heap.size w w' := by
  by_cases h39 : 39 < p.size
  · go_enter Tryd.func5, Tryd.ntmps5
    go_wp2_with (go_at_call 7; refine (first20_any _).mono ?_; rintro e w1 ⟨rfl, hb⟩)
    go_ret
    exact ⟨rfl, by repeat (first | assumption | exact Below.refl _ _ | refine bch ?_ (by assumption) | refine Below.alloc ?_ (by simp) _)⟩
  by_cases h200 : 200 < s.size
  · go_enter Tryd.func5, Tryd.ntmps5
    go_wp2_with (go_at_call 7; refine (first20_any _).mono ?_; rintro e w1 ⟨rfl, hb⟩)
    go_ret
    exact ⟨rfl, by repeat (first | assumption | exact Below.refl _ _ | refine bch ?_ (by assumption) | refine Below.alloc ?_ (by simp) _)⟩
  cases hpl : plainP p.data.toList
  · have HPL := Lib.hid hpl; clear hpl
    go_enter Tryd.func5, Tryd.ntmps5
    go_wp2_with (first | (go_at_call 7; refine (first20_any _).mono ?_; rintro e w1 ⟨rfl, hb⟩) | (go_at_call 12; refine (plain_any p _ hp).mono ?_; rintro e w1 ⟨rfl, hb⟩; rw [HPL.out]))
    go_ret
    exact ⟨rfl, by repeat (first | assumption | exact Below.refl _ _ | refine bch ?_ (by assumption) | refine Below.alloc ?_ (by simp) _)⟩
  have hpl2 := hpl
  unfold plainP at hpl2
  rw [Bool.and_eq_true] at hpl2
  obtain ⟨hmay, hpn⟩ := hpl2
  obtain ⟨h42, h63⟩ := plain_no hpn
  have HPL := Lib.hid hpl; clear hpl
  have hpm : gmB p p = true := by unfold gmB matchP; rw [hmay, gm_self h42]; rfl
  have main : ∀ (b0 : Bool) (hb0 : (p.toList == s.toList) = b0) (hpsC : gmB p s = b0),
      Calls Tryd.prog 5 #[.string p, .string s, .int .i64 at_] w fun e w' => e = .returned (.bool true) ∧ Below w.heap.size w w' := by
    intro b0 hb0 hpsC
    by_cases ha0 : at_ < 0
    · cases b0
      all_goals
        go_enter Tryd.func5, Tryd.ntmps5
        go_wp2_with (first | (go_at_call 7; refine (first20_any _).mono ?_; rintro e w1 ⟨rfl, hb⟩) | (go_at_call 12; refine (plain_any p _ hp).mono ?_; rintro e w1 ⟨rfl, hb⟩; rw [HPL.out]) | (go_at_call 10; refine (matchB_any _ _ _ (by with_reducible assumption) (by with_reducible assumption)).mono ?_; rintro e w1 ⟨rfl, hb⟩; first | rw [hpm] | rw [hpsC]))
        go_ret
        exact ⟨rfl, by repeat (first | assumption | exact Below.refl _ _ | refine bch ?_ (by assumption) | refine Below.alloc ?_ (by simp) _)⟩
    by_cases ha1 : (p.size : Int) ≤ at_
    · cases b0
      all_goals
        go_enter Tryd.func5, Tryd.ntmps5
        go_wp2_with (first | (go_at_call 7; refine (first20_any _).mono ?_; rintro e w1 ⟨rfl, hb⟩) | (go_at_call 12; refine (plain_any p _ hp).mono ?_; rintro e w1 ⟨rfl, hb⟩; rw [HPL.out]) | (go_at_call 10; refine (matchB_any _ _ _ (by with_reducible assumption) (by with_reducible assumption)).mono ?_; rintro e w1 ⟨rfl, hb⟩; first | rw [hpm] | rw [hpsC]))
        go_ret
        exact ⟨rfl, by repeat (first | assumption | exact Below.refl _ _ | refine bch ?_ (by assumption) | refine Below.alloc ?_ (by simp) _)⟩
    obtain ⟨a, rfl⟩ : ∃ a : Nat, at_ = a := ⟨at_.toNat, by omega⟩
    have ha : a < p.size := by omega
    have hal : a < p.data.toList.length := by rw [str_len]; exact ha
    have hq : (p.extract 0 a ++ ⟨#[63]⟩ ++ p.extract (a + 1) p.size).data.toList = askL p.data.toList a := by
      rw [str_append, str_append, str_take, str_drop]; first | done | rfl
    have hqs : (p.extract 0 a ++ ⟨#[63]⟩ ++ p.extract (a + 1) p.size).size ≤ maxLen := by
      rw [← str_len, hq, ask_len hal, str_len]; exact hp
    have hqm := ask_may hmay hal
    have hone : ∀ (x : ByteArray) (b : Bool), gm (askL p.data.toList a) x.data.toList = b → gmB (p.extract 0 a ++ ⟨#[63]⟩ ++ p.extract (a + 1) p.size) x = b := fun x b hg => by
      unfold gmB matchP; rw [hq, hqm, hg]; rfl
    have hp2 := hp; unfold maxLen at hp2
    have M1 := hone p true (ask_self h42 hal)
    have S2 : (p ++ ⟨#[97]⟩).size ≤ maxLen := by rw [ByteArray.size_append]; show p.size + 1 ≤ maxLen; unfold maxLen; omega
    have M2 := hone (p ++ ⟨#[97]⟩) false (ask_not h42 hal (by rw [str_len, str_len, ByteArray.size_append]; show p.size + 1 ≠ _; omega))
    have hz : (p.extract 0 a ++ ⟨#[90]⟩ ++ p.extract (a + 1) p.size).data.toList = p.data.toList.take a ++ [90] ++ p.data.toList.drop (a + 1) := by
      rw [str_append, str_append, str_take, str_drop]; first | done | rfl
    have hy : (p.extract 0 a ++ p.extract (a + 1) p.size).data.toList = p.data.toList.take a ++ p.data.toList.drop (a + 1) := by
      rw [str_append, str_take, str_drop]
    have S3 : (p.extract 0 a ++ ⟨#[90]⟩ ++ p.extract (a + 1) p.size).size ≤ maxLen := by rw [← str_len, hz, List.length_append, List.length_append, List.length_take, List.length_drop, List.length_singleton, str_len]; unfold maxLen; omega
    have M3 := hone (p.extract 0 a ++ ⟨#[90]⟩ ++ p.extract (a + 1) p.size) true (by rw [hz]; exact ask_any h42 90)
    have S4 : (p.extract 0 a ++ p.extract (a + 1) p.size).size ≤ maxLen := by rw [← str_len, hy, List.length_append, List.length_take, List.length_drop, str_len]; unfold maxLen; omega
    have M4 := hone (p.extract 0 a ++ p.extract (a + 1) p.size) false (ask_not h42 hal (by rw [hy]; (simp) <;> omega))
    have C : ∀ (x : ByteArray) (b : Bool), x.size ≤ maxLen → gmB (p.extract 0 a ++ ⟨#[63]⟩ ++ p.extract (a + 1) p.size) x = b → ∀ w, Calls Tryd.prog 10 #[.string (p.extract 0 a ++ ⟨#[63]⟩ ++ p.extract (a + 1) p.size), .string x] w fun e w' => e = .returned (.bool b) ∧ Below w.heap.size w w' :=
      fun x b hx h w => (matchB_any _ x w hqs hx).mono fun e w' ⟨h1, h2⟩ => ⟨by rw [h1, h], h2⟩
    have C1 := C _ _ hp M1
    have C2 := C _ _ S2 M2
    have C3 := C _ _ S3 M3
    have C4 := C _ _ S4 M4
    clear C M1 M2 M3 M4 S2 S3 S4 hqs
    clear hone hqm hmay hpn h42 h63 hz hy hq
    cases b0
    all_goals
      go_enter Tryd.func5, Tryd.ntmps5
      go_wp2_with (first | (go_at_call 7; refine (first20_any _).mono ?_; rintro e w1 ⟨rfl, hb⟩) | (go_at_call 12; refine (plain_any p _ hp).mono ?_; rintro e w1 ⟨rfl, hb⟩; rw [HPL.out]) | (go_at_call 10; refine (matchB_any _ _ _ (by with_reducible assumption) (by with_reducible assumption)).mono ?_; rintro e w1 ⟨rfl, hb⟩; first | rw [hpm] | rw [hpsC]))
      go_quiet (fail)
      go_wp2
      refine wp_region_below (by kernel_rfl) (by kernel_rfl) ?_
      repeat (go_big_quiet_step ((go_at_call 10; first | with_reducible exact quiet_below (C1 _) | with_reducible exact quiet_below (C2 _) | with_reducible exact quiet_below (C3 _) | with_reducible exact quiet_below (C4 _))))
      intro w9 hw9
      have hb9 := beyond_below hw9
      go_wp2
      go_ret
      exact ⟨rfl, bch (bch (by repeat (first | assumption | exact Below.refl _ _ | refine bch ?_ (by assumption) | refine Below.alloc ?_ (by simp) _)) (drewN_below _ nq)) hb9⟩
  by_cases hps : p = s
  · subst hps
    exact main true (by simp) hpm
  · have hl : (p.data.toList == s.data.toList) = false := by
      rw [beq_eq_false_iff_ne]; intro e
      exact hps (ByteArray.ext (Array.toList_inj.1 e))
    exact main false (by rw [ByteArray.toList_eq, ByteArray.toList_eq]; exact hl) (by unfold gmB matchP; rw [hmay, gm_plain h42 h63, hl]; rfl)
end Go.Proofs.YtohggmbnehgdiaaDoor
