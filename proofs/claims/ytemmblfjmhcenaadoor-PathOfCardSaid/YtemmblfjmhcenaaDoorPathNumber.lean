/- PathNumber, walked. -/
import Derived.Test.YtemmblfjmhcenaaDoorDigits
import Derived.WalkKit
import Derived.ProofKit
import Derived.Handy
import Derived.Below
import Derived.BigQuiet
import Derived.Lib.Hide
import Derived.IntWalk
import Derived.Outline
import Derived.WalkLawsBesides
import Derived.WalkSpells
namespace Go.Proofs.YtemmblfjmhcenaaDoor
open Go.RowKit
attribute [local go_sem] strV
theorem refNumberB_any (x : ByteArray) (w : World) (hs : x.size ≤ maxLen) :
    Calls Tryd.prog 20 #[.string x] w fun e w' => e = .returned (.tuple #[.int .i64 (numVB x), .int .i64 (numEB x)]) ∧ w' = w := refNumber_any x w hs
theorem dec_head {u : Nat} (h : 1 ≤ u) : (Lib.decDigits u)[0]? ≠ some 48 := by
  induction u using Nat.strongRecOn with
  | _ u ih =>
    rw [Lib.decDigits]
    by_cases h10 : u < 10
    · rw [dif_pos h10]
      intro e
      simp only [List.getElem?_cons_zero, Option.some.injEq] at e
      have := congrArg UInt8.toNat e
      rw [UInt8.toNat_ofNat'] at this
      simp at this; omega
    · rw [dif_neg h10]
      have e := ih (u / 10) (by omega) (by omega)
      rwa [List.getElem?_append_left (by rw [Lib.decDigits_length]; unfold Lib.nDigits; split <;> omega)]
theorem dec_nz (u : Nat) : zeroHead (Lib.decDigits u) = false := by
  by_cases h : u = 0
  · subst h; decide +kernel
  · unfold zeroHead
    have := dec_head (show 1 ≤ u by omega)
    rw [beq_eq_false_iff_ne.2 this, Bool.and_false]
theorem dec_ne (u : Nat) : Lib.decDigits u ≠ [] := by
  intro e
  have := congrArg List.length e
  rw [Lib.decDigits_length] at this
  revert this; unfold Lib.nDigits; split <;> simp
theorem num_dec {u : Nat} (h : u ≤ 72057594037927935) : numEB (itB u) = 0 ∧ numVB (itB u) = u := by
  have hl : (itB (u : Int)).data.toList = Lib.decDigits u := by rw [itB_list (by omega)]; rfl
  unfold numEB numVB
  rw [hl]
  have := num_ok (dec_ne u) (dec_dig u) (dec_nz u) (by rw [dec_val]; exact h)
  rw [dec_val] at this; exact this

set_option maxRecDepth 100000 in
set_option maxHeartbeats 6400000 in
theorem walkPathNumber (s : ByteArray) (n : Int) (w : World) (hW : PW w) (hs : s.size ≤ maxLen) (hn1 : -9223372036854775808 ≤ n) (hn2 : n ≤ 9223372036854775807) :
    Calls Tryd.prog 4 #[.string s, .int .i64 n] w fun e w' => e = .returned (.bool true) ∧ Below w.heap.size w w' := by
  by_cases h60 : 60 < s.size
  · go_enter Tryd.func4, Tryd.ntmps4
    go_wp2_with (go_at_call 8; refine (first3_any _ (hW.below (by repeat (first | assumption | exact Below.refl _ _ | refine bch ?_ (by assumption) | refine Below.alloc ?_ (by (try simp) <;> omega) _)))).mono ?_; rintro e w1 ⟨rfl, hb⟩)
    go_ret
    exact ⟨rfl, by repeat (first | assumption | exact Below.refl _ _ | refine bch ?_ (by assumption) | refine Below.alloc ?_ (by (try simp) <;> omega) _)⟩
  obtain ⟨v, hv⟩ : ∃ v, numVB s = v := ⟨_, rfl⟩
  obtain ⟨x, he⟩ : ∃ x, numEB s = x := ⟨_, rfl⟩
  by_cases h0 : n < 0
  · have d0 : decide (n < 0) = true := decide_eq_true h0
    have hv2 := hv; have he2 := he
    go_enter Tryd.func4, Tryd.ntmps4
    go_wp2_with (first | (go_at_call 8; refine (first3_any _ (hW.below (by repeat (first | assumption | exact Below.refl _ _ | refine bch ?_ (by assumption) | refine Below.alloc ?_ (by (try simp) <;> omega) _)))).mono ?_; rintro e w1 ⟨rfl, hb⟩) | (go_at_call 19; refine (numberB_any _ _ (by with_reducible assumption)).mono ?_; rintro e w1 ⟨rfl, hw1⟩; obtain rfl : _ = w1 := hw1.symm; first | rw [hv, he] | rw [hv2, he2]) | (go_at_call 20; refine (refNumberB_any _ _ (by with_reducible assumption)).mono ?_; rintro e w1 ⟨rfl, hw1⟩; obtain rfl : _ = w1 := hw1.symm; rw [hv, he]))
    go_ret
    exact ⟨rfl, by repeat (first | assumption | exact Below.refl _ _ | refine bch ?_ (by assumption) | refine Below.alloc ?_ (by (try simp) <;> omega) _)⟩
  have d0 : decide (n < 0) = false := decide_eq_false h0
  by_cases hm : 72057594037927935 < n
  · have d1 : decide (72057594037927935 < n) = true := decide_eq_true hm
    have hv2 := hv; have he2 := he
    go_enter Tryd.func4, Tryd.ntmps4
    go_wp2_with (first | (go_at_call 8; refine (first3_any _ (hW.below (by repeat (first | assumption | exact Below.refl _ _ | refine bch ?_ (by assumption) | refine Below.alloc ?_ (by (try simp) <;> omega) _)))).mono ?_; rintro e w1 ⟨rfl, hb⟩) | (go_at_call 19; refine (numberB_any _ _ (by with_reducible assumption)).mono ?_; rintro e w1 ⟨rfl, hw1⟩; obtain rfl : _ = w1 := hw1.symm; first | rw [hv, he] | rw [hv2, he2]) | (go_at_call 20; refine (refNumberB_any _ _ (by with_reducible assumption)).mono ?_; rintro e w1 ⟨rfl, hw1⟩; obtain rfl : _ = w1 := hw1.symm; rw [hv, he]))
    go_ret
    exact ⟨rfl, by repeat (first | assumption | exact Below.refl _ _ | refine bch ?_ (by assumption) | refine Below.alloc ?_ (by (try simp) <;> omega) _)⟩
  have d1 : decide (72057594037927935 < n) = false := decide_eq_false hm
  obtain ⟨N, rfl⟩ := Int.eq_ofNat_of_zero_le (Int.not_lt.1 h0)
  obtain ⟨he2, hv2⟩ := num_dec (u := N) (by omega)
  have hsz : (itB (N : Int)).size ≤ maxLen := Nat.le_trans (itB_size _ hn1 hn2) (by unfold maxLen; decide)
  go_enter Tryd.func4, Tryd.ntmps4
  go_wp2_with (first | (go_at_call 8; refine (first3_any _ (hW.below (by repeat (first | assumption | exact Below.refl _ _ | refine bch ?_ (by assumption) | refine Below.alloc ?_ (by (try simp) <;> omega) _)))).mono ?_; rintro e w1 ⟨rfl, hb⟩) | (go_at_call 19; refine (numberB_any _ _ (by with_reducible assumption)).mono ?_; rintro e w1 ⟨rfl, hw1⟩; obtain rfl : _ = w1 := hw1.symm; first | rw [hv, he] | rw [hv2, he2]) | (go_at_call 20; refine (refNumberB_any _ _ (by with_reducible assumption)).mono ?_; rintro e w1 ⟨rfl, hw1⟩; obtain rfl : _ = w1 := hw1.symm; rw [hv, he]) | (go_at_call 21; refine (refDigits_any N (by omega) _).mono ?_; rintro e w1 ⟨rfl, hb⟩))
  go_ret
  exact ⟨rfl, by repeat (first | assumption | exact Below.refl _ _ | refine bch ?_ (by assumption) | refine Below.alloc ?_ (by (try simp) <;> omega) _)⟩
end Go.Proofs.YtemmblfjmhcenaaDoor
