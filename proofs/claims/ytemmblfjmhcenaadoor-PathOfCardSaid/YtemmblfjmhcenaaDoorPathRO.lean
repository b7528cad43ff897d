/- Keys in the document's own answer: Of, walked. -/
import Derived.Test.YtemmblfjmhcenaaDoorPathBm
import Derived.BigQuiet
import Derived.WalkKit
import Derived.ProofKit
import Derived.Handy
import Derived.Below
import Derived.BigQuiet
import Derived.Lib.Hide
import Derived.IntWalk
import Derived.Outline
import Derived.WalkLawsBesides
import Derived.WalkSpells
namespace Go.Proofs.YtemmblfjmhcenaaDoor
open Go.RowKit
attribute [local go_sem] strV
theorem chan_one : (⟨#[47, 99, 104, 97, 110, 110, 101, 108, 115, 47]⟩ : ByteArray) ++ (⟨#[99, 104, 97, 110, 110, 101, 108, 45]⟩ : ByteArray) = (⟨#[47, 99, 104, 97, 110, 110, 101, 108, 115, 47, 99, 104, 97, 110, 110, 101, 108, 45]⟩ : ByteArray) := by decide +kernel
theorem numd_le {k : Int} (h : kindB k = true) : numdB k = decide (k ≤ 3) := by
  rcases kind_cases k with ⟨h1, _⟩ | ⟨_, h2⟩
  · rcases h1 with rfl | rfl | rfl | rfl | rfl | rfl | rfl <;> decide
  · rw [h] at h2; cases h2
set_option maxRecDepth 100000 in
set_option maxHeartbeats 3200000 in
theorem refOf_any (k : Int) (p : ByteArray) (c seq : Int) (w : World) (hp : p.size ≤ maxLen) :
    Calls Tryd.prog 25 #[.int .i64 k, .agg #[.string p, .int .i64 c], .int .i64 seq] w fun e w' => e = .returned (.string (ofE k p c seq)) ∧ Below w.heap.size w w' := by
  cases hk : kindB k
  · have HR : Hid (ofE k p c seq = ⟨#[]⟩) := Lib.hid (by unfold ofE; rw [hk]; rfl)
    have hwd := word_none hk
    go_enter Tryd.func25, Tryd.ntmps25
    go_wp2_with (go_at_call 35; refine (refWord_any _ _).mono ?_; rintro e w1 ⟨rfl, hw1⟩; obtain rfl : _ = w1 := hw1.symm; rw [hwd])
    go_ret
    exact ⟨by rw [HR.out]; first | done | rfl, by repeat (first | assumption | exact Below.refl _ _ | refine bch ?_ (by assumption) | refine Below.alloc ?_ (by (try simp) <;> omega) _)⟩
  have hnle := numd_le hk
  obtain ⟨wd, hwd⟩ : ∃ x, wordB k = x := ⟨_, rfl⟩
  obtain ⟨hw0, hw16⟩ := word_some hk
  rw [hwd] at hw0 hw16
  have hne := str_ne'' hw0
  have hne2 := str_ne' hw0
  cases hm : mayE p c
  · have HR : Hid (ofE k p c seq = ⟨#[]⟩) := Lib.hid (by unfold ofE; rw [hm, Bool.and_false]; rfl)
    go_enter Tryd.func25, Tryd.ntmps25
    go_wp2_with (first | (go_at_call 35; refine (refWord_any _ _).mono ?_; rintro e w1 ⟨rfl, hw1⟩; obtain rfl : _ = w1 := hw1.symm; rw [hwd]) | (go_at_call 14; refine (refMayEnd_any _ _ _ (by with_reducible assumption)).mono ?_; rintro e w1 ⟨rfl, hb⟩; rw [hm]; obtain ⟨hc1, hf1⟩ := bcell hb; have hz1 : w.heap.size < w1.heap.size := (by have := hb.size; (try simp at this); omega); obtain ⟨hbc, hbf⟩ := beyond_cells (W := w1); have hbel1 : Below w.heap.size w w1 := by repeat (first | assumption | exact Below.refl _ _ | refine bch ?_ (by assumption) | refine Below.alloc ?_ (by (try simp) <;> omega) _)))
    go_ret
    exact ⟨by rw [HR.out]; first | done | rfl, by repeat (first | assumption | exact Below.refl _ _ | refine bch ?_ (by assumption) | refine Below.alloc ?_ (by (try simp) <;> omega) _)⟩
  obtain ⟨h12, hc0, hc9⟩ := mayE_bd hm
  obtain ⟨C, rfl⟩ := Int.eq_ofNat_of_zero_le hc0
  have hit := itB_size (C : Int) (by omega) (by omega)
  have HK : Hid (keyB k p C = wd ++ ⟨#[47, 112, 111, 114, 116, 115, 47]⟩ ++ p ++ ⟨#[47, 99, 104, 97, 110, 110, 101, 108, 115, 47, 99, 104, 97, 110, 110, 101, 108, 45]⟩ ++ itB C) := Lib.hid (by unfold keyB; rw [hwd, ← chan_one, ← ByteArray.append_assoc])
  cases hnd : numdB k
  · have l3 : decide (k ≤ 3) = false := by rw [← hnle, hnd]
    have g3 : decide (3 < k) = true := by have := of_decide_eq_false l3; exact decide_eq_true (by omega)
    by_cases h0 : seq = 0
    · subst h0
      have HR : Hid (ofE k p C 0 = _) := Lib.hid (show ofE k p C 0 = wd ++ ⟨#[47, 112, 111, 114, 116, 115, 47]⟩ ++ p ++ ⟨#[47, 99, 104, 97, 110, 110, 101, 108, 115, 47, 99, 104, 97, 110, 110, 101, 108, 45]⟩ ++ itB C from by unfold ofE; rw [hk, hm, hnd, ← HK.out]; rfl)
      go_enter Tryd.func25, Tryd.ntmps25
      go_wp2_with (first | (go_at_call 35; refine (refWord_any _ _).mono ?_; rintro e w1 ⟨rfl, hw1⟩; obtain rfl : _ = w1 := hw1.symm; rw [hwd]) | (go_at_call 14; refine (refMayEnd_any _ _ _ (by with_reducible assumption)).mono ?_; rintro e w1 ⟨rfl, hb⟩; rw [hm]; obtain ⟨hc1, hf1⟩ := bcell hb; have hz1 : w.heap.size < w1.heap.size := (by have := hb.size; (try simp at this); omega); obtain ⟨hbc, hbf⟩ := beyond_cells (W := w1); have hbel1 : Below w.heap.size w w1 := by repeat (first | assumption | exact Below.refl _ _ | refine bch ?_ (by assumption) | refine Below.alloc ?_ (by (try simp) <;> omega) _)))
      have C1 : ∀ n : Beyond w1, Calls Tryd.prog 21 #[.int .i64 (C : Int)] n.x fun e w' => e = .returned (.string (itB C)) ∧ Below n.x.heap.size n.x w' := fun n => refDigits_any C (by omega) n.x
      have C2 : ∀ n : Beyond w1, Calls Tryd.prog 35 #[.int .i64 k] n.x fun e w' => e = .returned (.string wd) ∧ Below n.x.heap.size n.x w' := fun n => (refWord_any k n.x).mono fun e w' ⟨h1, h2⟩ => ⟨by rw [h1, hwd], by rw [h2]; exact Below.refl _ _⟩
      refine wp_region_below (by kernel_rfl) (by kernel_rfl) ?_
      repeat (go_big_quiet_step (first | (go_at_call 21; exact quiet_below (C1 _)) | (go_at_call 35; exact quiet_below (C2 _))))
      intro w9 hw9
      have hb9 := beyond_below hw9
      clear C1 C2
      go_wp2
      go_ret
      exact ⟨by rw [HR.out]; first | done | rfl, bch hbel1 hb9⟩
    · have HR : Hid (ofE k p C seq = ⟨#[]⟩) := Lib.hid (by unfold ofE; rw [hk, hm, hnd, beq_eq_false_iff_ne.2 h0]; rfl)
      have e0 : (seq == 0) = false := beq_eq_false_iff_ne.2 h0
      go_enter Tryd.func25, Tryd.ntmps25
      go_wp2_with (first | (go_at_call 35; refine (refWord_any _ _).mono ?_; rintro e w1 ⟨rfl, hw1⟩; obtain rfl : _ = w1 := hw1.symm; rw [hwd]) | (go_at_call 14; refine (refMayEnd_any _ _ _ (by with_reducible assumption)).mono ?_; rintro e w1 ⟨rfl, hb⟩; rw [hm]; obtain ⟨hc1, hf1⟩ := bcell hb; have hz1 : w.heap.size < w1.heap.size := (by have := hb.size; (try simp at this); omega); obtain ⟨hbc, hbf⟩ := beyond_cells (W := w1); have hbel1 : Below w.heap.size w w1 := by repeat (first | assumption | exact Below.refl _ _ | refine bch ?_ (by assumption) | refine Below.alloc ?_ (by (try simp) <;> omega) _)))
      go_ret
      exact ⟨by rw [HR.out]; first | done | rfl, by repeat (first | assumption | exact Below.refl _ _ | refine bch ?_ (by assumption) | refine Below.alloc ?_ (by (try simp) <;> omega) _)⟩
  · have l3 : decide (k ≤ 3) = true := by rw [← hnle, hnd]
    have g3 : decide (3 < k) = false := by have := of_decide_eq_true l3; exact decide_eq_false (by omega)
    by_cases h1 : seq < 1
    · have HR : Hid (ofE k p C seq = ⟨#[]⟩) := Lib.hid (by unfold ofE seqB; rw [hk, hm, hnd, decide_eq_false (show ¬ 1 ≤ seq by omega)]; rfl)
      have d1 : decide (seq < 1) = true := decide_eq_true h1
      go_enter Tryd.func25, Tryd.ntmps25
      go_wp2_with (first | (go_at_call 35; refine (refWord_any _ _).mono ?_; rintro e w1 ⟨rfl, hw1⟩; obtain rfl : _ = w1 := hw1.symm; rw [hwd]) | (go_at_call 14; refine (refMayEnd_any _ _ _ (by with_reducible assumption)).mono ?_; rintro e w1 ⟨rfl, hb⟩; rw [hm]; obtain ⟨hc1, hf1⟩ := bcell hb; have hz1 : w.heap.size < w1.heap.size := (by have := hb.size; (try simp at this); omega); obtain ⟨hbc, hbf⟩ := beyond_cells (W := w1); have hbel1 : Below w.heap.size w w1 := by repeat (first | assumption | exact Below.refl _ _ | refine bch ?_ (by assumption) | refine Below.alloc ?_ (by (try simp) <;> omega) _)))
      go_ret
      exact ⟨by rw [HR.out]; first | done | rfl, by repeat (first | assumption | exact Below.refl _ _ | refine bch ?_ (by assumption) | refine Below.alloc ?_ (by (try simp) <;> omega) _)⟩
    have d1 : decide (seq < 1) = false := decide_eq_false h1
    by_cases h2 : 1099511627776 < seq
    · have HR : Hid (ofE k p C seq = ⟨#[]⟩) := Lib.hid (by unfold ofE seqB; rw [hk, hm, hnd, decide_eq_false (show ¬ seq ≤ 1099511627776 by omega), Bool.and_false]; rfl)
      have d2 : decide (1099511627776 < seq) = true := decide_eq_true h2
      go_enter Tryd.func25, Tryd.ntmps25
      go_wp2_with (first | (go_at_call 35; refine (refWord_any _ _).mono ?_; rintro e w1 ⟨rfl, hw1⟩; obtain rfl : _ = w1 := hw1.symm; rw [hwd]) | (go_at_call 14; refine (refMayEnd_any _ _ _ (by with_reducible assumption)).mono ?_; rintro e w1 ⟨rfl, hb⟩; rw [hm]; obtain ⟨hc1, hf1⟩ := bcell hb; have hz1 : w.heap.size < w1.heap.size := (by have := hb.size; (try simp at this); omega); obtain ⟨hbc, hbf⟩ := beyond_cells (W := w1); have hbel1 : Below w.heap.size w w1 := by repeat (first | assumption | exact Below.refl _ _ | refine bch ?_ (by assumption) | refine Below.alloc ?_ (by (try simp) <;> omega) _)))
      go_ret
      exact ⟨by rw [HR.out]; first | done | rfl, by repeat (first | assumption | exact Below.refl _ _ | refine bch ?_ (by assumption) | refine Below.alloc ?_ (by (try simp) <;> omega) _)⟩
    have d2 : decide (1099511627776 < seq) = false := decide_eq_false h2
    obtain ⟨S, rfl⟩ := Int.eq_ofNat_of_zero_le (show 0 ≤ seq by omega)
    have hit2 := itB_size (S : Int) (by omega) (by omega)
    have HR : Hid (ofE k p C S = _) := Lib.hid (show ofE k p C S = wd ++ ⟨#[47, 112, 111, 114, 116, 115, 47]⟩ ++ p ++ ⟨#[47, 99, 104, 97, 110, 110, 101, 108, 115, 47, 99, 104, 97, 110, 110, 101, 108, 45]⟩ ++ itB C ++ (⟨#[47, 115, 101, 113, 117, 101, 110, 99, 101, 115, 47]⟩ ++ itB S) from by
      unfold ofE seqB; rw [hk, hm, hnd, decide_eq_true (show 1 ≤ (S : Int) by omega), decide_eq_true (show (S : Int) ≤ 1099511627776 by omega), ← HK.out, ← ByteArray.append_assoc]; rfl)
    go_enter Tryd.func25, Tryd.ntmps25
    go_wp2_with (first | (go_at_call 35; refine (refWord_any _ _).mono ?_; rintro e w1 ⟨rfl, hw1⟩; obtain rfl : _ = w1 := hw1.symm; rw [hwd]) | (go_at_call 14; refine (refMayEnd_any _ _ _ (by with_reducible assumption)).mono ?_; rintro e w1 ⟨rfl, hb⟩; rw [hm]; obtain ⟨hc1, hf1⟩ := bcell hb; have hz1 : w.heap.size < w1.heap.size := (by have := hb.size; (try simp at this); omega); obtain ⟨hbc, hbf⟩ := beyond_cells (W := w1); have hbel1 : Below w.heap.size w w1 := by repeat (first | assumption | exact Below.refl _ _ | refine bch ?_ (by assumption) | refine Below.alloc ?_ (by (try simp) <;> omega) _)))
    have C1 : ∀ n : Beyond w1, Calls Tryd.prog 21 #[.int .i64 (C : Int)] n.x fun e w' => e = .returned (.string (itB C)) ∧ Below n.x.heap.size n.x w' := fun n => refDigits_any C (by omega) n.x
    have C2 : ∀ n : Beyond w1, Calls Tryd.prog 35 #[.int .i64 k] n.x fun e w' => e = .returned (.string wd) ∧ Below n.x.heap.size n.x w' := fun n => (refWord_any k n.x).mono fun e w' ⟨h1, h2⟩ => ⟨by rw [h1, hwd], by rw [h2]; exact Below.refl _ _⟩
    refine wp_region_below (by kernel_rfl) (by kernel_rfl) ?_
    repeat (go_big_quiet_step (first | (go_at_call 21; exact quiet_below (C1 _)) | (go_at_call 35; exact quiet_below (C2 _))))
    intro w9 hw9
    have hb9 := beyond_below hw9
    clear C1 C2
    go_wp2_with (go_at_call 21; refine (refDigits_any S (by omega) _).mono ?_; rintro e w1 ⟨rfl, hb⟩)
    go_ret
    exact ⟨by rw [HR.out]; first | done | rfl, bch (bch hbel1 hb9) hb⟩
end Go.Proofs.YtemmblfjmhcenaaDoor
