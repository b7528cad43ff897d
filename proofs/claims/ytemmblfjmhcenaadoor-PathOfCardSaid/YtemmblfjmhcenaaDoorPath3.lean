/- Keys: Of, walked. -/
import Derived.Test.YtemmblfjmhcenaaDoorPath2
import Derived.BigQuiet
import Derived.WalkKit
import Derived.ProofKit
import Derived.Handy
import Derived.Below
import Derived.BigQuiet
import Derived.Lib.Hide
import Derived.IntWalk
import Derived.Outline
import Derived.WalkLawsBesides
import Derived.WalkSpells
namespace Go.Proofs.YtemmblfjmhcenaaDoor
open Go.RowKit
attribute [local go_sem] strV
def keyB (k : Int) (p : ByteArray) (c : Int) : ByteArray := wordB k ++ ⟨#[47, 112, 111, 114, 116, 115, 47]⟩ ++ p ++ ⟨#[47, 99, 104, 97, 110, 110, 101, 108, 115, 47]⟩ ++ ⟨#[99, 104, 97, 110, 110, 101, 108, 45]⟩ ++ itB c
def seqB (seq : Int) : Bool := decide (1 ≤ seq) && decide (seq ≤ 1099511627776)
def ofE (k : Int) (p : ByteArray) (c seq : Int) : ByteArray :=
  if kindB k && mayE p c then (if numdB k then (if seqB seq then keyB k p c ++ ⟨#[47, 115, 101, 113, 117, 101, 110, 99, 101, 115, 47]⟩ ++ itB seq else ⟨#[]⟩) else (if seq == 0 then keyB k p c else ⟨#[]⟩)) else ⟨#[]⟩
set_option maxRecDepth 100000 in
set_option maxHeartbeats 3200000 in
theorem of_any (k : Int) (p : ByteArray) (c seq : Int) (w : World) (hW : PW w) (hp : p.size ≤ maxLen) :
    Calls Tryd.prog 24 #[.int .i64 k, .agg #[.string p, .int .i64 c], .int .i64 seq] w fun e w' => e = .returned (.string (ofE k p c seq)) ∧ Below w.heap.size w w' := by
  cases hk : kindB k
  · have HR : Hid (ofE k p c seq = ⟨#[]⟩) := Lib.hid (by unfold ofE; rw [hk]; rfl)
    have hwd := word_none hk
    go_enter Tryd.func24, Tryd.ntmps24
    go_wp2_with (go_at_call 33; refine (word_any _ _).mono ?_; rintro e w1 ⟨rfl, hw1⟩; obtain rfl : _ = w1 := hw1.symm; rw [hwd])
    go_ret
    exact ⟨by rw [HR.out]; first | done | rfl, by repeat (first | assumption | exact Below.refl _ _ | refine bch ?_ (by assumption) | refine Below.alloc ?_ (by (try simp) <;> omega) _)⟩
  obtain ⟨wd, hwd⟩ : ∃ x, wordB k = x := ⟨_, rfl⟩
  obtain ⟨hw0, hw16⟩ := word_some hk
  rw [hwd] at hw0 hw16
  have hne := str_ne'' hw0
  have hne2 := str_ne' hw0
  cases hm : mayE p c
  · have HR : Hid (ofE k p c seq = ⟨#[]⟩) := Lib.hid (by unfold ofE; rw [hm, Bool.and_false]; rfl)
    go_enter Tryd.func24, Tryd.ntmps24
    go_wp2_with (first | (go_at_call 33; refine (word_any _ _).mono ?_; rintro e w1 ⟨rfl, hw1⟩; obtain rfl : _ = w1 := hw1.symm; rw [hwd]) | (go_at_call 13; refine (mayEnd_any _ _ _ (by with_reducible assumption)).mono ?_; rintro e w1 ⟨rfl, hb⟩; rw [hm]; obtain ⟨hc1, hf1⟩ := bcell hb; have hz1 : w.heap.size < w1.heap.size := (by have := hb.size; (try simp at this); omega); obtain ⟨hbc, hbf⟩ := beyond_cells (W := w1); have hbel1 : Below w.heap.size w w1 := by repeat (first | assumption | exact Below.refl _ _ | refine bch ?_ (by assumption) | refine Below.alloc ?_ (by (try simp) <;> omega) _)))
    go_ret
    exact ⟨by rw [HR.out]; first | done | rfl, by repeat (first | assumption | exact Below.refl _ _ | refine bch ?_ (by assumption) | refine Below.alloc ?_ (by (try simp) <;> omega) _)⟩
  obtain ⟨h12, hc0, hc9⟩ := mayE_bd hm
  have hit := itB_size c (by omega) (by omega)
  have HK : Hid (keyB k p c = wd ++ ⟨#[47, 112, 111, 114, 116, 115, 47]⟩ ++ p ++ ⟨#[47, 99, 104, 97, 110, 110, 101, 108, 115, 47]⟩ ++ ⟨#[99, 104, 97, 110, 110, 101, 108, 45]⟩ ++ itB c) := Lib.hid (by unfold keyB; rw [hwd])
  cases hnd : numdB k
  · by_cases h0 : seq = 0
    · subst h0
      have HR : Hid (ofE k p c 0 = _) := Lib.hid (show ofE k p c 0 = wd ++ ⟨#[47, 112, 111, 114, 116, 115, 47]⟩ ++ p ++ ⟨#[47, 99, 104, 97, 110, 110, 101, 108, 115, 47]⟩ ++ ⟨#[99, 104, 97, 110, 110, 101, 108, 45]⟩ ++ itB c from by unfold ofE; rw [hk, hm, hnd, ← HK.out]; rfl)
      go_enter Tryd.func24, Tryd.ntmps24
      go_wp2_with (first | (go_at_call 33; refine (word_any _ _).mono ?_; rintro e w1 ⟨rfl, hw1⟩; obtain rfl : _ = w1 := hw1.symm; rw [hwd]) | (go_at_call 13; refine (mayEnd_any _ _ _ (by with_reducible assumption)).mono ?_; rintro e w1 ⟨rfl, hb⟩; rw [hm]; obtain ⟨hc1, hf1⟩ := bcell hb; have hz1 : w.heap.size < w1.heap.size := (by have := hb.size; (try simp at this); omega); obtain ⟨hbc, hbf⟩ := beyond_cells (W := w1); have hbel1 : Below w.heap.size w w1 := by repeat (first | assumption | exact Below.refl _ _ | refine bch ?_ (by assumption) | refine Below.alloc ?_ (by (try simp) <;> omega) _)))
      have C1 : ∀ n : Beyond w1, Calls Tryd.prog 30 #[.int .i64 c] n.x fun e w' => e = .returned (.string (itB c)) ∧ Below n.x.heap.size n.x w' := fun n => itoa_any c n.x (hW.below (bch hbel1 n.h)) (by omega) (by omega)
      refine wp_region_below (by kernel_rfl) (by kernel_rfl) ?_
      repeat (go_big_quiet_step ((go_at_call 30; exact quiet_below (C1 _))))
      intro w9 hw9
      have hb9 := beyond_below hw9
      clear C1
      go_wp2_with (first | (go_at_call 34; refine (numbered_any _ _).mono ?_; rintro e w1 ⟨rfl, hw1⟩; obtain rfl : _ = w1 := hw1.symm; rw [hnd]) | (go_at_call 30; refine (itoa_any _ _ (hW.below (bch hbel1 hb9)) (by omega) (by omega)).mono ?_; rintro e w1 ⟨rfl, hb⟩))
      go_ret
      exact ⟨by rw [HR.out]; first | done | rfl, bch hbel1 hb9⟩
    · have HR : Hid (ofE k p c seq = ⟨#[]⟩) := Lib.hid (by unfold ofE; rw [hk, hm, hnd, beq_eq_false_iff_ne.2 h0]; rfl)
      have e0 : (seq == 0) = false := beq_eq_false_iff_ne.2 h0
      go_enter Tryd.func24, Tryd.ntmps24
      go_wp2_with (first | (go_at_call 33; refine (word_any _ _).mono ?_; rintro e w1 ⟨rfl, hw1⟩; obtain rfl : _ = w1 := hw1.symm; rw [hwd]) | (go_at_call 13; refine (mayEnd_any _ _ _ (by with_reducible assumption)).mono ?_; rintro e w1 ⟨rfl, hb⟩; rw [hm]; obtain ⟨hc1, hf1⟩ := bcell hb; have hz1 : w.heap.size < w1.heap.size := (by have := hb.size; (try simp at this); omega); obtain ⟨hbc, hbf⟩ := beyond_cells (W := w1); have hbel1 : Below w.heap.size w w1 := by repeat (first | assumption | exact Below.refl _ _ | refine bch ?_ (by assumption) | refine Below.alloc ?_ (by (try simp) <;> omega) _)))
      have C1 : ∀ n : Beyond w1, Calls Tryd.prog 30 #[.int .i64 c] n.x fun e w' => e = .returned (.string (itB c)) ∧ Below n.x.heap.size n.x w' := fun n => itoa_any c n.x (hW.below (bch hbel1 n.h)) (by omega) (by omega)
      refine wp_region_below (by kernel_rfl) (by kernel_rfl) ?_
      repeat (go_big_quiet_step ((go_at_call 30; exact quiet_below (C1 _))))
      intro w9 hw9
      have hb9 := beyond_below hw9
      clear C1
      go_wp2_with (first | (go_at_call 34; refine (numbered_any _ _).mono ?_; rintro e w1 ⟨rfl, hw1⟩; obtain rfl : _ = w1 := hw1.symm; rw [hnd]) | (go_at_call 30; refine (itoa_any _ _ (hW.below (bch hbel1 hb9)) (by omega) (by omega)).mono ?_; rintro e w1 ⟨rfl, hb⟩))
      go_ret
      exact ⟨by rw [HR.out]; first | done | rfl, bch hbel1 hb9⟩
  · by_cases h1 : seq < 1
    · have HR : Hid (ofE k p c seq = ⟨#[]⟩) := Lib.hid (by unfold ofE seqB; rw [hk, hm, hnd, decide_eq_false (show ¬ 1 ≤ seq by omega)]; rfl)
      have d1 : decide (seq < 1) = true := decide_eq_true h1
      go_enter Tryd.func24, Tryd.ntmps24
      go_wp2_with (first | (go_at_call 33; refine (word_any _ _).mono ?_; rintro e w1 ⟨rfl, hw1⟩; obtain rfl : _ = w1 := hw1.symm; rw [hwd]) | (go_at_call 13; refine (mayEnd_any _ _ _ (by with_reducible assumption)).mono ?_; rintro e w1 ⟨rfl, hb⟩; rw [hm]; obtain ⟨hc1, hf1⟩ := bcell hb; have hz1 : w.heap.size < w1.heap.size := (by have := hb.size; (try simp at this); omega); obtain ⟨hbc, hbf⟩ := beyond_cells (W := w1); have hbel1 : Below w.heap.size w w1 := by repeat (first | assumption | exact Below.refl _ _ | refine bch ?_ (by assumption) | refine Below.alloc ?_ (by (try simp) <;> omega) _)))
      have C1 : ∀ n : Beyond w1, Calls Tryd.prog 30 #[.int .i64 c] n.x fun e w' => e = .returned (.string (itB c)) ∧ Below n.x.heap.size n.x w' := fun n => itoa_any c n.x (hW.below (bch hbel1 n.h)) (by omega) (by omega)
      refine wp_region_below (by kernel_rfl) (by kernel_rfl) ?_
      repeat (go_big_quiet_step ((go_at_call 30; exact quiet_below (C1 _))))
      intro w9 hw9
      have hb9 := beyond_below hw9
      clear C1
      go_wp2_with (first | (go_at_call 34; refine (numbered_any _ _).mono ?_; rintro e w1 ⟨rfl, hw1⟩; obtain rfl : _ = w1 := hw1.symm; rw [hnd]) | (go_at_call 30; refine (itoa_any _ _ (hW.below (bch hbel1 hb9)) (by omega) (by omega)).mono ?_; rintro e w1 ⟨rfl, hb⟩))
      go_ret
      exact ⟨by rw [HR.out]; first | done | rfl, bch hbel1 hb9⟩
    have d1 : decide (seq < 1) = false := decide_eq_false h1
    by_cases h2 : 1099511627776 < seq
    · have HR : Hid (ofE k p c seq = ⟨#[]⟩) := Lib.hid (by unfold ofE seqB; rw [hk, hm, hnd, decide_eq_false (show ¬ seq ≤ 1099511627776 by omega), Bool.and_false]; rfl)
      have d2 : decide (1099511627776 < seq) = true := decide_eq_true h2
      go_enter Tryd.func24, Tryd.ntmps24
      go_wp2_with (first | (go_at_call 33; refine (word_any _ _).mono ?_; rintro e w1 ⟨rfl, hw1⟩; obtain rfl : _ = w1 := hw1.symm; rw [hwd]) | (go_at_call 13; refine (mayEnd_any _ _ _ (by with_reducible assumption)).mono ?_; rintro e w1 ⟨rfl, hb⟩; rw [hm]; obtain ⟨hc1, hf1⟩ := bcell hb; have hz1 : w.heap.size < w1.heap.size := (by have := hb.size; (try simp at this); omega); obtain ⟨hbc, hbf⟩ := beyond_cells (W := w1); have hbel1 : Below w.heap.size w w1 := by repeat (first | assumption | exact Below.refl _ _ | refine bch ?_ (by assumption) | refine Below.alloc ?_ (by (try simp) <;> omega) _)))
      have C1 : ∀ n : Beyond w1, Calls Tryd.prog 30 #[.int .i64 c] n.x fun e w' => e = .returned (.string (itB c)) ∧ Below n.x.heap.size n.x w' := fun n => itoa_any c n.x (hW.below (bch hbel1 n.h)) (by omega) (by omega)
      refine wp_region_below (by kernel_rfl) (by kernel_rfl) ?_
      repeat (go_big_quiet_step ((go_at_call 30; exact quiet_below (C1 _))))
      intro w9 hw9
      have hb9 := beyond_below hw9
      clear C1
      go_wp2_with (first | (go_at_call 34; refine (numbered_any _ _).mono ?_; rintro e w1 ⟨rfl, hw1⟩; obtain rfl : _ = w1 := hw1.symm; rw [hnd]) | (go_at_call 30; refine (itoa_any _ _ (hW.below (bch hbel1 hb9)) (by omega) (by omega)).mono ?_; rintro e w1 ⟨rfl, hb⟩))
      go_ret
      exact ⟨by rw [HR.out]; first | done | rfl, bch hbel1 hb9⟩
    have d2 : decide (1099511627776 < seq) = false := decide_eq_false h2
    have hit2 := itB_size seq (by omega) (by omega)
    have HR : Hid (ofE k p c seq = _) := Lib.hid (show ofE k p c seq = wd ++ ⟨#[47, 112, 111, 114, 116, 115, 47]⟩ ++ p ++ ⟨#[47, 99, 104, 97, 110, 110, 101, 108, 115, 47]⟩ ++ ⟨#[99, 104, 97, 110, 110, 101, 108, 45]⟩ ++ itB c ++ ⟨#[47, 115, 101, 113, 117, 101, 110, 99, 101, 115, 47]⟩ ++ itB seq from by
      unfold ofE seqB; rw [hk, hm, hnd, decide_eq_true (show 1 ≤ seq by omega), decide_eq_true (show seq ≤ 1099511627776 by omega), ← HK.out]; rfl)
    go_enter Tryd.func24, Tryd.ntmps24
    go_wp2_with (first | (go_at_call 33; refine (word_any _ _).mono ?_; rintro e w1 ⟨rfl, hw1⟩; obtain rfl : _ = w1 := hw1.symm; rw [hwd]) | (go_at_call 13; refine (mayEnd_any _ _ _ (by with_reducible assumption)).mono ?_; rintro e w1 ⟨rfl, hb⟩; rw [hm]; obtain ⟨hc1, hf1⟩ := bcell hb; have hz1 : w.heap.size < w1.heap.size := (by have := hb.size; (try simp at this); omega); obtain ⟨hbc, hbf⟩ := beyond_cells (W := w1); have hbel1 : Below w.heap.size w w1 := by repeat (first | assumption | exact Below.refl _ _ | refine bch ?_ (by assumption) | refine Below.alloc ?_ (by (try simp) <;> omega) _)))
    have C1 : ∀ n : Beyond w1, Calls Tryd.prog 30 #[.int .i64 c] n.x fun e w' => e = .returned (.string (itB c)) ∧ Below n.x.heap.size n.x w' := fun n => itoa_any c n.x (hW.below (bch hbel1 n.h)) (by omega) (by omega)
    refine wp_region_below (by kernel_rfl) (by kernel_rfl) ?_
    repeat (go_big_quiet_step ((go_at_call 30; exact quiet_below (C1 _))))
    intro w9 hw9
    have hb9 := beyond_below hw9
    clear C1
    go_wp2_with (first | (go_at_call 34; refine (numbered_any _ _).mono ?_; rintro e w1 ⟨rfl, hw1⟩; obtain rfl : _ = w1 := hw1.symm; rw [hnd]) | (go_at_call 30; refine (itoa_any _ _ (hW.below (bch hbel1 hb9)) (by omega) (by omega)).mono ?_; rintro e w1 ⟨rfl, hb⟩))
    go_ret
    exact ⟨by rw [HR.out]; first | done | rfl, bch (bch hbel1 hb9) hb⟩

set_option maxRecDepth 100000 in
set_option maxHeartbeats 3200000 in
theorem first3_any (w : World) (hW : PW w) :
    Calls Tryd.prog 8 #[] w fun e w' => e = .returned (.bool true) ∧ Below w.heap.size w w' := by
  have T1 : textE ⟨#[116, 114, 97, 110, 115, 102, 101, 114]⟩ 7 = ⟨#[116, 114, 97, 110, 115, 102, 101, 114, 47, 99, 104, 97, 110, 110, 101, 108, 45, 55]⟩ := by decide +kernel
  have P1 : parseR ⟨#[116, 114, 97, 110, 115, 102, 101, 114, 47, 99, 104, 97, 110, 110, 101, 108, 45, 55]⟩ = .returned (.tuple #[.agg #[.string ⟨#[116, 114, 97, 110, 115, 102, 101, 114]⟩, .int .i64 7], .int .i64 0]) := by
    have a : okE (pPort ⟨#[116, 114, 97, 110, 115, 102, 101, 114, 47, 99, 104, 97, 110, 110, 101, 108, 45, 55]⟩) (pRest ⟨#[116, 114, 97, 110, 115, 102, 101, 114, 47, 99, 104, 97, 110, 110, 101, 108, 45, 55]⟩) = true := by decide +kernel
    have b : pPort ⟨#[116, 114, 97, 110, 115, 102, 101, 114, 47, 99, 104, 97, 110, 110, 101, 108, 45, 55]⟩ = ⟨#[116, 114, 97, 110, 115, 102, 101, 114]⟩ := by decide +kernel
    have c : numVB (digs (pRest ⟨#[116, 114, 97, 110, 115, 102, 101, 114, 47, 99, 104, 97, 110, 110, 101, 108, 45, 55]⟩)) = 7 := by decide +kernel
    unfold parseR; rw [a, b, c]; rfl
  have N1 : numEB ⟨#[48, 48, 55]⟩ = 3 := by decide +kernel
  have N2 : numVB ⟨#[48, 48, 55]⟩ = 0 := by decide +kernel
  have O1 : ofE 2 ⟨#[116, 114, 97, 110, 115, 102, 101, 114]⟩ 7 12 = ⟨#[114, 101, 99, 101, 105, 112, 116, 115, 47, 112, 111, 114, 116, 115, 47, 116, 114, 97, 110, 115, 102, 101, 114, 47, 99, 104, 97, 110, 110, 101, 108, 115, 47, 99, 104, 97, 110, 110, 101, 108, 45, 55, 47, 115, 101, 113, 117, 101, 110, 99, 101, 115, 47, 49, 50]⟩ := by decide +kernel
  go_enter Tryd.func8, Tryd.ntmps8
  go_wp2_with (first | (go_at_call 9; refine (parse_any _ _ (hW.below (by repeat (first | assumption | exact Below.refl _ _ | refine bch ?_ (by assumption) | refine Below.alloc ?_ (by (try simp) <;> omega) _))) (by decide)).mono ?_; rintro e w1 ⟨rfl, hb⟩; rw [P1]; obtain ⟨hc1, hf1⟩ := bcell hb; have hz1 : w.heap.size < w1.heap.size := (by have := hb.size; (try simp at this); omega)) | (go_at_call 19; refine (numberB_any _ _ (by unfold maxLen; decide)).mono ?_; rintro e w1 ⟨rfl, hw1⟩; obtain rfl : _ = w1 := hw1.symm; rw [N1, N2]) | (go_at_call 17; refine (text_any _ _ _ (hW.below (by repeat (first | assumption | exact Below.refl _ _ | refine bch ?_ (by assumption) | refine Below.alloc ?_ (by (try simp) <;> omega) _))) (by unfold maxLen; decide)).mono ?_; rintro e w1 ⟨rfl, hb⟩; rw [T1]; obtain ⟨hc1, hf1⟩ := bcell hb; have hz1 : w.heap.size < w1.heap.size := (by have := hb.size; (try simp at this); omega); have hz2 : w.heap.size + 1 < w1.heap.size := (by have := hb.size; (try simp at this); omega)) | (go_at_call 24; refine (of_any _ _ _ _ _ (hW.below (by repeat (first | assumption | exact Below.refl _ _ | refine bch ?_ (by assumption) | refine Below.alloc ?_ (by (try simp) <;> omega) _))) (by unfold maxLen; decide)).mono ?_; rintro e w1 ⟨rfl, hb⟩; rw [O1]))
  go_ret
  exact ⟨rfl, by repeat (first | assumption | exact Below.refl _ _ | refine bch ?_ (by assumption) | refine Below.alloc ?_ (by (try simp) <;> omega) _)⟩
end Go.Proofs.YtemmblfjmhcenaaDoor
