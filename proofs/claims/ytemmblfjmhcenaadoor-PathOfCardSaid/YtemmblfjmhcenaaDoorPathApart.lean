/- Keys of unlike things are unlike. -/
import Derived.Test.YtemmblfjmhcenaaDoorPath3
import Derived.BigQuiet
import Derived.WalkKit
import Derived.ProofKit
import Derived.Handy
import Derived.Below
import Derived.BigQuiet
import Derived.Lib.Hide
import Derived.IntWalk
import Derived.Outline
import Derived.WalkLawsBesides
import Derived.WalkSpells
namespace Go.Proofs.YtemmblfjmhcenaaDoor
open Go.RowKit
attribute [local go_sem] strV
theorem slash_cut {x y x' y' : List UInt8} (hx : 47 ∉ x) (hx' : 47 ∉ x') (h : x ++ 47 :: y = x' ++ 47 :: y') : x = x' ∧ y = y' := by
  induction x generalizing x' with
  | nil =>
    cases x' with
    | nil => simp only [List.nil_append, List.cons.injEq, true_and] at h; exact ⟨rfl, h⟩
    | cons b x' =>
      simp only [List.nil_append, List.cons_append, List.cons.injEq] at h
      exact absurd (by rw [h.1]; exact List.mem_cons_self ..) hx'
  | cons a x ih =>
    cases x' with
    | nil =>
      simp only [List.nil_append, List.cons_append, List.cons.injEq] at h
      exact absurd (by rw [← h.1]; exact List.mem_cons_self ..) hx
    | cons b x' =>
      simp only [List.cons_append, List.cons.injEq] at h
      obtain ⟨h1, h2⟩ := ih (fun e => hx (List.mem_cons_of_mem _ e)) (fun e => hx' (List.mem_cons_of_mem _ e)) h.2
      exact ⟨by rw [h.1, h1], h2⟩
theorem dec_val (u : Nat) : valN (Lib.decDigits u) = u := by
  induction u using Nat.strongRecOn with
  | _ u ih =>
    rw [Lib.decDigits]
    by_cases h : u < 10
    · rw [dif_pos h]
      have : (UInt8.ofNat (48 + u)).toNat = 48 + u := by rw [UInt8.toNat_ofNat']; omega
      unfold valN; simp only [List.foldl_cons, List.foldl_nil, this]; omega
    · rw [dif_neg h]
      have e := ih (u / 10) (by omega)
      have : (UInt8.ofNat (48 + u % 10)).toNat = 48 + u % 10 := by rw [UInt8.toNat_ofNat']; omega
      unfold valN at e ⊢
      rw [List.foldl_append, e]
      simp only [List.foldl_cons, List.foldl_nil, this]; omega
theorem dec_dig (u : Nat) : digL (Lib.decDigits u) = true := by
  induction u using Nat.strongRecOn with
  | _ u ih =>
    rw [Lib.decDigits]
    by_cases h : u < 10
    · rw [dif_pos h]
      simp [digL, digitB]; omega
    · rw [dif_neg h]
      have e := ih (u / 10) (by omega)
      unfold digL at e ⊢
      rw [List.all_append, e]
      simp [digitB]; omega
theorem itB_list {n : Int} (h : 0 ≤ n) : (itB n).data.toList = Lib.decDigits n.toNat := by
  obtain ⟨u, rfl⟩ := Int.eq_ofNat_of_zero_le h
  unfold itB; rw [Lib.itoa_nonneg]; rfl
theorem itB_inj {n m : Int} (hn : 0 ≤ n) (hm : 0 ≤ m) (h : (itB n).data.toList = (itB m).data.toList) : n = m := by
  rw [itB_list hn, itB_list hm] at h
  have := congrArg valN h
  rw [dec_val, dec_val] at this; omega
theorem it_noslash {n : Int} (h : 0 ≤ n) : 47 ∉ (itB n).data.toList := by
  rw [itB_list h]
  intro hm
  have := dec_dig n.toNat
  unfold digL at this
  rw [List.all_eq_true] at this
  have := this 47 hm
  revert this; decide
theorem nm_noslash {p : ByteArray} (h : nmB p = true) : 47 ∉ p.data.toList := by
  unfold nmB nameP nbL at h
  simp only [Bool.and_eq_true] at h
  have h := h.2
  rw [List.all_eq_true] at h
  intro hm
  have := h 47 hm
  revert this; decide
theorem mayE_nm {p : ByteArray} {c : Int} (h : mayE p c = true) : nmB p = true := by unfold mayE at h; simp only [Bool.and_eq_true] at h; exact h.1.1
theorem word_noslash {k : Int} (h : kindB k = true) : 47 ∉ (wordB k).data.toList := by
  rcases kind_cases k with ⟨h1, _⟩ | ⟨_, h2⟩
  · rcases h1 with rfl | rfl | rfl | rfl | rfl | rfl | rfl <;> decide
  · rw [h] at h2; cases h2
theorem word_inj {k j : Int} (hk : kindB k = true) (hj : kindB j = true) (h : (wordB k).data.toList = (wordB j).data.toList) : k = j := by
  rcases kind_cases k with ⟨h1, _⟩ | ⟨_, h2⟩
  · rcases kind_cases j with ⟨h3, _⟩ | ⟨_, h2⟩
    · rcases h1 with rfl | rfl | rfl | rfl | rfl | rfl | rfl <;> rcases h3 with rfl | rfl | rfl | rfl | rfl | rfl | rfl <;> first | rfl | exact absurd h (by decide)
    · rw [hj] at h2; cases h2
  · rw [hk] at h2; cases h2
/-- The rest of a key behind the channel's number. -/
def tailL (k seq : Int) : List UInt8 := if numdB k = true then 47 :: ((⟨#[115, 101, 113, 117, 101, 110, 99, 101, 115]⟩ : ByteArray).data.toList ++ 47 :: (itB seq).data.toList) else []
theorem of_list {k : Int} {p : ByteArray} {c seq : Int} (h : ofE k p c seq ≠ ⟨#[]⟩) :
    kindB k = true ∧ mayE p c = true ∧ (if numdB k = true then seqB seq = true else seq = 0) ∧
    (ofE k p c seq).data.toList = (wordB k).data.toList ++ 47 :: ((⟨#[112, 111, 114, 116, 115]⟩ : ByteArray).data.toList ++ 47 :: (p.data.toList ++ 47 :: ((⟨#[99, 104, 97, 110, 110, 101, 108, 115]⟩ : ByteArray).data.toList ++ 47 :: ((⟨#[99, 104, 97, 110, 110, 101, 108, 45]⟩ : ByteArray).data.toList ++ ((itB c).data.toList ++ tailL k seq))))) := by
  unfold ofE at h ⊢
  cases hk : kindB k
  · rw [hk] at h; exact absurd rfl h
  cases hm : mayE p c
  · rw [hk, hm] at h; exact absurd rfl h
  rw [hk, hm] at h
  simp only [Bool.and_self, if_true] at h ⊢
  cases hn : numdB k
  · rw [hn] at h
    simp only [Bool.false_eq_true, if_false] at h ⊢
    by_cases h0 : seq = 0
    · subst h0
      refine ⟨by first | rfl | trivial, by first | rfl | trivial, by first | rfl | trivial, ?_⟩
      simp only [beq_self_eq_true, if_true]
      unfold keyB tailL
      rw [hn]
      simp only [str_append, Bool.false_eq_true, if_false, List.append_nil, List.append_assoc]; rfl
    · rw [if_neg (by simpa using h0)] at h; exact absurd rfl h
  · rw [hn] at h
    simp only [if_true] at h ⊢
    cases hs : seqB seq
    · rw [hs] at h; exact absurd rfl h
    · refine ⟨by first | rfl | trivial, by first | rfl | trivial, by first | rfl | trivial, ?_⟩
      simp only [if_true]
      unfold keyB tailL
      rw [hn]
      simp only [str_append, if_true, List.append_assoc]; rfl
theorem digits_cut {a b : List UInt8} {x y : List UInt8} (ha : 47 ∉ a) (hb : 47 ∉ b) (h : a ++ (47 :: x) = b ++ (47 :: y)) : a = b ∧ x = y := slash_cut ha hb h
theorem of_inj {k : Int} {p : ByteArray} {c n : Int} {j : Int} {q : ByteArray} {d m : Int} (h1 : ofE k p c n ≠ ⟨#[]⟩) (h2 : ofE j q d m ≠ ⟨#[]⟩) (h : ofE k p c n = ofE j q d m) : k = j ∧ p = q ∧ c = d ∧ n = m := by
  obtain ⟨k1, m1, s1, e1⟩ := of_list h1
  obtain ⟨k2, m2, s2, e2⟩ := of_list h2
  rw [← h, e1] at e2
  obtain ⟨a1, e2⟩ := slash_cut (word_noslash k1) (word_noslash k2) e2
  obtain rfl := word_inj k1 k2 a1
  obtain ⟨_, e2⟩ := slash_cut (by decide) (by decide) e2
  obtain ⟨a2, e2⟩ := slash_cut (nm_noslash (mayE_nm m1)) (nm_noslash (mayE_nm m2)) e2
  obtain ⟨_, e2⟩ := slash_cut (by decide) (by decide) e2
  have e2 := List.append_cancel_left e2
  obtain ⟨_, c0, _⟩ := mayE_bd m1
  obtain ⟨_, d0, _⟩ := mayE_bd m2
  have hp : p = q := ByteArray.ext (Array.toList_inj.1 a2)
  unfold tailL at e2
  cases hn : numdB k
  · rw [hn] at e2 s1 s2
    simp only [Bool.false_eq_true, if_false, List.append_nil] at e2 s1 s2
    exact ⟨rfl, hp, itB_inj c0 d0 e2, by rw [s1, s2]⟩
  · rw [hn] at e2 s1 s2
    simp only [if_true] at e2 s1 s2
    obtain ⟨a3, e2⟩ := slash_cut (it_noslash c0) (it_noslash d0) e2
    obtain ⟨_, e2⟩ := slash_cut (by decide) (by decide) e2
    unfold seqB at s1 s2
    simp only [Bool.and_eq_true, decide_eq_true_eq] at s1 s2
    exact ⟨rfl, hp, itB_inj c0 d0 a3, itB_inj (by omega) (by omega) e2⟩

set_option maxRecDepth 100000 in
set_option maxHeartbeats 6400000 in
theorem walkPathApart (k : Int) (p : ByteArray) (c n j : Int) (q : ByteArray) (d m : Int) (w : World) (hW : PW w) (hp : p.size ≤ maxLen) (hq : q.size ≤ maxLen) :
    Calls Tryd.prog 7 #[.int .i64 k, .agg #[.string p, .int .i64 c], .int .i64 n, .int .i64 j, .agg #[.string q, .int .i64 d], .int .i64 m] w fun e w' => e = .returned (.bool true) ∧ Below w.heap.size w w' := by
  by_cases h60 : 60 < p.size
  · go_enter Tryd.func7, Tryd.ntmps7
    go_wp2_with (go_at_call 8; refine (first3_any _ (hW.below (by repeat (first | assumption | exact Below.refl _ _ | refine bch ?_ (by assumption) | refine Below.alloc ?_ (by (try simp) <;> omega) _)))).mono ?_; rintro e w1 ⟨rfl, hb⟩; obtain ⟨hc1, hf1⟩ := bcell hb; have hz1 : w.heap.size < w1.heap.size := (by have := hb.size; (try simp at this); omega); have hz2 : w.heap.size + 1 < w1.heap.size := (by have := hb.size; (try simp at this); omega); obtain ⟨hbc, hbf⟩ := beyond_cells (W := w1); have hbel1 : Below w.heap.size w w1 := by repeat (first | assumption | exact Below.refl _ _ | refine bch ?_ (by assumption) | refine Below.alloc ?_ (by (try simp) <;> omega) _))
    go_ret
    exact ⟨rfl, by repeat (first | assumption | exact Below.refl _ _ | refine bch ?_ (by assumption) | refine Below.alloc ?_ (by (try simp) <;> omega) _)⟩
  by_cases h61 : 60 < q.size
  · go_enter Tryd.func7, Tryd.ntmps7
    go_wp2_with (go_at_call 8; refine (first3_any _ (hW.below (by repeat (first | assumption | exact Below.refl _ _ | refine bch ?_ (by assumption) | refine Below.alloc ?_ (by (try simp) <;> omega) _)))).mono ?_; rintro e w1 ⟨rfl, hb⟩; obtain ⟨hc1, hf1⟩ := bcell hb; have hz1 : w.heap.size < w1.heap.size := (by have := hb.size; (try simp at this); omega); have hz2 : w.heap.size + 1 < w1.heap.size := (by have := hb.size; (try simp at this); omega); obtain ⟨hbc, hbf⟩ := beyond_cells (W := w1); have hbel1 : Below w.heap.size w w1 := by repeat (first | assumption | exact Below.refl _ _ | refine bch ?_ (by assumption) | refine Below.alloc ?_ (by (try simp) <;> omega) _))
    go_ret
    exact ⟨rfl, by repeat (first | assumption | exact Below.refl _ _ | refine bch ?_ (by assumption) | refine Below.alloc ?_ (by (try simp) <;> omega) _)⟩
  have inj := @of_inj k p c n j q d m
  obtain ⟨s, hs⟩ : ∃ s, ofE k p c n = s := ⟨_, rfl⟩
  obtain ⟨t, ht⟩ : ∃ t, ofE j q d m = t := ⟨_, rfl⟩
  rw [hs, ht] at inj
  have C1 : ∀ w', PW w' → Calls Tryd.prog 24 #[.int .i64 k, .agg #[.string p, .int .i64 c], .int .i64 n] w' fun e w'' => e = .returned (.string s) ∧ Below w'.heap.size w' w'' := fun w' h => by rw [← hs]; exact of_any k p c n w' h hp
  have C2 : ∀ w', PW w' → Calls Tryd.prog 24 #[.int .i64 j, .agg #[.string q, .int .i64 d], .int .i64 m] w' fun e w'' => e = .returned (.string t) ∧ Below w'.heap.size w' w'' := fun w' h => by rw [← ht]; exact of_any j q d m w' h hq
  by_cases hs0 : s.size = 0
  · obtain rfl := str_nil hs0
    clear inj
    go_enter Tryd.func7, Tryd.ntmps7
    go_wp2_with (go_at_call 8; refine (first3_any _ (hW.below (by repeat (first | assumption | exact Below.refl _ _ | refine bch ?_ (by assumption) | refine Below.alloc ?_ (by (try simp) <;> omega) _)))).mono ?_; rintro e w1 ⟨rfl, hb⟩; obtain ⟨hc1, hf1⟩ := bcell hb; have hz1 : w.heap.size < w1.heap.size := (by have := hb.size; (try simp at this); omega); have hz2 : w.heap.size + 1 < w1.heap.size := (by have := hb.size; (try simp at this); omega); obtain ⟨hbc, hbf⟩ := beyond_cells (W := w1); have hbel1 : Below w.heap.size w w1 := by repeat (first | assumption | exact Below.refl _ _ | refine bch ?_ (by assumption) | refine Below.alloc ?_ (by (try simp) <;> omega) _))
    have hP : ∀ n : Beyond w1, PW n.x := fun n => hW.below (bch hbel1 n.h)
    refine wp_region_below (by kernel_rfl) (by kernel_rfl) ?_
    repeat (go_big_quiet_step ((go_at_call 24; first | with_reducible exact quiet_below (C1 _ (hP _)) | with_reducible exact quiet_below (C2 _ (hP _)))))
    intro w9 hw9
    have hb9 := beyond_below hw9
    obtain ⟨hc9, hf9⟩ := bcell hb9
    go_wp2_with (go_at_call 8; refine (first3_any _ (hW.below (bch hbel1 hb9))).mono ?_; rintro e w1 ⟨rfl, hb⟩)
    go_ret
    exact ⟨rfl, bch (bch hbel1 hb9) hb⟩
  by_cases ht0 : t.size = 0
  · obtain rfl := str_nil ht0
    have hne := str_ne'' (show 0 < s.size by omega)
    have hne2 := str_ne' (show 0 < s.size by omega)
    clear inj
    go_enter Tryd.func7, Tryd.ntmps7
    go_wp2_with (go_at_call 8; refine (first3_any _ (hW.below (by repeat (first | assumption | exact Below.refl _ _ | refine bch ?_ (by assumption) | refine Below.alloc ?_ (by (try simp) <;> omega) _)))).mono ?_; rintro e w1 ⟨rfl, hb⟩; obtain ⟨hc1, hf1⟩ := bcell hb; have hz1 : w.heap.size < w1.heap.size := (by have := hb.size; (try simp at this); omega); have hz2 : w.heap.size + 1 < w1.heap.size := (by have := hb.size; (try simp at this); omega); obtain ⟨hbc, hbf⟩ := beyond_cells (W := w1); have hbel1 : Below w.heap.size w w1 := by repeat (first | assumption | exact Below.refl _ _ | refine bch ?_ (by assumption) | refine Below.alloc ?_ (by (try simp) <;> omega) _))
    have hP : ∀ n : Beyond w1, PW n.x := fun n => hW.below (bch hbel1 n.h)
    refine wp_region_below (by kernel_rfl) (by kernel_rfl) ?_
    repeat (go_big_quiet_step ((go_at_call 24; first | with_reducible exact quiet_below (C1 _ (hP _)) | with_reducible exact quiet_below (C2 _ (hP _)))))
    intro w9 hw9
    have hb9 := beyond_below hw9
    obtain ⟨hc9, hf9⟩ := bcell hb9
    go_wp2_with (go_at_call 8; refine (first3_any _ (hW.below (bch hbel1 hb9))).mono ?_; rintro e w1 ⟨rfl, hb⟩)
    go_ret
    exact ⟨rfl, bch (bch hbel1 hb9) hb⟩
  have hne := str_ne'' (show 0 < s.size by omega)
  have hne2 := str_ne' (show 0 < s.size by omega)
  have hte := str_ne'' (show 0 < t.size by omega)
  have hte2 := str_ne' (show 0 < t.size by omega)
  have inj := inj (fun e => by rw [e] at hs0; exact hs0 rfl) (fun e => by rw [e] at ht0; exact ht0 rfl)
  have far : ¬ (k = j ∧ p = q ∧ c = d ∧ n = m) → (s.toList == t.toList) = false := fun hno => by
    rw [ByteArray.toList_eq, ByteArray.toList_eq, beq_eq_false_iff_ne]
    exact fun e => hno (inj (ByteArray.ext (Array.toList_inj.1 e)))
  clear inj
  by_cases hkj : k = j
  rotate_left
  · have E := far (fun x => hkj x.1)
    have e1 : (k == j) = false := beq_eq_false_iff_ne.2 hkj
    clear far
    go_enter Tryd.func7, Tryd.ntmps7
    go_wp2_with (go_at_call 8; refine (first3_any _ (hW.below (by repeat (first | assumption | exact Below.refl _ _ | refine bch ?_ (by assumption) | refine Below.alloc ?_ (by (try simp) <;> omega) _)))).mono ?_; rintro e w1 ⟨rfl, hb⟩; obtain ⟨hc1, hf1⟩ := bcell hb; have hz1 : w.heap.size < w1.heap.size := (by have := hb.size; (try simp at this); omega); have hz2 : w.heap.size + 1 < w1.heap.size := (by have := hb.size; (try simp at this); omega); obtain ⟨hbc, hbf⟩ := beyond_cells (W := w1); have hbel1 : Below w.heap.size w w1 := by repeat (first | assumption | exact Below.refl _ _ | refine bch ?_ (by assumption) | refine Below.alloc ?_ (by (try simp) <;> omega) _))
    have hP : ∀ n : Beyond w1, PW n.x := fun n => hW.below (bch hbel1 n.h)
    refine wp_region_below (by kernel_rfl) (by kernel_rfl) ?_
    repeat (go_big_quiet_step ((go_at_call 24; first | with_reducible exact quiet_below (C1 _ (hP _)) | with_reducible exact quiet_below (C2 _ (hP _)))))
    intro w9 hw9
    have hb9 := beyond_below hw9
    obtain ⟨hc9, hf9⟩ := bcell hb9
    go_wp2
    go_ret
    exact ⟨rfl, bch hbel1 hb9⟩
  subst hkj
  by_cases hpq : p = q
  rotate_left
  · have E := far (fun x => hpq x.2.1)
    have e1 : (p.toList == q.toList) = false := by rw [ByteArray.toList_eq, ByteArray.toList_eq, beq_eq_false_iff_ne]; exact fun e => hpq (ByteArray.ext (Array.toList_inj.1 e))
    clear far
    go_enter Tryd.func7, Tryd.ntmps7
    go_wp2_with (go_at_call 8; refine (first3_any _ (hW.below (by repeat (first | assumption | exact Below.refl _ _ | refine bch ?_ (by assumption) | refine Below.alloc ?_ (by (try simp) <;> omega) _)))).mono ?_; rintro e w1 ⟨rfl, hb⟩; obtain ⟨hc1, hf1⟩ := bcell hb; have hz1 : w.heap.size < w1.heap.size := (by have := hb.size; (try simp at this); omega); have hz2 : w.heap.size + 1 < w1.heap.size := (by have := hb.size; (try simp at this); omega); obtain ⟨hbc, hbf⟩ := beyond_cells (W := w1); have hbel1 : Below w.heap.size w w1 := by repeat (first | assumption | exact Below.refl _ _ | refine bch ?_ (by assumption) | refine Below.alloc ?_ (by (try simp) <;> omega) _))
    have hP : ∀ n : Beyond w1, PW n.x := fun n => hW.below (bch hbel1 n.h)
    refine wp_region_below (by kernel_rfl) (by kernel_rfl) ?_
    repeat (go_big_quiet_step ((go_at_call 24; first | with_reducible exact quiet_below (C1 _ (hP _)) | with_reducible exact quiet_below (C2 _ (hP _)))))
    intro w9 hw9
    have hb9 := beyond_below hw9
    obtain ⟨hc9, hf9⟩ := bcell hb9
    go_wp2
    go_ret
    exact ⟨rfl, bch hbel1 hb9⟩
  subst hpq
  by_cases hcd : c = d
  rotate_left
  · have E := far (fun x => hcd x.2.2.1)
    have e1 : (c == d) = false := beq_eq_false_iff_ne.2 hcd
    clear far
    go_enter Tryd.func7, Tryd.ntmps7
    go_wp2_with (go_at_call 8; refine (first3_any _ (hW.below (by repeat (first | assumption | exact Below.refl _ _ | refine bch ?_ (by assumption) | refine Below.alloc ?_ (by (try simp) <;> omega) _)))).mono ?_; rintro e w1 ⟨rfl, hb⟩; obtain ⟨hc1, hf1⟩ := bcell hb; have hz1 : w.heap.size < w1.heap.size := (by have := hb.size; (try simp at this); omega); have hz2 : w.heap.size + 1 < w1.heap.size := (by have := hb.size; (try simp at this); omega); obtain ⟨hbc, hbf⟩ := beyond_cells (W := w1); have hbel1 : Below w.heap.size w w1 := by repeat (first | assumption | exact Below.refl _ _ | refine bch ?_ (by assumption) | refine Below.alloc ?_ (by (try simp) <;> omega) _))
    have hP : ∀ n : Beyond w1, PW n.x := fun n => hW.below (bch hbel1 n.h)
    refine wp_region_below (by kernel_rfl) (by kernel_rfl) ?_
    repeat (go_big_quiet_step ((go_at_call 24; first | with_reducible exact quiet_below (C1 _ (hP _)) | with_reducible exact quiet_below (C2 _ (hP _)))))
    intro w9 hw9
    have hb9 := beyond_below hw9
    obtain ⟨hc9, hf9⟩ := bcell hb9
    go_wp2
    go_ret
    exact ⟨rfl, bch hbel1 hb9⟩
  subst hcd
  by_cases hnm : n = m
  rotate_left
  · have E := far (fun x => hnm x.2.2.2)
    have e1 : (n == m) = false := beq_eq_false_iff_ne.2 hnm
    clear far
    go_enter Tryd.func7, Tryd.ntmps7
    go_wp2_with (go_at_call 8; refine (first3_any _ (hW.below (by repeat (first | assumption | exact Below.refl _ _ | refine bch ?_ (by assumption) | refine Below.alloc ?_ (by (try simp) <;> omega) _)))).mono ?_; rintro e w1 ⟨rfl, hb⟩; obtain ⟨hc1, hf1⟩ := bcell hb; have hz1 : w.heap.size < w1.heap.size := (by have := hb.size; (try simp at this); omega); have hz2 : w.heap.size + 1 < w1.heap.size := (by have := hb.size; (try simp at this); omega); obtain ⟨hbc, hbf⟩ := beyond_cells (W := w1); have hbel1 : Below w.heap.size w w1 := by repeat (first | assumption | exact Below.refl _ _ | refine bch ?_ (by assumption) | refine Below.alloc ?_ (by (try simp) <;> omega) _))
    have hP : ∀ n : Beyond w1, PW n.x := fun n => hW.below (bch hbel1 n.h)
    refine wp_region_below (by kernel_rfl) (by kernel_rfl) ?_
    repeat (go_big_quiet_step ((go_at_call 24; first | with_reducible exact quiet_below (C1 _ (hP _)) | with_reducible exact quiet_below (C2 _ (hP _)))))
    intro w9 hw9
    have hb9 := beyond_below hw9
    obtain ⟨hc9, hf9⟩ := bcell hb9
    go_wp2
    go_ret
    exact ⟨rfl, bch hbel1 hb9⟩
  subst hnm
  obtain rfl : s = t := hs.symm.trans ht
  clear far
  go_enter Tryd.func7, Tryd.ntmps7
  go_wp2_with (go_at_call 8; refine (first3_any _ (hW.below (by repeat (first | assumption | exact Below.refl _ _ | refine bch ?_ (by assumption) | refine Below.alloc ?_ (by (try simp) <;> omega) _)))).mono ?_; rintro e w1 ⟨rfl, hb⟩; obtain ⟨hc1, hf1⟩ := bcell hb; have hz1 : w.heap.size < w1.heap.size := (by have := hb.size; (try simp at this); omega); have hz2 : w.heap.size + 1 < w1.heap.size := (by have := hb.size; (try simp at this); omega); obtain ⟨hbc, hbf⟩ := beyond_cells (W := w1); have hbel1 : Below w.heap.size w w1 := by repeat (first | assumption | exact Below.refl _ _ | refine bch ?_ (by assumption) | refine Below.alloc ?_ (by (try simp) <;> omega) _))
  have hP : ∀ n : Beyond w1, PW n.x := fun n => hW.below (bch hbel1 n.h)
  refine wp_region_below (by kernel_rfl) (by kernel_rfl) ?_
  repeat (go_big_quiet_step ((go_at_call 24; first | with_reducible exact quiet_below (C1 _ (hP _)) | with_reducible exact quiet_below (C2 _ (hP _)))))
  intro w9 hw9
  have hb9 := beyond_below hw9
  obtain ⟨hc9, hf9⟩ := bcell hb9
  go_wp2
  go_ret
  exact ⟨rfl, bch hbel1 hb9⟩
end Go.Proofs.YtemmblfjmhcenaaDoor
