/- FrameAll, walked. -/
import Derived.Test.YtfblbholkhdldaaDoorFrAll
import Derived.Test.YtfblbholkhdldaaDoorFrTurned
import Derived.WalkKit
import Derived.ProofKit
import Derived.Handy
import Derived.Below
import Derived.Lib.Hide
import Derived.IntWalk
import Derived.Outline
import Derived.WalkLawsBesides
import Derived.WalkSpells
namespace Go.Proofs.YtfblbholkhdldaaDoor
open Go.RowKit
attribute [local go_sem] strV
set_option linter.unusedVariables false
theorem ltB_parts {ss : List ByteArray} {many long : Nat} (h : ltB ss many long = true) : ss.length ≤ many ∧ (∀ s ∈ ss, s.size ≤ long) := by
  unfold ltB at h
  simp only [Bool.and_eq_true, decide_eq_true_eq, List.all_eq_true] at h
  exact ⟨h.1.1, h.1.2⟩
set_option maxRecDepth 100000 in
set_option maxHeartbeats 12800000 in
theorem walkFrameAll (a : Option Addr) (n cap : Nat) (ss : List ByteArray) (tail : ByteArray) (w : World) (hW : SW w) (hr : RowAt w a (ss.flatMap sval)) (hn : ss.length = n) (hnm : n ≤ maxLen) (hta : tail.size ≤ maxLen) :
    Calls Tryd.prog 14 #[.slice a n cap, .string tail] w fun e w' => e = .returned (.bool true) ∧ Below w.heap.size w w' := by
  have hbel : Below w.heap.size w w := Below.refl _ _
  obtain ⟨lb, hlb⟩ : ∃ b, ltB ss 20 2000 = b := ⟨_, rfl⟩
  have CL := fun (W : World) h => lightTexts_any a n cap ss 20 2000 W h hn (by omega) (by omega) hnm
  simp only [hlb] at CL
  go_enter Tryd.func14, Tryd.ntmps14
  go_upto_region 3 with (go_at_call 46; refine (first11_any _ hW).mono ?_; rintro e w0 ⟨rfl, hb⟩; have hW := hW.below hb; have hbel := hbel.trans (hb.mono hbel.size))
  cases lb
  · go_wp2_with (first | (go_at_call 16; refine (CL _ (hr.below hbel)).mono ?_; rintro e w3 ⟨rfl, hb⟩; have hW := hW.below hb; have hbel := hbel.trans (hb.mono hbel.size)) | (go_at_call 46; refine (first11_any _ hW).mono ?_; rintro e w0 ⟨rfl, hb⟩; have hW := hW.below hb; have hbel := hbel.trans (hb.mono hbel.size)))
    go_ret
    exact ⟨rfl, hbel⟩
  by_cases c1 : 7 < tail.size
  · have d1 : decide (7 < (tail.size : Int)) = true := decide_eq_true (by omega)
    go_wp2_with (first | (go_at_call 16; refine (CL _ (hr.below hbel)).mono ?_; rintro e w3 ⟨rfl, hb⟩; have hW := hW.below hb; have hbel := hbel.trans (hb.mono hbel.size)) | (go_at_call 46; refine (first11_any _ hW).mono ?_; rintro e w0 ⟨rfl, hb⟩; have hW := hW.below hb; have hbel := hbel.trans (hb.mono hbel.size)))
    go_ret
    exact ⟨rfl, hbel⟩
  have d1 : decide (7 < (tail.size : Int)) = false := decide_eq_false (by omega)
  obtain ⟨hn20, hsz⟩ := ltB_parts hlb
  have HN := Lib.hid hn
  go_upto_region 7 with (go_at_call 16; refine (CL _ (hr.below hbel)).mono ?_; rintro e w3 ⟨rfl, hb⟩; have hW := hW.below hb; have hbel := hbel.trans (hb.mono hbel.size))
  clear hlb CL d1
  rename_i w3x
  refine wp_nameE _ (fun V hV => ?_)
  have hbel : Below w.heap.size w V := by rw [hV]; exact hbel
  have hW : SW V := by rw [hV]; exact hW
  clear hV
  go_loopw [5, 6] (fun s i wr => ∃ (k : Nat) (T : ByteArray), k ≤ n ∧ Below w.heap.size w wr ∧ SW wr ∧ Hid (T.data.toList = recs (ss.take k)) ∧ T.size ≤ k * 3000 ∧ s = .string T ∧ i = .int .i64 k) (fun _ i _ => n - (intOf i).toNat)
  case atStart => exact ⟨0, ⟨#[]⟩, Nat.zero_le _, hbel, hW, Lib.hid rfl, Nat.zero_le _, rfl, rfl⟩
  case round =>
    clear hbel hW
    obtain ⟨k, T, hk, hbel, hW, HT, hTs, rfl, rfl⟩ := hrel
    have hn20' : n ≤ 20 := by have := HN.out; omega
    by_cases hlt : k < n
    · have d0 : k < n := hlt
      have d1 : decide ((k : Int) < (n : Int)) = true := decide_eq_true (by omega)
      have hks : k < ss.length := by have := HN.out; omega
      obtain ⟨b0, off, ha, hc⟩ := str_cell hr hbel hks
      subst ha
      have hrt := recs_take hks
      have hss := hsz _ (List.getElem_mem hks)
      obtain ⟨b, hb⟩ : ∃ b, ss[k] = b := ⟨_, rfl⟩
      rw [hb] at hc hrt hss
      have n0 : (0 : Int) ≤ (k : Int) := by omega
      have n1 : (k : Int) < (n : Int) := by omega
      have n2 : ((k : Nat) : Int).toNat = k := by omega
      have hps := putB_size b
      have CP := fput_any b wr hW (by omega)
      obtain ⟨R, hR⟩ : ∃ R, putB b = R := ⟨_, rfl⟩
      rw [hR] at CP hrt hps
      have hcat : ¬ 9223372036854775807 < T.size + R.size := by omega
      go_wp2_with (go_at_call 47; refine CP.mono ?_; rintro e w5 ⟨rfl, hb5⟩; have hW5 := hW.below hb5; have hbel5 := hbel.trans (hb5.mono hbel.size))
      go_roundw
      case rel => exact ⟨k + 1, T ++ R, by omega, hbel5, hW5, Lib.hid (by rw [hrt, ← HT.out]; simp), by rw [ByteArray.size_append]; omega, rfl, by go_num⟩
      case measure => (simp [intOf]) <;> omega
    · obtain rfl : k = n := by omega
      have d0 : ¬ k < k := by omega
      have d1 : decide ((k : Int) < (k : Int)) = false := decide_eq_false (by omega)
      have htk : ss.take k = ss := List.take_of_length_le (by have := HN.out; omega)
      have hTl := HT.out
      rw [htk] at hTl
      have hTsz : T.size = (recs ss).length := by rw [← str_len, hTl]
      have hbb : ∀ b ∈ ss, b.size ≤ 1000000 := fun b hb => by have := hsz b hb; omega
      have C1 := all_recs T ss [] wr hW (by rw [hTl, List.append_nil]) (by decide) (by omega) hbb (by omega)
      have C2 := fun W h => all_recs (T ++ tail) ss tail.data.toList W h (by simp [hTl]) (by rw [str_len]; omega) (by rw [ByteArray.size_append]; omega) hbb (by omega)
      rw [HN.out] at C1
      simp only [HN.out] at C2
      rw [← hTsz] at C1
      simp only [← hTsz] at C2
      have hcat : ¬ 9223372036854775807 < T.size + tail.size := by omega
      have e0 : ((T.size : Int) == (T.size : Int)) = true := by simp
      simp only [List.length_nil, if_true] at C1
      by_cases ht : tail.size = 0
      · have hnil : tail.data.toList = [] := List.eq_nil_of_length_eq_zero (by rw [str_len]; exact ht)
        have d5 : (tail.toList == []) = true := by rw [ByteArray.toList_eq, hnil]; rfl
        have d6 : (tail.toList == (⟨#[]⟩ : ByteArray).toList) = true := by rw [ByteArray.toList_eq, ByteArray.toList_eq, hnil]; rfl
        have C2' : ∀ W, SW W → _ := fun W h => C2 W h
        simp only [hnil, List.length_nil, if_pos trivial] at C2'
        go_wp2_with (first | (go_at_call 53; first | (with_reducible refine C1.mono ?_; rintro e w6 ⟨a1, cap1, rfl, r1, hb6⟩; have hW6 := hW.below hb6; have hbel6 := hbel.trans (hb6.mono hbel.size)) | (refine (C2' _ hW6).mono ?_; rintro e w7 ⟨a2, cap2, rfl, r2, hb7⟩; have r1 := r1.below hb7; have hbel7 := hbel6.trans (hb7.mono hbel6.size); have CX1 := fun (W : World) (h : Below w7.heap.size w7 W) => texts_same a1 a k cap1 cap ss W (r1.below h) (hr.below (hbel7.trans (h.mono hbel7.size))) HN.out (by unfold maxLen; omega); have CX2 := fun (W : World) (h : Below w7.heap.size w7 W) => texts_same a2 a k cap2 cap ss W (r2.below h) (hr.below (hbel7.trans (h.mono hbel7.size))) HN.out (by unfold maxLen; omega))) | (go_at_call 55; first | (with_reducible refine (CX1 _ (Below.refl _ _)).mono ?_; rintro e w8 ⟨rfl, hb8⟩) | (with_reducible refine (CX2 _ hb8).mono ?_; rintro e w9 ⟨rfl, hb9⟩)))
        go_ret
        exact ⟨rfl, (hbel7.trans (hb8.mono hbel7.size)).trans (hb9.mono (hbel7.trans (hb8.mono hbel7.size)).size)⟩
      · have d5 : (tail.toList == []) = false := beq_eq_false_iff_ne.2 (fun e => ht (by rw [ByteArray.toList_eq] at e; rw [← str_len, e]; rfl))
        have d6 : (tail.toList == (⟨#[]⟩ : ByteArray).toList) = false := beq_eq_false_iff_ne.2 (fun e => ht (by rw [ByteArray.toList_eq, ByteArray.toList_eq] at e; rw [← str_len, e]; rfl))
        have C2' : ∀ W, SW W → _ := fun W h => C2 W h
        simp only [str_len, if_neg ht] at C2'
        go_wp2_with (first | (go_at_call 53; first | (with_reducible refine C1.mono ?_; rintro e w6 ⟨a1, cap1, rfl, r1, hb6⟩; have hW6 := hW.below hb6; have hbel6 := hbel.trans (hb6.mono hbel.size)) | (refine (C2' _ hW6).mono ?_; rintro e w7 ⟨a2, cap2, rfl, r2, hb7⟩; have r1 := r1.below hb7; have hbel7 := hbel6.trans (hb7.mono hbel6.size); have CX1 := fun (W : World) (h : Below w7.heap.size w7 W) => texts_same a1 a k cap1 cap ss W (r1.below h) (hr.below (hbel7.trans (h.mono hbel7.size))) HN.out (by unfold maxLen; omega); have CX2 := fun (W : World) (h : Below w7.heap.size w7 W) => texts_same a2 a k cap2 cap ss W (r2.below h) (hr.below (hbel7.trans (h.mono hbel7.size))) HN.out (by unfold maxLen; omega))) | (go_at_call 55; first | (with_reducible refine (CX1 _ (Below.refl _ _)).mono ?_; rintro e w8 ⟨rfl, hb8⟩) | (with_reducible refine (CX2 _ hb8).mono ?_; rintro e w9 ⟨rfl, hb9⟩)))
        go_ret
        exact ⟨rfl, (hbel7.trans (hb8.mono hbel7.size)).trans (hb9.mono (hbel7.trans (hb8.mono hbel7.size)).size)⟩
end Go.Proofs.YtfblbholkhdldaaDoor
