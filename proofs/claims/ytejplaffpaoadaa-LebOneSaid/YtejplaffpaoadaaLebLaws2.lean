/- LebBack and LebOne, walked. -/
import Derived.Test.YtejplaffpaoadaaRows
import Derived.Test.YtejplaffpaoadaaLebLaws
import Derived.WalkKit
import Derived.ProofKit
import Derived.Handy
import Derived.Below
import Derived.Lib.Hide
import Derived.IntWalk
import Derived.Outline
import Derived.WalkLawsBesides
import Derived.WalkSpells
import Derived.Deep.RegionWith
import Derived.Deep.QuietTactic
import Derived.BigQuiet
namespace Go.Proofs.Ytejplaffpaoadaa
open Go.RowKit
attribute [local go_sem] trip strV pairV

set_option maxRecDepth 100000 in
set_option maxHeartbeats 800000 in
theorem walkLebBack (s : ByteArray) (v : Int) (t : ByteArray) (w : World) (hs : s.size ≤ maxLen) (ht : t.size ≤ maxLen) :
    Calls Try.prog 4 #[.string s, .int .i64 v, .string t] w fun e w' => e = .returned (.bool true) ∧ Below w.heap.size w w' := by
  unfold maxLen at hs ht
  by_cases h : s.size ≤ 100 ∧ t.size ≤ 100 ∧ 0 ≤ v ∧ v ≤ 72057594037927935
  · obtain ⟨h1, h2, h3, h4⟩ := h
    obtain ⟨x, rfl⟩ := Int.eq_ofNat_of_zero_le h3
    have ex : encB (x : Int) = true := by simp [encB]; omega
    have hl1 : 1 ≤ (putL (x : Int)).length := by unfold putL; rw [if_pos ex]; exact grp_pos _ _
    have hl2 : (putL (x : Int)).length ≤ 8 := by unfold putL; rw [if_pos ex]; exact grp_le _ _
    have hn := next_put (A := s.data.toList) (B := t.data.toList) (x := x) (by omega)
    have HN := Lib.hid hn; clear hn ex
    have HL : Hid (s.data.toList.length = s.size) := Lib.hid (by simp)
    go_enter Try.func4, Try.ntmps4
    go_wp2_with (first | (go_at_call 8; refine (first_any _).mono ?_; rintro e w1 ⟨rfl, hb⟩) | (go_at_call 11; refine (put_any _ _).mono ?_; rintro e w1 ⟨rfl, hb⟩) | (go_at_call 13; refine (size_any _ _).mono ?_; rintro e wx ⟨rfl, rfl⟩))
    have hsz : (s ++ ⟨(putL (x : Int)).toArray⟩ ++ t).size ≤ maxLen := by
      rw [ByteArray.size_append, ByteArray.size_append]
      show s.size + (putL (x : Int)).toArray.size + t.size ≤ _
      rw [List.size_toArray]; unfold maxLen; omega
    have hlist : Hid ((s ++ ⟨(putL (x : Int)).toArray⟩ ++ t).data.toList = s.data.toList ++ putL (x : Int) ++ t.data.toList) := Lib.hid (by
      rw [ByteArray.data_append, ByteArray.data_append]; simp)
    refine (next_any _ _ _ hsz).mono ?_
    rintro e wx ⟨rfl, rfl⟩
    rw [hlist.out, ← HL.out, HN.out, HL.out]
    go_wp2_with (go_at_call 13; refine (size_any _ _).mono ?_; rintro e wx ⟨rfl, rfl⟩)
    go_ret
    exact ⟨rfl, by repeat (first | assumption | exact Below.refl _ _ | refine bch ?_ (by assumption))⟩
  · have h' : 100 < s.size ∨ (s.size ≤ 100 ∧ 100 < t.size) ∨ (s.size ≤ 100 ∧ t.size ≤ 100 ∧ v < 0) ∨ (s.size ≤ 100 ∧ t.size ≤ 100 ∧ 0 ≤ v ∧ 72057594037927935 < v) := by omega
    clear h
    rcases h' with h1 | ⟨h0, h1⟩ | ⟨h0, h1, h2⟩ | ⟨h0, h1, h2, h3⟩
    all_goals
      go_enter Try.func4, Try.ntmps4
      go_wp2_with (go_at_call 8; refine (first_any _).mono ?_; rintro e w1 ⟨rfl, hb⟩)
      go_ret
      exact ⟨rfl, by repeat (first | assumption | exact Below.refl _ _ | refine bch ?_ (by assumption))⟩

theorem take_bytes (s : ByteArray) (j : Nat) : (s.extract 0 j).data.toList = s.data.toList.take j := by
  rw [ByteArray.data_extract, Array.toList_extract]; simp [List.extract]

set_option maxRecDepth 100000 in
set_option maxHeartbeats 800000 in
theorem walkLebOne (s : ByteArray) (a : Int) (w : World) (hs : s.size ≤ maxLen) :
    Calls Try.prog 5 #[.string s, .int .i64 a] w fun e w' => e = .returned (.bool true) ∧ Below w.heap.size w w' := by
  have hs' := hs; unfold maxLen at hs'
  by_cases hl : 100 < s.size
  · go_enter Try.func5, Try.ntmps5
    go_wp2_with (go_at_call 8; refine (first_any _).mono ?_; rintro e w1 ⟨rfl, hb⟩)
    go_ret
    exact ⟨rfl, by repeat (first | assumption | exact Below.refl _ _ | refine bch ?_ (by assumption))⟩
  obtain ⟨V, E, c, hr⟩ : ∃ V E c, nextS s.data.toList a = (V, E, c) := ⟨_, _, _, rfl⟩
  have hlen : s.data.toList.length = s.size := by simp
  by_cases hc : c = 0
  · subst hc
    obtain ⟨i, m, x, rfl, rfl, hE, h1, h2, h4, h3, h5⟩ := next_ok hr
    obtain ⟨j, hj⟩ : ∃ j, i + m = j := ⟨_, rfl⟩
    rw [hj] at hE h2 h5
    rw [hlen] at h2
    subst hE
    have hput : (putL (x : Int) == ((s.extract i j).toList)) = true := by
      rw [ByteArray.toList_eq, h4, beq_iff_eq, ByteArray.data_extract, Array.toList_extract]; simp [List.extract]; omega
    have hij : i < j := by omega
    have d1 : decide ((i : Int) < 0) = false := decide_eq_false (by omega)
    have d2 : decide (j ≤ i) = false := decide_eq_false (by omega)
    have d3 : decide (s.size < j) = false := decide_eq_false (by omega)
    have H5 := Lib.hid h5; have HR := Lib.hid hr; clear h5 hr hlen h4 hj
    go_enter Try.func5, Try.ntmps5
    go_wp2_with (first | (go_at_call 8; refine (first_any _).mono ?_; rintro e w1 ⟨rfl, hb⟩) | (go_at_call 9; refine (next_any _ _ _ hs).mono ?_; rintro e wx ⟨rfl, rfl⟩; rw [HR.out]) | (go_at_call 11; refine (put_any _ _).mono ?_; rintro e w1 ⟨rfl, hb⟩))
    refine wp_region_below (by kernel_rfl) (by kernel_rfl) ?_
    repeat (go_big_quiet_step ((go_at_call 11; exact quiet_below (put_any _ _))))
    refine wpQuiet_nil ?_
    intro w5 hw5
    have hbn := beyond_below hw5
    clear hw5
    go_wp2
    go_loop [8] (fun q => ∃ k : Nat, i ≤ k ∧ k ≤ j ∧ q = .int .i64 k) (fun q => j - (intOf q).toNat)
    case atStart => exact ⟨i, by omega, by omega, rfl⟩
    case round =>
      obtain ⟨k, hk1, hk2, rfl⟩ := hrel
      by_cases hlt : k < j
      · have H6 := Lib.hid (H5.out k hk1 hlt)
        have hsk : (s.extract 0 k).size ≤ maxLen := by rw [ByteArray.size_extract]; omega
        go_wp2_with (go_at_call 9; refine (next_any _ _ _ hsk).mono ?_; rintro e wx ⟨rfl, rfl⟩; rw [take_bytes, H6.out])
        go_round
        case rel => refine ⟨trivial, ?_⟩; (repeat apply Exists.intro); exact ⟨⟨k + 1, by omega, by omega, by go_num⟩, rfl⟩
        case measure => simp [intOf]; omega
      · go_wp2
        go_ret
        exact ⟨rfl, by repeat (first | assumption | exact Below.refl _ _ | refine bch ?_ (by assumption))⟩
  · have hne := next_err (l := s.data.toList) (a := a) (by rw [hr]; exact hc)
    rw [hr, hlen] at hne
    obtain ⟨h1, h2, h3⟩ := hne
    simp only at h1 h2 h3
    subst h1 h2
    have HR := Lib.hid hr; clear hr hlen
    have hcb : (c != 0) = true := by simpa using hc
    have hce : (c == 0) = false := by simpa using hc
    by_cases hlo : a < 0
    · obtain rfl : c = 1 := h3.2 (.inl hlo)
      clear h3 hc hcb hce
      go_enter Try.func5, Try.ntmps5
      go_wp2_with (first | (go_at_call 8; refine (first_any _).mono ?_; rintro e w1 ⟨rfl, hb⟩) | (go_at_call 9; refine (next_any _ _ _ hs).mono ?_; rintro e wx ⟨rfl, rfl⟩; rw [HR.out]))
      go_ret
      exact ⟨rfl, by repeat (first | assumption | exact Below.refl _ _ | refine bch ?_ (by assumption))⟩
    obtain ⟨i, rfl⟩ := Int.eq_ofNat_of_zero_le (Int.not_lt.1 hlo)
    by_cases hhi : s.size < i
    · obtain rfl : c = 1 := h3.2 (.inr (by omega))
      clear h3 hc hcb hce
      go_enter Try.func5, Try.ntmps5
      go_wp2_with (first | (go_at_call 8; refine (first_any _).mono ?_; rintro e w1 ⟨rfl, hb⟩) | (go_at_call 9; refine (next_any _ _ _ hs).mono ?_; rintro e wx ⟨rfl, rfl⟩; rw [HR.out]))
      go_ret
      exact ⟨rfl, by repeat (first | assumption | exact Below.refl _ _ | refine bch ?_ (by assumption))⟩
    · have hc1 : c ≠ 1 := fun e => by have := h3.1 e; omega
      have hc2 : (c == 1) = false := by simpa using hc1
      clear h3 hc1 hc
      have d1 : decide ((i : Int) < 0) = false := decide_eq_false (by omega)
      have d2 : decide (s.size < i) = false := decide_eq_false (by omega)
      go_enter Try.func5, Try.ntmps5
      go_wp2_with (first | (go_at_call 8; refine (first_any _).mono ?_; rintro e w1 ⟨rfl, hb⟩) | (go_at_call 9; refine (next_any _ _ _ hs).mono ?_; rintro e wx ⟨rfl, rfl⟩; rw [HR.out]))
      go_ret
      exact ⟨rfl, by repeat (first | assumption | exact Below.refl _ _ | refine bch ?_ (by assumption))⟩
end Go.Proofs.Ytejplaffpaoadaa
