/- Patterns: the document's own look, and which are plain. -/
import Derived.Test.YtohggmbnehgdiaaDoorGlob
import Derived.Test.YtohggmbnehgdiaaDoorShelf
import Derived.Test.YtohggmbnehgdiaaDoorKit
import Derived.WalkKit
import Derived.ProofKit
import Derived.Handy
import Derived.Below
import Derived.Lib.Hide
import Derived.Lib.IndexAny
import Derived.IntWalk
import Derived.Outline
import Derived.WalkLawsBesides
import Derived.WalkSpells
namespace Go.Proofs.YtohggmbnehgdiaaDoor
open Go.RowKit
attribute [local go_sem] strV

set_option maxRecDepth 100000 in
set_option maxHeartbeats 3200000 in
theorem refMay_any (s : ByteArray) (w : World) (hs : s.size ≤ maxLen) :
    Calls Tryd.prog 9 #[.string s] w fun e w' => e = .returned (.bool (mayP s.data.toList)) ∧ w' = w := by
  unfold maxLen at hs
  by_cases h0 : s.size = 0
  · have he := str_nil h0
    subst he
    go_enter Tryd.func9, Tryd.ntmps9
    go_wp2
    go_ret
    exact ⟨rfl, rfl⟩
  · have hpos : 0 < s.size := by omega
    have hne := str_ne'' hpos
    have hne2 := str_ne' hpos
    by_cases h40 : 40 < s.size
    · have HR : Hid (mayP s.data.toList = false) := Lib.hid (by unfold mayP; rw [str_len, decide_eq_false (show ¬ s.size ≤ 40 by omega)]; simp)
      go_enter Tryd.func9, Tryd.ntmps9
      go_wp2
      go_ret
      exact ⟨by rw [HR.out]; first | done | rfl, by first | rfl | trivial⟩
    · have HR : Hid (mayP s.data.toList = allL s.data.toList) := Lib.hid (by unfold mayP; rw [str_len, decide_eq_true (show s.size ≤ 40 by omega), decide_eq_true (show 1 ≤ s.size by omega)]; rfl)
      go_enter Tryd.func9, Tryd.ntmps9
      go_wp2
      go_loopw [3, 4] (fun i v wr => ∃ k : Nat, k ≤ s.size ∧ wr = w ∧ Hid (allL (s.data.toList.take k) = true) ∧ i = .int .i64 k) (fun i _ _ => s.size - (intOf i).toNat)
      case atStart => exact ⟨0, by omega, rfl, Lib.hid rfl, rfl⟩
      case round =>
        obtain ⟨k, hk, rfl, HA, rfl⟩ := hrel
        by_cases hlt : k < s.size
        · obtain ⟨b, hb⟩ : ∃ b, s[k] = b := ⟨_, rfl⟩
          have hg := str_get hlt
          rw [hb] at hg
          have HG := Lib.hid hg; clear hg
          have hb256 := UInt8.toNat_lt b
          rcases allow_cases b.toNat with ⟨h, hal⟩ | ⟨h, h1, h2, h3, h4, hal⟩
          · have HS : Hid (allL (s.data.toList.take (k + 1)) = true) := Lib.hid (by rw [allL_take HG.out, HA.out, hal]; rfl)
            clear hal
            rcases h with ⟨ha, hc⟩ | ⟨ha, hc⟩ | hq | hq | hq | hq
            · skip
              go_wp2
              go_roundw
              case rel => exact ⟨k + 1, by omega, by first | rfl | trivial, HS, by go_num⟩
              case measure => simp [intOf]; omega
            · skip
              go_wp2
              go_roundw
              case rel => exact ⟨k + 1, by omega, by first | rfl | trivial, HS, by go_num⟩
              case measure => simp [intOf]; omega
            · have hq' : (b.toNat : Int) = 45 := by omega
              go_wp2
              go_roundw
              case rel => exact ⟨k + 1, by omega, by first | rfl | trivial, HS, by go_num⟩
              case measure => simp [intOf]; omega
            · have hq' : (b.toNat : Int) = 47 := by omega
              go_wp2
              go_roundw
              case rel => exact ⟨k + 1, by omega, by first | rfl | trivial, HS, by go_num⟩
              case measure => simp [intOf]; omega
            · have hq' : (b.toNat : Int) = 42 := by omega
              go_wp2
              go_roundw
              case rel => exact ⟨k + 1, by omega, by first | rfl | trivial, HS, by go_num⟩
              case measure => simp [intOf]; omega
            · have hq' : (b.toNat : Int) = 63 := by omega
              go_wp2
              go_roundw
              case rel => exact ⟨k + 1, by omega, by first | rfl | trivial, HS, by go_num⟩
              case measure => simp [intOf]; omega
          · have HS : Hid (allL s.data.toList = false) := Lib.hid (allL_stop HG.out hal)
            clear hal
            have e1 : ((b.toNat : Int) == 45) = false := ne_int h1
            have e2 : ((b.toNat : Int) == 47) = false := ne_int h2
            have e3 : ((b.toNat : Int) == 42) = false := ne_int h3
            have e4 : ((b.toNat : Int) == 63) = false := ne_int h4
            rcases h with ha | ⟨ha, hc⟩ | ha
            · have d1 : decide (97 ≤ (b.toNat : Int)) = false := decide_eq_false (by omega)
              have d2 : decide (48 ≤ (b.toNat : Int)) = false := decide_eq_false (by omega)
              go_wp2
              go_ret
              exact ⟨by rw [HR.out, HS.out]; first | done | rfl, by first | rfl | trivial⟩
            · have d1 : decide (97 ≤ (b.toNat : Int)) = false := decide_eq_false (by omega)
              have d2 : decide (48 ≤ (b.toNat : Int)) = true := decide_eq_true (by omega)
              have d3 : decide ((b.toNat : Int) ≤ 57) = false := decide_eq_false (by omega)
              go_wp2
              go_ret
              exact ⟨by rw [HR.out, HS.out]; first | done | rfl, by first | rfl | trivial⟩
            · have d1 : decide (97 ≤ (b.toNat : Int)) = true := decide_eq_true (by omega)
              have d2 : decide ((b.toNat : Int) ≤ 122) = false := decide_eq_false (by omega)
              have d3 : decide ((b.toNat : Int) ≤ 57) = false := decide_eq_false (by omega)
              have d4 : decide (48 ≤ (b.toNat : Int)) = true := decide_eq_true (by omega)
              go_wp2
              go_ret
              exact ⟨by rw [HR.out, HS.out]; first | done | rfl, by first | rfl | trivial⟩
        · have HS : Hid (allL s.data.toList = true) := Lib.hid (by have := HA.out; rwa [List.take_of_length_le (by rw [str_len]; omega)] at this)
          go_wp2
          go_ret
          exact ⟨by rw [HR.out, HS.out]; first | done | rfl, by first | rfl | trivial⟩

/-- Without the two signs. -/
def plainL (l : List UInt8) : Bool := l.all fun b => !(b == 42 || b == 63)
def plainP (l : List UInt8) : Bool := mayP l && plainL l
theorem may_ascii {l : List UInt8} (h : mayP l = true) : ∀ (j : Nat) b, l[j]? = some b → b.toNat < 128 := by
  intro j b hj
  unfold mayP at h
  rw [Bool.and_eq_true] at h
  have := List.all_eq_true.1 h.2 b (List.mem_of_getElem? hj)
  rcases allow_cases b.toNat with ⟨h, _⟩ | ⟨_, _, _, _, _, h⟩
  · omega
  · rw [h] at this; cases this
theorem may_len {l : List UInt8} (h : mayP l = true) : l.length ≤ 40 := by
  unfold mayP at h; simp at h; omega
theorem signs_ascii : ∀ (j : Nat) b, (⟨#[42, 63]⟩ : ByteArray).data.toList[j]? = some b → b.toNat < 128 := by
  intro j b h
  match j, h with
  | 0, h => cases h; decide
  | 1, h => cases h; decide
  | j + 2, h => simp at h
theorem plain_contains : ∀ l : List UInt8, plainL l = !Lib.containsAny l [42, 63]
  | [] => by decide
  | b :: l => by
    have ge := Lib.indexAny_ge [42, 63] l
    have ih := plain_contains l
    have e1 : plainL (b :: l) = (!(b == 42 || b == 63) && plainL l) := rfl
    rw [e1, ih]
    unfold Lib.containsAny
    rw [Lib.indexAny]
    have e2 : ([42, 63] : List UInt8).contains b = (b == 42 || b == 63) := by
      simp only [List.contains, List.elem]
      cases b == 42 <;> cases b == 63 <;> rfl
    rw [e2]
    by_cases h : (b == 42 || b == 63) = true
    · rw [if_pos h, h]; rfl
    · rw [if_neg h, Bool.eq_false_iff.2 h]
      by_cases h2 : (Lib.indexAny l [42, 63] == -1) = true
      · rw [if_pos h2, eq_of_beq h2]; rfl
      · rw [if_neg h2]
        have h3 : Lib.indexAny l [42, 63] ≠ -1 := fun e => h2 (by rw [e]; rfl)
        simp only [Bool.not_false, Bool.true_and]
        congr 1
        rw [decide_eq_decide]; omega

set_option maxRecDepth 100000 in
set_option maxHeartbeats 1600000 in
theorem plain_any (s : ByteArray) (w : World) (hs : s.size ≤ maxLen) :
    Calls Tryd.prog 12 #[.string s] w fun e w' => e = .returned (.bool (plainP s.data.toList)) ∧ Below w.heap.size w w' := by
  cases hm : mayP s.data.toList
  · have HR : Hid (plainP s.data.toList = false) := Lib.hid (by unfold plainP; rw [hm]; rfl)
    have HM := Lib.hid hm; clear hm
    go_enter Tryd.func12, Tryd.ntmps12
    go_wp2_with (go_at_call 8; refine (may_any s _ hs).mono ?_; rintro e w1 ⟨rfl, rfl⟩; rw [HM.out])
    go_ret
    exact ⟨by rw [HR.out]; first | done | rfl, Below.refl _ _⟩
  · have hasc := may_ascii hm
    have hsz : s.size ≤ 40 := by have := may_len hm; rwa [str_len] at this
    have HR : Hid (plainP s.data.toList = !Lib.containsAny s.data.toList [42, 63]) := Lib.hid (by
      unfold plainP; rw [hm, Bool.true_and]; exact plain_contains _)
    have HM := Lib.hid hm; clear hm
    go_enter Tryd.func12, Tryd.ntmps12
    go_wp2_with (first | (go_at_call 8; refine (may_any s _ hs).mono ?_; rintro e w1 ⟨rfl, rfl⟩; rw [HM.out]) | (go_at_call 16; refine (Tryd.strings_ContainsAny_laid s ⟨#[42, 63]⟩ _ (by omega) (by decide) hasc signs_ascii).mono ?_; rintro e w1 ⟨rfl, hb⟩))
    go_ret
    exact ⟨by rw [HR.out]; first | done | rfl, by assumption⟩
end Go.Proofs.YtohggmbnehgdiaaDoor
