/- The document's own Plain, walked. -/
import Derived.Test.YtohggmbnehgdiaaDoorGlob2
import Derived.WalkKit
import Derived.ProofKit
import Derived.Handy
import Derived.Below
import Derived.BigQuiet
import Derived.Lib.Hide
import Derived.IntWalk
import Derived.Outline
import Derived.WalkLawsBesides
import Derived.WalkSpells
namespace Go.Proofs.YtohggmbnehgdiaaDoor
open Go.RowKit
attribute [local go_sem] strV
theorem plainL_stop {l : List UInt8} {k : Nat} {b : UInt8} (h : l[k]? = some b) (hb : (b == 42 || b == 63) = true) : plainL l = false := by
  unfold plainL
  rw [List.all_eq_false]
  exact ⟨b, List.mem_of_getElem? h, by rw [hb]; decide⟩
theorem plainL_take {l : List UInt8} {k : Nat} {b : UInt8} (h : l[k]? = some b) : plainL (l.take (k + 1)) = (plainL (l.take k) && !(b == 42 || b == 63)) := by
  unfold plainL
  rw [List.take_add_one, h, List.all_append]; simp

set_option maxRecDepth 100000 in
set_option maxHeartbeats 3200000 in
theorem refPlain_any (s : ByteArray) (w : World) (hs : s.size ≤ maxLen) :
    Calls Tryd.prog 13 #[.string s] w fun e w' => e = .returned (.bool (plainP s.data.toList)) ∧ w' = w := by
  have hs2 := hs
  unfold maxLen at hs2
  have hb0 : Hid (∀ b, mayP s.data.toList = b → plainL s.data.toList = true → plainP s.data.toList = b) := Lib.hid (by intro b h1 h2; unfold plainP; rw [h1, h2]; cases b <;> rfl)
  go_enter Tryd.func13, Tryd.ntmps13
  go_wp2
  go_loopw [2, 3] (fun r i wr => ∃ k : Nat, k ≤ s.size ∧ wr = w ∧ Hid (plainL (s.data.toList.take k) = true) ∧ r = .bool false ∧ i = .int .i64 k) (fun _ i _ => s.size - (intOf i).toNat)
  case atStart => exact ⟨0, by omega, rfl, Lib.hid rfl, rfl, rfl⟩
  case round =>
    obtain ⟨k, hk, rfl, HA, rfl, rfl⟩ := hrel
    by_cases hlt : k < s.size
    · obtain ⟨b, hb⟩ : ∃ b, s[k] = b := ⟨_, rfl⟩
      have hg := str_get hlt
      rw [hb] at hg
      have HG := Lib.hid hg; clear hg
      by_cases h42 : b = 42
      · have HS : Hid (plainP s.data.toList = false) := Lib.hid (by unfold plainP; rw [plainL_stop HG.out (by rw [h42]; rfl), Bool.and_false])
        subst h42
        go_wp2
        go_ret
        exact ⟨by rw [HS.out]; first | done | rfl, by first | rfl | trivial⟩
      · have e42 : ((b.toNat : Int) == 42) = false := byte_ne (n := 42) (by decide) h42
        by_cases h63 : b = 63
        · have HS : Hid (plainP s.data.toList = false) := Lib.hid (by unfold plainP; rw [plainL_stop HG.out (by rw [h63]; rfl), Bool.and_false])
          subst h63
          go_wp2
          go_ret
          exact ⟨by rw [HS.out]; first | done | rfl, by first | rfl | trivial⟩
        · have e63 : ((b.toNat : Int) == 63) = false := byte_ne (n := 63) (by decide) h63
          have HS : Hid (plainL (s.data.toList.take (k + 1)) = true) := Lib.hid (by
            rw [plainL_take HG.out, HA.out]
            simp [h42, h63])
          go_wp2
          go_roundw
          case rel => exact ⟨k + 1, by omega, by first | rfl | trivial, HS, rfl, by go_num⟩
          case measure => simp [intOf]; omega
    · have HS : Hid (plainL s.data.toList = true) := Lib.hid (by have := HA.out; rwa [List.take_of_length_le (by rw [str_len]; omega)] at this)
      obtain ⟨b, hb⟩ : ∃ b, mayP s.data.toList = b := ⟨_, rfl⟩
      have HF : Hid (plainP s.data.toList = b) := Lib.hid (hb0.out b hb HS.out)
      have HB := Lib.hid hb; clear hb
      go_wp2_with (go_at_call 9; refine (refMay_any s _ hs).mono ?_; rintro e w1 ⟨rfl, hw1⟩; obtain rfl : _ = w1 := hw1.symm; rw [HB.out])
      go_ret
      exact ⟨by rw [HF.out]; first | done | rfl, by first | rfl | trivial⟩
end Go.Proofs.YtohggmbnehgdiaaDoor
