/- glob.Match, walked. -/
import Derived.Test.YtohggmbnehgdiaaDoorGlobRun
import Derived.Test.YtohggmbnehgdiaaDoorGlob2
import Derived.WalkKit
import Derived.ProofKit
import Derived.Handy
import Derived.Below
import Derived.BigQuiet
import Derived.Lib.Hide
import Derived.IntWalk
import Derived.Outline
import Derived.WalkLawsBesides
import Derived.WalkSpells
namespace Go.Proofs.YtohggmbnehgdiaaDoor
open Go.RowKit
attribute [local go_sem] strV

def matchP (p s : List UInt8) : Bool := mayP p && gm p s
theorem ginv_le {p s : List UInt8} {i k t : Nat} {st : Int} (h : GInv p s i k st t) : t ≤ k ∧ -1 ≤ st ∧ st < i := by
  rcases h with ⟨h1, h2, _⟩ | ⟨j, q, v, h5, h6, h7, _⟩ <;> omega
theorem ex_size (p : ByteArray) (a : Nat) : (p.extract a p.size).size ≤ p.size := by simp
theorem trim_all (l : List UInt8) : (Lib.trimB l 42).isEmpty = l.all (· == 42) := by
  have h1 : ∀ m : List UInt8, (m.dropWhile (· == 42)).isEmpty = m.all (· == 42) := by
    intro m
    induction m with
    | nil => rfl
    | cons x m ih =>
      rw [List.dropWhile_cons, List.all_cons]
      cases h : (x == 42)
      · rfl
      · simpa using ih
  have h2 : ∀ m : List UInt8, (m.dropWhile (· == 42)).all (· == 42) = m.all (· == 42) := by
    intro m
    induction m with
    | nil => rfl
    | cons x m ih =>
      rw [List.dropWhile_cons, List.all_cons]
      cases h : (x == 42)
      · simp [h]
      · simpa using ih
  unfold Lib.trimB Lib.trimLeftB Lib.trimRightB
  rw [h1, List.all_reverse, h2, List.all_reverse]

set_option maxRecDepth 100000 in
set_option maxHeartbeats 6400000 in
theorem match_any (p s : ByteArray) (w : World) (hp : p.size ≤ maxLen) (hs : s.size ≤ maxLen) :
    Calls Tryd.prog 10 #[.string p, .string s] w fun e w' => e = .returned (.bool (matchP p.data.toList s.data.toList)) ∧ Below w.heap.size w w' := by
  have hs' := hs; unfold maxLen at hs'
  cases hm : mayP p.data.toList
  · have HR : Hid (matchP p.data.toList s.data.toList = false) := Lib.hid (by unfold matchP; rw [hm]; rfl)
    have HM := Lib.hid hm; clear hm
    go_enter Tryd.func10, Tryd.ntmps10
    go_wp2_with (go_at_call 8; refine (may_any p _ hp).mono ?_; rintro e w1 ⟨rfl, hw1⟩; obtain rfl : w = w1 := hw1.symm; rw [HM.out])
    go_ret
    exact ⟨by rw [HR.out]; first | done | rfl, Below.refl _ _⟩
  · have hsz : p.size ≤ 40 := by have := may_len hm; rwa [str_len] at this
    have HR : Hid (matchP p.data.toList s.data.toList = gm p.data.toList s.data.toList) := Lib.hid (by unfold matchP; rw [hm]; rfl)
    have HM := Lib.hid hm; clear hm
    go_enter Tryd.func10, Tryd.ntmps10
    go_wp2_with (go_at_call 8; refine (may_any p _ hp).mono ?_; rintro e w1 ⟨rfl, hw1⟩; obtain rfl : w = w1 := hw1.symm; rw [HM.out])
    go_loopw [5, 6, 7, 8] (fun i k st tr wr => ∃ (a b t : Nat) (z : Int), a ≤ p.size ∧ b ≤ s.size ∧ Below w.heap.size w wr ∧ Hid (GInv p.data.toList s.data.toList a b z t) ∧ i = .int .i64 a ∧ k = .int .i64 b ∧ st = .int .i64 z ∧ tr = .int .i64 t)
      (fun _ k st tr _ => ((s.size - (intOf tr).toNat) * (p.size + 1) + (p.size - (intOf st + 1).toNat)) * (s.size + 1) + (s.size - (intOf k).toNat))
    case atStart => exact ⟨0, 0, 0, -1, by omega, by omega, Below.refl _ _, Lib.hid (ginv_start _ _), rfl, rfl, rfl, rfl⟩
    case round =>
      obtain ⟨a, b, t, z, ha, hb, hbel, HI, rfl, rfl, rfl, rfl⟩ := hrel
      obtain ⟨htk, hz1, hz2⟩ := ginv_le HI.out
      have hzR := hbel.size
      by_cases hlt : b < s.size
      · obtain ⟨x, hx⟩ : ∃ x, s[b] = x := ⟨_, rfl⟩
        have hgx := str_get hlt
        rw [hx] at hgx
        have HX := Lib.hid hgx; clear hgx
        by_cases hap : a < p.size
        · obtain ⟨c, hc⟩ : ∃ c, p[a] = c := ⟨_, rfl⟩
          have hgc := str_get hap
          rw [hc] at hgc
          have HC := Lib.hid hgc; clear hgc
          by_cases h42 : c = 42
          · have HN : Hid (GInv p.data.toList s.data.toList (a + 1) b a b) := Lib.hid (ginv_star HI.out (by rw [HC.out, h42]))
            subst h42
            go_wp2
            go_roundw
            case rel => exact ⟨a + 1, b, b, a, by omega, by omega, hbel, HN, by go_num, rfl, rfl, rfl⟩
            case measure => refine lex3 (.inr (.inl ⟨?_, ?_, ?_⟩)) <;> ((simp [intOf]) <;> omega)
          · have e42 : ((c.toNat : Int) == 42) = false := byte_ne (n := 42) (by decide) h42
            by_cases h63 : c = 63
            · have HN : Hid (GInv p.data.toList s.data.toList (a + 1) (b + 1) z t) := Lib.hid (ginv_one HI.out HC.out HX.out h42 (by rw [h63]; rfl))
              subst h63
              go_wp2
              go_quiet (fail)
              go_wp2
              go_roundw
              case rel => exact ⟨a + 1, b + 1, t, z, by omega, by omega, hbel.trans ((drewN_below _ _).mono hzR), HN, by go_num, by go_num, rfl, rfl⟩
              case measure => refine lex3 (.inr (.inr ⟨rfl, rfl, ?_⟩)); (simp [intOf]) <;> omega
            · have e63 : ((c.toNat : Int) == 63) = false := byte_ne (n := 63) (by decide) h63
              by_cases hcx : c = x
              · have HN : Hid (GInv p.data.toList s.data.toList (a + 1) (b + 1) z t) := Lib.hid (ginv_one HI.out HC.out HX.out h42 (by rw [hcx]; simp))
                subst hcx
                go_wp2
                go_quiet (fail)
                go_wp2
                go_roundw
                case rel => exact ⟨a + 1, b + 1, t, z, by omega, by omega, hbel.trans ((drewN_below _ _).mono hzR), HN, by go_num, by go_num, rfl, rfl⟩
                case measure => refine lex3 (.inr (.inr ⟨rfl, rfl, ?_⟩)); (simp [intOf]) <;> omega
              · have ecx : ((c.toNat : Int) == (x.toNat : Int)) = false := by
                  rw [beq_eq_false_iff_ne]; intro e; exact hcx (UInt8.toNat_inj.1 (by omega))
                have HMI : Hid (gm (p.data.toList.drop a) (s.data.toList.drop b) = false) := Lib.hid (miss_one HC.out HX.out h42 (by simp [h63, hcx]))
                by_cases hst : z = -1
                · subst hst
                  have HS : Hid (gm p.data.toList s.data.toList = false) := Lib.hid (ginv_fail HI.out HMI.out)
                  go_wp2
                  go_quiet (fail)
                  go_wp2
                  go_ret
                  exact ⟨by rw [HR.out, HS.out]; first | done | rfl, hbel.trans ((drewN_below _ _).mono hzR)⟩
                · obtain ⟨j, rfl, hj1, hj2, hN⟩ := ginv_back HI.out (by rw [str_len]; exact hlt) (by omega) HMI.out
                  have HN := Lib.hid hN; clear hN
                  go_wp2
                  go_quiet (fail)
                  go_wp2
                  go_roundw
                  case rel => exact ⟨j + 1, t + 1, t + 1, j, by omega, by omega, hbel.trans ((drewN_below _ _).mono hzR), HN, by go_num, by go_num, rfl, by go_num⟩
                  case measure => refine lex3 (.inl ⟨?_, ?_, ?_⟩) <;> ((simp [intOf]) <;> omega)
        · have HMI : Hid (gm (p.data.toList.drop a) (s.data.toList.drop b) = false) := Lib.hid (miss_past (by rw [str_len]; omega) (by rw [str_len]; exact hlt))
          by_cases hst : z = -1
          · subst hst
            have HS : Hid (gm p.data.toList s.data.toList = false) := Lib.hid (ginv_fail HI.out HMI.out)
            go_wp2
            go_quiet (fail)
            go_wp2
            go_ret
            exact ⟨by rw [HR.out, HS.out]; first | done | rfl, hbel.trans ((drewN_below _ _).mono hzR)⟩
          · obtain ⟨j, rfl, hj1, hj2, hN⟩ := ginv_back HI.out (by rw [str_len]; exact hlt) (by omega) HMI.out
            have HN := Lib.hid hN; clear hN
            go_wp2
            go_quiet (fail)
            go_wp2
            go_roundw
            case rel => exact ⟨j + 1, t + 1, t + 1, j, by omega, by omega, hbel.trans ((drewN_below _ _).mono hzR), HN, by go_num, by go_num, rfl, by go_num⟩
            case measure => refine lex3 (.inl ⟨?_, ?_, ?_⟩) <;> ((simp [intOf]) <;> omega)
      · have HS : Hid (gm p.data.toList s.data.toList = (Lib.trimB (List.take (p.size - a) (List.drop a p.data.toList)) 42).isEmpty) := Lib.hid (by
          rw [trim_all, List.take_of_length_le (by rw [List.length_drop, str_len]; omega)]; exact ginv_end HI.out (by rw [str_len]; omega))
        go_wp2_with (go_at_call 15; refine (Tryd.strings_Trim_one (p.extract a p.size) 42 (by decide) _ (by have := ex_size p a; omega)).mono ?_; rintro e w1 ⟨rfl, hw⟩)
        go_ret
        exact ⟨by rw [HR.out, HS.out]; first | done | rfl, by rcases hw with h | h <;> rw [h] <;> first | exact hbel | exact hbel.drew⟩
end Go.Proofs.YtohggmbnehgdiaaDoor
