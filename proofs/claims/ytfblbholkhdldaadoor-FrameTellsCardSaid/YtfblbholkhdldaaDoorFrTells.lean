/- FrameTells, walked. -/
import Derived.Test.YtfblbholkhdldaaDoorFrRA
import Derived.WalkKit
import Derived.ProofKit
import Derived.Handy
import Derived.Below
import Derived.Lib.Hide
import Derived.IntWalk
import Derived.Outline
import Derived.WalkLawsBesides
import Derived.WalkSpells
namespace Go.Proofs.YtfblbholkhdldaaDoor
open Go.RowKit
attribute [local go_sem] strV
set_option linter.unusedVariables false
theorem allFr_len (S : ByteArray) : ∀ f p, p ≤ S.size → (allFr S f p).1.length ≤ S.size - p
  | 0, p, _ => Nat.zero_le _
  | f + 1, p, hp => by
    unfold allFr
    split
    · rename_i hlt
      obtain ⟨⟨b, n, e⟩, hx⟩ : ∃ t, nextFr S (p : Nat) = t := ⟨_, rfl⟩
      rw [hx]
      simp only
      split
      · rename_i he
        subst he
        obtain ⟨m, rfl, h1, h2⟩ := nextFr_ok hx
        have := allFr_len S f m h2
        simp only [Int.toNat_natCast, List.length_cons]
        omega
      · simp
    · simp
set_option maxRecDepth 100000 in
set_option maxHeartbeats 12800000 in
theorem walkFrameTells (body s : ByteArray) (at_ : Int) (w : World) (hW : SW w) (hbo : body.size ≤ maxLen) (hs : s.size ≤ maxLen) :
    Calls Tryd.prog 12 #[.string body, .string s, .int .i64 at_] w fun e w' => e = .returned (.bool true) ∧ Below w.heap.size w w' := by
  have hbel : Below w.heap.size w w := Below.refl _ _
  by_cases c1 : 2000 < body.size
  · have d1 : decide (2000 < (body.size : Int)) = true := decide_eq_true (by omega)
    go_enter Tryd.func12, Tryd.ntmps12
    go_wp2_with (go_at_call 46; refine (first11_any _ hW).mono ?_; rintro e w0 ⟨rfl, hb⟩; have hW := hW.below hb; have hbel := hbel.trans (hb.mono hbel.size))
    go_ret
    exact ⟨rfl, hbel⟩
  have d1 : decide (2000 < (body.size : Int)) = false := decide_eq_false (by omega)
  by_cases c2 : 2000 < s.size
  · have d2 : decide (2000 < (s.size : Int)) = true := decide_eq_true (by omega)
    go_enter Tryd.func12, Tryd.ntmps12
    go_wp2_with (go_at_call 46; refine (first11_any _ hW).mono ?_; rintro e w0 ⟨rfl, hb⟩; have hW := hW.below hb; have hbel := hbel.trans (hb.mono hbel.size))
    go_ret
    exact ⟨rfl, hbel⟩
  have d2 : decide (2000 < (s.size : Int)) = false := decide_eq_false (by omega)
  have CP := fun W h => fput_any body W h (by omega)
  have CF := fun W => refFrame_any body W (by omega)
  have CN := fun W h => fnext_any s at_ W h (by omega)
  have CM := fun W => refNext_any s at_ W (by omega)
  have CO := fun W h => fopen_any s W h (by omega)
  have CQ := fun W => refOpen_any s W (by omega)
  have CA := fun W h => fall_any s W h (by omega)
  have CB := fun W => refAll_any s W (by omega)
  have hlen := allFr_len s (s.size + 1) 0 (Nat.zero_le _)
  obtain ⟨P, hP⟩ : ∃ P, putB body = P := ⟨_, rfl⟩
  obtain ⟨⟨nb, nn, ne⟩, hN⟩ : ∃ t, nextFr s at_ = t := ⟨_, rfl⟩
  obtain ⟨⟨ob, oe⟩, hO⟩ : ∃ t, openFr s = t := ⟨_, rfl⟩
  obtain ⟨⟨ZL, ZP, ZE⟩, hZ⟩ : ∃ t, allFr s (s.size + 1) 0 = t := ⟨_, rfl⟩
  simp only [hP] at CP CF
  simp only [hN] at CN CM
  simp only [hO] at CO CQ
  simp only [hZ] at CA CB hlen
  obtain ⟨k, hk⟩ : ∃ k, ZL.length = k := ⟨_, rfl⟩
  simp only [hk] at CA CB hlen
  have HK := Lib.hid hk
  clear hP hN hO hZ hk
  go_enter Tryd.func12, Tryd.ntmps12
  go_wp2_with (first | (go_at_call 46; refine (first11_any _ hW).mono ?_; rintro e w0 ⟨rfl, hb⟩; have hW := hW.below hb; have hbel := hbel.trans (hb.mono hbel.size)) | (go_at_call 47; refine (CP _ hW).mono ?_; rintro e w1 ⟨rfl, hb⟩; have hW := hW.below hb; have hbel := hbel.trans (hb.mono hbel.size); clear hb) | (go_at_call 48; refine (CF _).mono ?_; rintro e w1 ⟨rfl, hb⟩; have hW := hW.below hb; have hbel := hbel.trans (hb.mono hbel.size); clear hb) | (go_at_call 49; refine (CN _ hW).mono ?_; rintro e w1 ⟨rfl, hb⟩; have hW := hW.below hb; have hbel := hbel.trans (hb.mono hbel.size); clear hb) | (go_at_call 50; refine (CM _).mono ?_; rintro e w1 ⟨rfl, hb⟩; have hW := hW.below hb; have hbel := hbel.trans (hb.mono hbel.size); clear hb) | (go_at_call 51; refine (CO _ hW).mono ?_; rintro e w1 ⟨rfl, hb⟩; have hW := hW.below hb; have hbel := hbel.trans (hb.mono hbel.size); clear hb) | (go_at_call 52; refine (CQ _).mono ?_; rintro e w1 ⟨rfl, hb⟩; have hW := hW.below hb; have hbel := hbel.trans (hb.mono hbel.size); clear hb) | (go_at_call 53; refine (CA _ hW).mono ?_; rintro e w6 ⟨a1, cap1, rfl, r1, hb⟩; have hW := hW.below hb; have hbel := hbel.trans (hb.mono hbel.size); clear hb) | (go_at_call 54; refine (CB _).mono ?_; rintro e w7 ⟨a2, cap2, rfl, r2, hb⟩; have r1 := r1.below hb; have hbel := hbel.trans (hb.mono hbel.size); clear hb) | (go_at_call 55; refine (texts_same a1 a2 k cap1 cap2 ZL _ r1 r2 HK.out (by unfold maxLen; omega)).mono ?_; rintro e w8 ⟨rfl, hb⟩; have hbel := hbel.trans (hb.mono hbel.size); clear hb))
  go_ret
  exact ⟨rfl, hbel⟩
end Go.Proofs.YtfblbholkhdldaaDoor
