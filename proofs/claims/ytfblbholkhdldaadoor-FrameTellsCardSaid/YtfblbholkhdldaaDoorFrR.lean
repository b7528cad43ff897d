/- The document's own records. -/
import Derived.Test.YtfblbholkhdldaaDoorFrA
import Derived.Test.YtfblbholkhdldaaDoorRefSum
import Derived.Test.YtfblbholkhdldaaDoorLebEight2
import Derived.Test.YtfblbholkhdldaaDoorRefTextS
import Derived.WalkKit
import Derived.ProofKit
import Derived.Handy
import Derived.Below
import Derived.Lib.Hide
import Derived.IntWalk
import Derived.Outline
import Derived.WalkLawsBesides
import Derived.WalkSpells
namespace Go.Proofs.YtfblbholkhdldaaDoor
open Go.RowKit
attribute [local go_sem] strV
set_option linter.unusedVariables false
set_option maxRecDepth 100000 in
set_option maxHeartbeats 6400000 in
theorem four_any (b : ByteArray) (w : World) (hb : b.size ≤ 1000000) :
    Calls Tryd.prog 82 #[.string b] w fun e w' => e = .returned (.string ⟨(chk b.data.toList).toArray⟩) ∧ Below w.heap.size w w' := by
  obtain ⟨Q, hQ⟩ : ∃ Q, shaF b.data.toList = Q := ⟨_, rfl⟩
  have hQl : Q.length = 32 := by rw [← hQ]; exact shaF_len _
  have CS := refSum_any b w hb
  have CT := fun W : World => refText_any W Q hQl
  obtain ⟨T, hT⟩ : ∃ T, (⟨Q.toArray⟩ : ByteArray) = T := ⟨_, rfl⟩
  obtain ⟨C, hC⟩ : ∃ T, (⟨(chk b.data.toList).toArray⟩ : ByteArray) = T := ⟨_, rfl⟩
  have hTs : T.size = 32 := by rw [← hT]; exact hQl
  have hX : T.extract 0 4 = C := by
    apply ba_eq
    rw [ext_list, ← hT, ← hC]
    show List.take 4 (List.drop 0 Q) = chk b.data.toList
    unfold chk; rw [hQ]; rfl
  rw [hQ] at CS
  rw [hC]
  simp only [hT] at CT
  have n4 : (4 : Int) ≤ (T.size : Int) := by omega
  clear hT hC hQ
  go_enter Tryd.func82, Tryd.ntmps82
  go_wp2_with (first | (go_at_call 18; refine CS.mono ?_; rintro e w1 ⟨rfl, hb1⟩) | (go_at_call 21; refine (CT _).mono ?_; rintro e w2 ⟨rfl, hb2⟩))
  go_ret
  exact ⟨rfl, bch hb1 hb2⟩
theorem b4_eight (n : Nat) (hn : n ≤ 1000000) : (eightL (n : Int)).drop 4 = b4 n := by
  have he : encB (n : Int) = true := by unfold encB; simp; omega
  unfold eightL
  rw [if_pos he, Int.toNat_natCast]
  unfold b4
  simp only [be, List.nil_append, List.cons_append, List.drop_succ_cons, List.drop_zero]
  have k0 := u8_val ((n : Int) / 16777216)
  have k1 := u8_val ((n : Int) / 65536)
  have k2 := u8_val ((n : Int) / 256)
  have k3 := u8_val (n : Int)
  have e : ∀ (a : Nat) (c : UInt8), (c.toNat : Int) = (a : Int) % 256 → UInt8.ofNat (a % 256) = c := fun a c h => by
    apply UInt8.toNat_inj.1
    rw [UInt8.toNat_ofNat']
    omega
  exact List.cons_eq_cons.2 ⟨e _ _ (by rw [k0]; omega), List.cons_eq_cons.2 ⟨e _ _ (by rw [k1]; omega), List.cons_eq_cons.2 ⟨e _ _ (by rw [k2]; omega), List.cons_eq_cons.2 ⟨e _ _ (by rw [k3]), rfl⟩⟩⟩⟩
set_option maxRecDepth 100000 in
set_option maxHeartbeats 6400000 in
theorem refFrame_any (b : ByteArray) (w : World) (hb : b.size ≤ 1000000) :
    Calls Tryd.prog 48 #[.string b] w fun e w' => e = .returned (.tuple #[.string (putB b), .int .i64 0]) ∧ Below w.heap.size w w' := by
  obtain ⟨n, hn⟩ : ∃ n, b.size = n := ⟨_, rfl⟩
  have d1 : decide (2147483647 < (n : Int)) = false := decide_eq_false (by omega)
  have hcl := chk_len b.data.toList
  have HP : Hid (putB b = (⟨(b4 n).toArray⟩ ++ ⟨(chk b.data.toList).toArray⟩) ++ b) := Lib.hid (by unfold putB; rw [hn])
  have CE := fun m : Beyond w => refEight_any (n : Int) m.x
  have CF := fun m : Beyond w => four_any b m.x hb
  obtain ⟨B4, hB4⟩ : ∃ B : ByteArray, (⟨(b4 n).toArray⟩ : ByteArray) = B := ⟨_, rfl⟩
  obtain ⟨C4, hC4⟩ : ∃ B : ByteArray, (⟨(chk b.data.toList).toArray⟩ : ByteArray) = B := ⟨_, rfl⟩
  obtain ⟨E, hE⟩ : ∃ B : ByteArray, (⟨(eightL (n : Int)).toArray⟩ : ByteArray) = B := ⟨_, rfl⟩
  have hEl : (eightL (n : Int)).length = 8 := by
    unfold eightL
    rw [if_pos (by unfold encB; simp; omega), be_length]
  have hEs : E.size = 8 := by rw [← hE]; exact hEl
  have hEx : E.extract 4 E.size = B4 := by
    apply ba_eq
    rw [ext_list, ← hE, ← hB4]
    show List.take _ (List.drop 4 (eightL (n : Int))) = b4 n
    rw [b4_eight n (by omega)]
    exact List.take_of_length_le (by rw [b4_len]; show 4 ≤ (eightL (n : Int)).toArray.size - 4; simp [hEl])
  have hBs : B4.size = 4 := by rw [← hB4]; rfl
  have hCs : C4.size = 4 := by rw [← hC4]; exact hcl
  have hcat1 : ¬ 9223372036854775807 < B4.size + C4.size := by omega
  have hcat2 : ¬ 9223372036854775807 < (B4 ++ C4).size + b.size := by rw [ByteArray.size_append]; omega
  have hcat3 : ¬ 9223372036854775807 < B4.size + C4.size + b.size := by omega
  have n4 : (4 : Int) ≤ (E.size : Int) := by omega
  unfold strV at CE
  simp only [hE] at CE
  simp only [hC4] at CF
  rw [hB4, hC4] at HP
  clear hBs hCs hcl hB4 hC4 hE hEl hEs
  go_enter Tryd.func48, Tryd.ntmps48
  go_upto_region 3 with fail
  refine wp_region_below (by kernel_rfl) (by kernel_rfl) ?_
  repeat (go_big_quiet_step (first | (go_at_call 32; exact quiet_below (CE _)) | (go_at_call 82; exact quiet_below (CF _))))
  intro w9 hw9
  have hb9 := beyond_below hw9
  go_wp2
  go_returns
  exact ⟨by rw [HP.out]; first | rfl | simp, hb9⟩
/-- The number that k bytes from A on tell. -/
def vN (S : ByteArray) (A : Nat) : Nat → Nat
  | 0 => 0
  | k + 1 => vN S A k * 256 + byb S (A + k)
theorem vN_lt (S : ByteArray) (A k : Nat) : vN S A k < 256 ^ k := by
  induction k with
  | zero => exact Nat.one_pos
  | succ k ih => unfold vN; have := byb_lt S (A + k); rw [Nat.pow_succ]; omega
theorem byb_ext (S : ByteArray) (A i : Nat) : byb (S.extract A S.size) i = byb S (A + i) := by
  unfold byb
  rw [ext_list, List.take_of_length_le (by rw [List.length_drop, str_len]; exact Nat.le_refl _), List.getD_eq_getElem?_getD, List.getD_eq_getElem?_getD, List.getElem?_drop]
theorem vN4 (S : ByteArray) (A : Nat) : vN S A 4 = val4 (S.extract A S.size) := by
  unfold val4
  rw [byb_ext, byb_ext, byb_ext, byb_ext]
  simp only [vN]
  omega
theorem ext_ext (S : ByteArray) (A i j : Nat) (h : A + j ≤ S.size) : (S.extract A S.size).extract i j = S.extract (A + i) (A + j) := by
  apply ba_eq
  rw [ext_list, ext_list, ext_list, List.take_of_length_le (l := S.data.toList.drop A) (by rw [List.length_drop, str_len]; exact Nat.le_refl _), List.drop_drop]
  congr 1
  omega
set_option maxRecDepth 100000 in
set_option maxHeartbeats 6400000 in
theorem refNext_any (s : ByteArray) (a : Int) (w : World) (hs : s.size ≤ 1000000) :
    Calls Tryd.prog 50 #[.string s, .int .i64 a] w fun e w' => e = .returned (.tuple #[.string (nextFr s a).1, .int .i64 (nextFr s a).2.1, .int .i64 (nextFr s a).2.2]) ∧ Below w.heap.size w w' := by
  by_cases c1 : a < 0
  · have d1 : decide (a < 0) = true := decide_eq_true c1
    have HR : Hid (nextFr s a = (⟨#[]⟩, 0, 1)) := Lib.hid (by unfold nextFr; rw [if_pos (.inl c1)])
    go_enter Tryd.func50, Tryd.ntmps50
    go_wp2
    go_returns
    exact ⟨by rw [HR.out]; first | rfl | simp, Below.refl _ _⟩
  have d1 : decide (a < 0) = false := decide_eq_false c1
  by_cases c2 : (s.size : Int) < a
  · have d2 : decide ((s.size : Int) < a) = true := decide_eq_true c2
    have HR : Hid (nextFr s a = (⟨#[]⟩, 0, 1)) := Lib.hid (by unfold nextFr; rw [if_pos (.inr c2)])
    go_enter Tryd.func50, Tryd.ntmps50
    go_wp2
    go_returns
    exact ⟨by rw [HR.out]; first | rfl | simp, Below.refl _ _⟩
  have d2 : decide ((s.size : Int) < a) = false := decide_eq_false c2
  obtain ⟨A, rfl⟩ : ∃ A : Nat, a = A := ⟨a.toNat, by omega⟩
  have hext := ext_ext s A
  have hv4 := vN4 s A
  obtain ⟨L, hL⟩ : ∃ L, s.extract A s.size = L := ⟨_, rfl⟩
  have hLs : L.size = s.size - A := by rw [← hL]; simp
  rw [hL] at hv4
  simp only [hL] at hext
  have HN : Hid (nextFr s (A : Int) = (if L.size < 8 then (⟨#[]⟩, 0, 2) else if 2147483647 < val4 L then (⟨#[]⟩, 0, 4) else if L.size < 8 + val4 L then (⟨#[]⟩, 0, 2) else if L.extract 4 8 = ⟨(chk (L.extract 8 (8 + val4 L)).data.toList).toArray⟩ then (L.extract 8 (8 + val4 L), (A : Int) + 8 + val4 L, 0) else (⟨#[]⟩, 0, 5))) := Lib.hid (by
    unfold nextFr
    rw [if_neg (by omega), Int.toNat_natCast, hL])
  rw [hLs] at HN
  clear hL hLs
  have o1 : IntKind.i64.wrap ((s.size : Int) - (A : Int)) = (s.size : Int) - (A : Int) := IntWalk.i64_in _ (by omega)
  by_cases c3 : s.size - A < 8
  · have d3 : decide ((s.size : Int) - (A : Int) < 8) = true := decide_eq_true (by omega)
    go_enter Tryd.func50, Tryd.ntmps50
    go_wp2
    go_returns
    exact ⟨by rw [HN.out, if_pos c3]; first | rfl | simp, Below.refl _ _⟩
  have d3 : decide ((s.size : Int) - (A : Int) < 8) = false := decide_eq_false (by omega)
  go_enter Tryd.func50, Tryd.ntmps50
  go_upto_region 7 with fail
  go_loopw [7, 8] (fun v i wr => ∃ k : Nat, k ≤ 4 ∧ Below w.heap.size w wr ∧ v = .int .i64 (vN s A k : Nat) ∧ i = .int .i64 k) (fun _ i _ => 4 - (intOf i).toNat)
  case atStart => exact ⟨0, Nat.zero_le _, Below.refl _ _, rfl, rfl⟩
  case round =>
    obtain ⟨k, hk, hbel, rfl, rfl⟩ := hrel
    by_cases hlt : k < 4
    · have e1 : decide ((k : Int) < 4) = true := decide_eq_true (by omega)
      have hvk := vN_lt s A k
      have hpk : 256 ^ k ≤ 256 ^ 3 := Nat.pow_le_pow_right (by decide) (by omega)
      have hAk : A + k < s.size := by omega
      obtain ⟨c, h0, hx0, g0⟩ := byb_get (L := s) (i := A + k) hAk
      have hby : s[A + k].toNat = byb s (A + k) := by rw [g0]; exact hx0
      have hbl := byb_lt s (A + k)
      obtain ⟨V, hV⟩ : ∃ V, vN s A k = V := ⟨_, rfl⟩
      obtain ⟨y, hy⟩ : ∃ y, byb s (A + k) = y := ⟨_, rfl⟩
      have hstep : vN s A (k + 1) = V * 256 + y := by show vN s A k * 256 + byb s (A + k) = _; rw [hV, hy]
      rw [hy] at hby hbl
      rw [hV] at hvk ⊢
      have HS := Lib.hid hstep
      clear hV hy h0 hx0 g0 hstep
      have n1 : (0 : Int) ≤ (A : Int) + (k : Int) := by omega
      have n2 : (A : Int) + (k : Int) < (s.size : Int) := by omega
      have n3 : ((A : Int) + (k : Int)).toNat = A + k := by omega
      have n4 : IntKind.i64.wrap ((A : Int) + (k : Int)) = (A : Int) + (k : Int) := IntWalk.i64_in _ (by omega)
      have n5 : IntKind.i64.wrap ((V : Int) * 256) = (V : Int) * 256 := IntWalk.i64_in _ (by omega)
      have n6 : IntKind.i64.wrap ((V : Int) * 256 + (y : Int)) = (V : Int) * 256 + (y : Int) := IntWalk.i64_in _ (by omega)
      go_wp2
      go_roundw
      case rel => exact ⟨k + 1, by omega, hbel, by rw [HS.out]; go_num, by go_num⟩
      case measure => (simp [intOf]) <;> omega
    · obtain rfl : k = 4 := by omega
      rw [hv4]
      obtain ⟨v, hv⟩ : ∃ v, val4 L = v := ⟨_, rfl⟩
      have hvb : v < 256 ^ 4 := by rw [← hv, ← hv4]; exact vN_lt s A 4
      rw [hv] at HN ⊢
      clear hv hv4
      have e2 : IntKind.i64.wrap ((s.size : Int) - (A : Int) - 8) = (s.size : Int) - (A : Int) - 8 := IntWalk.i64_in _ (by omega)
      have e3 : IntKind.i64.wrap ((A : Int) + 8) = (A : Int) + 8 := IntWalk.i64_in _ (by omega)
      have e4 : IntKind.i64.wrap ((A : Int) + 8 + (v : Int)) = (A : Int) + 8 + (v : Int) := IntWalk.i64_in _ (by omega)
      have e5 : IntKind.i64.wrap ((A : Int) + 4) = (A : Int) + 4 := IntWalk.i64_in _ (by omega)
      by_cases c4 : 2147483647 < v
      · have d4 : decide (2147483647 < (v : Int)) = true := decide_eq_true (by omega)
        go_wp2
        go_returns
        exact ⟨by rw [HN.out, if_neg c3, if_pos c4]; first | rfl | simp, hbel⟩
      have d4 : decide (2147483647 < (v : Int)) = false := decide_eq_false (by omega)
      by_cases c5 : s.size - A < 8 + v
      · have d5 : decide ((s.size : Int) - (A : Int) - 8 < (v : Int)) = true := decide_eq_true (by omega)
        go_wp2
        go_returns
        exact ⟨by rw [HN.out, if_neg c3, if_neg c4, if_pos c5]; first | rfl | simp, hbel⟩
      have d5 : decide ((s.size : Int) - (A : Int) - 8 < (v : Int)) = false := decide_eq_false (by omega)
      rw [hext 8 (8 + v) (by omega), hext 4 8 (by omega)] at HN
      obtain ⟨b, hb⟩ : ∃ b, s.extract (A + 8) (A + (8 + v)) = b := ⟨_, rfl⟩
      obtain ⟨K, hK⟩ : ∃ b, s.extract (A + 4) (A + 8) = b := ⟨_, rfl⟩
      have hbs : b.size ≤ 1000000 := by rw [← hb]; simp; omega
      rw [hb, hK] at HN
      have n1 : (0 : Int) ≤ (A : Int) + 8 := by omega
      have n2 : (A : Int) + 8 ≤ (A : Int) + 8 + (v : Int) := by omega
      have n3 : (A : Int) + 8 + (v : Int) ≤ (s.size : Int) := by omega
      have n4 : ((A : Int) + 8).toNat = A + 8 := by omega
      have n5 : ((A : Int) + 8 + (v : Int)).toNat = A + (8 + v) := by omega
      have n6 : (0 : Int) ≤ (A : Int) + 4 := by omega
      have n7 : (A : Int) + 4 ≤ (A : Int) + 8 := by omega
      have n8 : (A : Int) + 8 ≤ (s.size : Int) := by omega
      have n9 : ((A : Int) + 4).toNat = A + 4 := by omega
      obtain ⟨C, hC⟩ : ∃ C : ByteArray, (⟨(chk b.data.toList).toArray⟩ : ByteArray) = C := ⟨_, rfl⟩
      have CKn : ∀ m : Beyond wr, Calls Tryd.prog 82 #[.string b] m.x fun e w' => e = .returned (.string C) ∧ Below m.x.heap.size m.x w' := fun m => by
        have := four_any b m.x hbs
        rw [hC] at this
        exact this
      rw [hC] at HN
      clear hC hbs hext
      by_cases hKC : K = C
      · have dk : (C.toList == K.toList) = true := by rw [hKC]; simp
        go_upto_region 15 with fail
        refine wp_region_below (by kernel_rfl) (by kernel_rfl) ?_
        repeat (go_big_quiet_step ((go_at_call 82; exact quiet_below (CKn _))))
        intro w9 hw9
        have hb9 := beyond_below hw9
        go_wp2
        go_returns
        exact ⟨by rw [HN.out, if_neg c3, if_neg c4, if_neg c5, if_pos hKC]; first | rfl | simp, hbel.trans (hb9.mono hbel.size)⟩
      · have dk : (C.toList == K.toList) = false := beq_eq_false_iff_ne.2 (fun e => hKC (by rw [ByteArray.toList_eq, ByteArray.toList_eq] at e; exact (ByteArray.ext (Array.ext' e)).symm))
        go_upto_region 15 with fail
        refine wp_region_below (by kernel_rfl) (by kernel_rfl) ?_
        repeat (go_big_quiet_step ((go_at_call 82; exact quiet_below (CKn _))))
        intro w9 hw9
        have hb9 := beyond_below hw9
        go_wp2
        go_returns
        exact ⟨by rw [HN.out, if_neg c3, if_neg c4, if_neg c5, if_neg hKC]; first | rfl | simp, hbel.trans (hb9.mono hbel.size)⟩
end Go.Proofs.YtfblbholkhdldaaDoor
