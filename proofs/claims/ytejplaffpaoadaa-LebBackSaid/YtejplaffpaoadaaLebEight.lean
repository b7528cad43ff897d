/- Eight bytes, the most significant one first: plain functions, and what leb.Eight, leb.FromEight, ligref1.Eight, ligref1.FromEight return. -/
import Derived.Test.YtejplaffpaoadaaRows
import Derived.Test.YtejplaffpaoadaaLebMath
import Derived.Test.YtejplaffpaoadaaKit
import Derived.Test.YtejplaffpaoadaaLebPut
import Derived.WalkKit
import Derived.ProofKit
import Derived.Handy
import Derived.Below
import Derived.Lib.Hide
import Derived.IntWalk
import Derived.Outline
import Derived.WalkLawsBesides
import Derived.WalkSpells
namespace Go.Proofs.Ytejplaffpaoadaa
open Go.RowKit

def beV (l : List UInt8) : Nat := l.foldl (fun a b => a * 256 + b.toNat) 0
theorem beV_snoc (l : List UInt8) (b : UInt8) : beV (l ++ [b]) = beV l * 256 + b.toNat := by simp [beV]
theorem beV_fold (l : List UInt8) (a : Nat) : l.foldl (fun a b => a * 256 + b.toNat) a = a * 256 ^ l.length + beV l := by
  induction l generalizing a with
  | nil => simp [beV]
  | cons b l ih =>
    rw [List.foldl_cons, ih]
    unfold beV
    rw [List.foldl_cons, ih (0 * 256 + b.toNat), List.length_cons, Nat.pow_succ]
    simp only [Nat.zero_mul, Nat.zero_add]
    rw [Nat.add_mul, Nat.mul_assoc, Nat.mul_comm 256, Nat.add_assoc]
    rfl
theorem beV_cons (b : UInt8) (l : List UInt8) : beV (b :: l) = b.toNat * 256 ^ l.length + beV l := by
  rw [beV, List.foldl_cons, beV_fold]; simp
theorem beV_lt (l : List UInt8) : beV l < 256 ^ l.length := by
  induction l with
  | nil => simp [beV]
  | cons b l ih =>
    rw [beV_cons, List.length_cons, Nat.pow_succ]
    have := b.toNat_lt
    have : b.toNat * 256 ^ l.length ≤ 255 * 256 ^ l.length := Nat.mul_le_mul_right _ (by omega)
    omega
theorem beV_take {l : List UInt8} {k : Nat} {b : UInt8} (h : l[k]? = some b) : beV (l.take (k + 1)) = beV (l.take k) * 256 + b.toNat := by
  obtain ⟨hk, hb⟩ := List.getElem?_eq_some_iff.1 h
  rw [List.take_succ_eq_append_getElem hk, hb, beV_snoc]

theorem beV_append (A B : List UInt8) : beV (A ++ B) = beV A * 256 ^ B.length + beV B := by
  rw [beV, List.foldl_append, beV_fold]; rfl
theorem beV_take_le (l : List UInt8) (k : Nat) : beV (l.take k) ≤ beV l := by
  have e : l.take k ++ l.drop k = l := List.take_append_drop _ _
  have h := beV_append (l.take k) (l.drop k)
  rw [e] at h
  have h2 : beV (l.take k) * 1 ≤ beV (l.take k) * 256 ^ (l.drop k).length := Nat.mul_le_mul_left _ (Nat.pow_pos (by decide))
  omega

def fromEightS (l : List UInt8) : Int × Int :=
  if l.length < 8 then (0, 2) else if 8 < l.length then (0, 4) else if l[0]? = some 0 then ((beV l : Int), 0) else (0, 3)

theorem big_of_first {l : List UInt8} (hl : l.length = 8) : (l[0]? = some 0 → beV l ≤ 72057594037927935) ∧ (l[0]? ≠ some 0 → 72057594037927935 < beV l) := by
  match l, hl with
  | b :: l, hl =>
    have h7 : l.length = 7 := by simpa using hl
    have hlt := beV_lt l
    rw [h7] at hlt
    rw [beV_cons, h7]
    constructor
    · intro h
      have : b = 0 := by simpa using h
      subst this
      simp only [UInt8.toNat_zero, Nat.zero_mul, Nat.zero_add]
      omega
    · intro h
      have hb : b.toNat ≠ 0 := by
        intro e
        have e0 : b = 0 := UInt8.toNat_inj.1 (by rw [e]; rfl)
        exact h (by rw [e0]; rfl)
      have : 1 * 256 ^ 7 ≤ b.toNat * 256 ^ 7 := Nat.mul_le_mul_right _ (by omega)
      omega

def pairV (x : Int × Int) : Value := .tuple #[.int .i64 x.1, .int .i64 x.2]

theorem shl_or8 (v : Nat) (b : Nat) (hv : v < 72057594037927936) (hb : b < 256) : bits .or .u64 ((v : Int) * 256) (b : Int) = ((v * 256 + b : Nat) : Int) := by
  have h := u64_or_nat (v * 256) b (by omega) (by omega)
  rw [show ((v : Int) * 256) = ((v * 256 : Nat) : Int) by omega, h]
  congr 1
  exact nat_join 8 (v * 256) b (by omega) (by omega)

set_option maxRecDepth 100000 in
set_option maxHeartbeats 800000 in
theorem fromEight_any (s : ByteArray) (w : World) (hs : s.size ≤ maxLen) :
    Calls Try.prog 14 #[.string s] w fun e w' => e = .returned (pairV (fromEightS s.data.toList)) ∧ w = w' := by
  unfold maxLen at hs
  have hlen : s.data.toList.length = s.size := by simp
  by_cases h1 : s.size < 8
  · have hr : fromEightS s.data.toList = (0, 2) := by unfold fromEightS; rw [if_pos (by omega)]
    have H := Lib.hid hr; clear hr hlen
    go_enter Try.func14, Try.ntmps14
    go_wp2
    go_ret2
    exact ⟨by rw [H.out]; rfl, rfl⟩
  by_cases h2 : 8 < s.size
  · have hr : fromEightS s.data.toList = (0, 4) := by unfold fromEightS; rw [if_neg (by omega), if_pos (by omega)]
    have H := Lib.hid hr; clear hr hlen
    go_enter Try.func14, Try.ntmps14
    go_wp2
    go_ret2
    exact ⟨by rw [H.out]; rfl, rfl⟩
  obtain ⟨hg0, hg1⟩ := big_of_first (l := s.data.toList) (by omega)
  have hE : fromEightS s.data.toList = if s.data.toList[0]? = some 0 then ((beV s.data.toList : Int), 0) else (0, 3) := by
    unfold fromEightS; rw [if_neg (by omega), if_neg (by omega)]
  have HE := Lib.hid hE; have HL := Lib.hid hlen; have HG0 := Lib.hid hg0; have HG1 := Lib.hid hg1; clear hE hlen hg0 hg1
  go_enter Try.func14, Try.ntmps14
  go_wp2
  go_loop [4, 12] (fun v i => ∃ k u : Nat, k ≤ 8 ∧ Hid (u = beV (s.data.toList.take k)) ∧ i = .int .i64 k ∧ v = .int .u64 u) (fun _ i => 8 - (intOf i).toNat)
  case atStart => exact ⟨0, 0, by omega, Lib.hid rfl, rfl, rfl⟩
  case round =>
    obtain ⟨k, u, hk, HU, rfl, rfl⟩ := hrel
    by_cases hlt : k < 8
    · have hu : u < 72057594037927936 := by
        have := beV_lt (s.data.toList.take k)
        rw [HU.out]
        refine Nat.lt_of_lt_of_le this ?_
        refine Nat.le_trans (Nat.pow_le_pow_right (by omega) (show _ ≤ 7 from ?_)) (by decide)
        rw [List.length_take]; omega
      have hin : k < s.size := by omega
      obtain ⟨b, hb⟩ : ∃ b, s[k] = b := ⟨_, rfl⟩
      have hget : s.data.toList[k]? = some b := by
        rw [List.getElem?_eq_getElem (by simpa using hin), ← hb]; rfl
      have hbb : b.toNat < 256 := b.toNat_lt
      have HT := Lib.hid (beV_take hget)
      have hor := shl_or8 u b.toNat hu hbb
      have HO := Lib.hid hor
      clear hget hor
      go_wp2
      go_round
      case rel => exact ⟨k + 1, u * 256 + b.toNat, by omega, Lib.hid (by rw [HT.out, ← HU.out]), by go_num, by rw [← HO.out]⟩
      case measure => simp [intOf]; omega
    · have e8 : s.data.toList.take k = s.data.toList := List.take_of_length_le (by rw [HL.out]; omega)
      have hu : u = beV s.data.toList := by rw [HU.out, e8]
      have H8 := Lib.hid hu; clear e8 hu
      by_cases hz : s.data.toList[0]? = some 0
      · have hle : u ≤ 72057594037927935 := by rw [H8.out]; exact HG0.out hz
        have HZ := Lib.hid hz; clear hz
        go_wp2
        go_ret2
        exact ⟨by rw [HE.out, if_pos HZ.out, ← H8.out]; rfl, rfl⟩
      · have hle : 72057594037927935 < u := by rw [H8.out]; exact HG1.out hz
        have HZ := Lib.hid hz; clear hz
        go_wp2
        go_ret2
        exact ⟨by rw [HE.out, if_neg HZ.out]; rfl, rfl⟩

set_option maxRecDepth 100000 in
set_option maxHeartbeats 800000 in
theorem refFromEight_any (s : ByteArray) (w : World) (hs : s.size ≤ maxLen) :
    Calls Try.prog 15 #[.string s] w fun e w' => e = .returned (pairV (fromEightS s.data.toList)) ∧ w = w' := by
  unfold maxLen at hs
  have hlen : s.data.toList.length = s.size := by simp
  by_cases h1 : s.size < 8
  · have hr : fromEightS s.data.toList = (0, 2) := by unfold fromEightS; rw [if_pos (by omega)]
    have H := Lib.hid hr; clear hr hlen
    go_enter Try.func15, Try.ntmps15
    go_wp2
    go_ret2
    exact ⟨by rw [H.out]; rfl, rfl⟩
  by_cases h2 : 8 < s.size
  · have hr : fromEightS s.data.toList = (0, 4) := by unfold fromEightS; rw [if_neg (by omega), if_pos (by omega)]
    have H := Lib.hid hr; clear hr hlen
    go_enter Try.func15, Try.ntmps15
    go_wp2
    go_ret2
    exact ⟨by rw [H.out]; rfl, rfl⟩
  obtain ⟨hg0, hg1⟩ := big_of_first (l := s.data.toList) (by omega)
  have hE : fromEightS s.data.toList = if s.data.toList[0]? = some 0 then ((beV s.data.toList : Int), 0) else (0, 3) := by
    unfold fromEightS; rw [if_neg (by omega), if_neg (by omega)]
  have hin0 : 0 < s.size := by omega
  obtain ⟨b0, hb0⟩ : ∃ b, s[0] = b := ⟨_, rfl⟩
  have hget0 : s.data.toList[0]? = some b0 := by
    rw [List.getElem?_eq_getElem (by simpa using hin0), ← hb0]; rfl
  have hbb0 : b0.toNat < 256 := b0.toNat_lt
  by_cases hz : s.data.toList[0]? = some 0
  · have hb00 : b0 = 0 := by rw [hget0] at hz; simpa using hz
    have hne : ((b0.toNat : Int) != 0) = false := by rw [hb00]; rfl
    have hT1 := beV_take hget0
    have HE := Lib.hid hE; have HL := Lib.hid hlen; have HG0 := Lib.hid (hg0 hz); have HZ := Lib.hid hz; have H00 := Lib.hid hb00; have HT1 := Lib.hid hT1
    clear hE hlen hg0 hg1 hz hget0 hb00 hT1
    go_enter Try.func15, Try.ntmps15
    go_wp2
    go_loop [4, 5] (fun v i => ∃ k u : Nat, 1 ≤ k ∧ k ≤ 8 ∧ Hid (u = beV (s.data.toList.take k)) ∧ i = .int .i64 k ∧ v = .int .i64 u) (fun _ i => 8 - (intOf i).toNat)
    case atStart => exact ⟨1, 0, by omega, by omega, Lib.hid (by rw [HT1.out, H00.out]; rfl), rfl, rfl⟩
    case round =>
      obtain ⟨k, u, hk1, hk, HU, rfl, rfl⟩ := hrel
      by_cases hlt : k < 8
      · have hu : u < 72057594037927936 := by
          have := beV_lt (s.data.toList.take k)
          rw [HU.out]
          refine Nat.lt_of_lt_of_le this ?_
          refine Nat.le_trans (Nat.pow_le_pow_right (by omega) (show _ ≤ 7 from ?_)) (by decide)
          rw [List.length_take]; omega
        have hu2 : u ≤ 72057594037927935 := by omega
        have hin : k < s.size := by omega
        obtain ⟨b, hb⟩ : ∃ b, s[k] = b := ⟨_, rfl⟩
        have hget : s.data.toList[k]? = some b := by
          rw [List.getElem?_eq_getElem (by simpa using hin), ← hb]; rfl
        have hbb : b.toNat < 256 := b.toNat_lt
        have HT := Lib.hid (beV_take hget)
        have hle : u * 256 + b.toNat ≤ 72057594037927935 := by
          have e1 := beV_take hget
          rw [← HU.out] at e1
          rw [← e1]
          exact Nat.le_trans (beV_take_le _ _) HG0.out
        clear hget
        go_wp2
        go_round
        case rel => exact ⟨k + 1, u * 256 + b.toNat, by omega, by omega, Lib.hid (by rw [HT.out, ← HU.out]), by go_num, by go_num⟩
        case measure => simp [intOf]; omega
      · have e8 : s.data.toList.take k = s.data.toList := List.take_of_length_le (by rw [HL.out]; omega)
        have H8 : Hid (u = beV s.data.toList) := Lib.hid (by rw [HU.out, e8])
        clear e8
        go_wp2
        go_ret2
        exact ⟨by rw [HE.out, if_pos HZ.out, ← H8.out]; rfl, rfl⟩
  · have hne : ((b0.toNat : Int) != 0) = true := by
      rw [bne_iff_ne]; intro e
      have e0 : b0 = 0 := UInt8.toNat_inj.1 (by simp; omega)
      exact hz (by rw [hget0, e0])
    have HE := Lib.hid hE; have HL := Lib.hid hlen; have HZ := Lib.hid hz
    clear hE hlen hg0 hg1 hz hget0
    go_enter Try.func15, Try.ntmps15
    go_wp2
    go_ret2
    exact ⟨by rw [HE.out, if_neg HZ.out]; rfl, rfl⟩
end Go.Proofs.Ytejplaffpaoadaa
