/- Decimal numbers: read, in the program and in the document's own answer. -/
import Derived.Test.YtemmblfjmhcenaaDoorName
import Derived.WalkKit
import Derived.ProofKit
import Derived.Handy
import Derived.Below
import Derived.BigQuiet
import Derived.Lib.Hide
import Derived.IntWalk
import Derived.Outline
import Derived.WalkLawsBesides
import Derived.WalkSpells
namespace Go.Proofs.YtemmblfjmhcenaaDoor
open Go.RowKit
attribute [local go_sem] strV
def digL (l : List UInt8) : Bool := l.all fun b => digitB b.toNat
def valN (l : List UInt8) : Nat := l.foldl (fun n b => 10 * n + (b.toNat - 48)) 0
def zeroHead (l : List UInt8) : Bool := decide (1 < l.length) && (l[0]? == some 48)
def numE (l : List UInt8) : Int := if l.isEmpty then 2 else if digL l then (if zeroHead l then 3 else if valN l ≤ 72057594037927935 then 0 else 4) else 3
def numV (l : List UInt8) : Int := if numE l = 0 then valN l else 0
theorem digL_take {l : List UInt8} {k : Nat} {b : UInt8} (h : l[k]? = some b) : digL (l.take (k + 1)) = (digL (l.take k) && digitB b.toNat) := by
  unfold digL; rw [List.take_add_one, h, List.all_append]; simp
theorem digL_stop {l : List UInt8} {k : Nat} {b : UInt8} (h : l[k]? = some b) (hb : digitB b.toNat = false) : digL l = false := by
  unfold digL; rw [List.all_eq_false]; exact ⟨b, List.mem_of_getElem? h, by rw [hb]; decide⟩
theorem digL_get {l : List UInt8} (hl : digL l = true) {k : Nat} {b : UInt8} (h : l[k]? = some b) : digitB b.toNat = true := by
  unfold digL at hl; rw [List.all_eq_true] at hl; exact hl b (List.mem_of_getElem? h)
theorem valN_take {l : List UInt8} {k : Nat} {b : UInt8} (h : l[k]? = some b) : valN (l.take (k + 1)) = 10 * valN (l.take k) + (b.toNat - 48) := by
  unfold valN; rw [List.take_add_one, h, List.foldl_append]; rfl
theorem foldl_ge (l : List UInt8) : ∀ n, n ≤ l.foldl (fun n b => 10 * n + (b.toNat - 48)) n := by
  induction l with
  | nil => intro n; exact Nat.le_refl _
  | cons b l ih => intro n; exact Nat.le_trans (show n ≤ 10 * n + (b.toNat - 48) by omega) (ih _)
theorem valN_mono (l : List UInt8) (k : Nat) : valN (l.take k) ≤ valN l := by
  conv => rhs; rw [← List.take_append_drop k l]
  unfold valN; rw [List.foldl_append]; exact foldl_ge _ _
theorem foldl_big (l : List UInt8) : ∀ n, n * 10 ^ l.length ≤ l.foldl (fun n b => 10 * n + (b.toNat - 48)) n := by
  induction l with
  | nil => intro n; simp
  | cons b l ih =>
    intro n
    refine Nat.le_trans ?_ (ih _)
    rw [List.length_cons, Nat.pow_succ]
    calc n * (10 ^ l.length * 10) = (10 * n) * 10 ^ l.length := by rw [Nat.mul_comm (10 ^ l.length) 10, ← Nat.mul_assoc, Nat.mul_comm n 10]
      _ ≤ _ := Nat.mul_le_mul_right _ (show 10 * n ≤ 10 * n + (b.toNat - 48) by omega)
theorem valN_big {l : List UInt8} (hd : digL l = true) (h0 : l ≠ []) (hz : zeroHead l = false) (hl : 17 < l.length) : 72057594037927935 < valN l := by
  cases l with
  | nil => exact absurd rfl h0
  | cons b l =>
    have hb := digL_get hd (k := 0) (b := b) rfl
    unfold digitB at hb
    simp only [Bool.and_eq_true, decide_eq_true_eq] at hb
    have hne : b ≠ 48 := by
      rintro rfl
      unfold zeroHead at hz
      rw [decide_eq_true (show 1 < _ by omega)] at hz
      simp at hz
    have hb2 : b.toNat ≠ 48 := fun e => hne (UInt8.toNat_inj.1 e)
    unfold valN
    rw [List.foldl_cons]
    have h1 := foldl_big l (10 * 0 + (b.toNat - 48))
    have h2 : 10 ^ 17 ≤ 10 ^ l.length := Nat.pow_le_pow_right (by decide) (by rw [List.length_cons] at hl; omega)
    have h3 : 1 * 10 ^ l.length ≤ (10 * 0 + (b.toNat - 48)) * 10 ^ l.length := Nat.mul_le_mul_right _ (by omega)
    omega
theorem take_all {s : ByteArray} {k : Nat} (h : s.size ≤ k) : s.data.toList.take k = s.data.toList := List.take_of_length_le (by rw [str_len]; exact h)
theorem num_form {l : List UInt8} (h0 : l ≠ []) (hd : digL l = false) : numE l = 3 ∧ numV l = 0 := by
  have : numE l = 3 := by unfold numE; rw [if_neg (by simpa using h0), hd]; rfl
  exact ⟨this, by unfold numV; rw [this]; rfl⟩
theorem num_zero {l : List UInt8} (h0 : l ≠ []) (hd : digL l = true) (hz : zeroHead l = true) : numE l = 3 ∧ numV l = 0 := by
  have : numE l = 3 := by unfold numE; rw [if_neg (by simpa using h0), hd, hz]; rfl
  exact ⟨this, by unfold numV; rw [this]; rfl⟩
theorem num_long {l : List UInt8} (h0 : l ≠ []) (hd : digL l = true) (hz : zeroHead l = false) (hv : 72057594037927935 < valN l) : numE l = 4 ∧ numV l = 0 := by
  have : numE l = 4 := by unfold numE; rw [if_neg (by simpa using h0), hd, hz, if_pos rfl, if_neg (by decide), if_neg (by omega)]
  exact ⟨this, by unfold numV; rw [this]; rfl⟩
theorem num_ok {l : List UInt8} (h0 : l ≠ []) (hd : digL l = true) (hz : zeroHead l = false) (hv : valN l ≤ 72057594037927935) : numE l = 0 ∧ numV l = valN l := by
  have : numE l = 0 := by unfold numE; rw [if_neg (by simpa using h0), hd, hz, if_pos rfl, if_neg (by decide), if_pos hv]
  exact ⟨this, by unfold numV; rw [this]; rfl⟩
def numR (l : List UInt8) : Ending := .returned (.tuple #[.int .i64 (numV l), .int .i64 (numE l)])
theorem numR_eq {l : List UInt8} {v e : Int} (h : numE l = e ∧ numV l = v) : numR l = .returned (.tuple #[.int .i64 v, .int .i64 e]) := by unfold numR; rw [h.1, h.2]

set_option maxRecDepth 100000 in
set_option maxHeartbeats 3200000 in
theorem number_any (s : ByteArray) (w : World) (hs : s.size ≤ maxLen) :
    Calls Tryd.prog 19 #[.string s] w fun e w' => e = numR s.data.toList ∧ w' = w := by
  unfold maxLen at hs
  by_cases h0 : s.size = 0
  · have he := str_nil h0
    subst he
    go_enter Tryd.func19, Tryd.ntmps19
    go_wp2
    go_ret2
    exact ⟨rfl, rfl⟩
  have hpos : 0 < s.size := by omega
  have hne := str_ne'' hpos
  have hne2 := str_ne' hpos
  have HE0 := Lib.hid (str_ne hpos)
  go_enter Tryd.func19, Tryd.ntmps19
  go_wp2
  go_loopw [11, 4] (fun i v wr => ∃ k : Nat, k ≤ s.size ∧ wr = w ∧ Hid (digL (s.data.toList.take k) = true) ∧ i = .int .i64 k) (fun i _ _ => s.size - (intOf i).toNat)
  case atStart => exact ⟨0, by omega, by first | rfl | trivial, Lib.hid rfl, rfl⟩
  case round =>
    obtain ⟨k, hk, hwr, HA, rfl⟩ := hrel
    obtain rfl : w = wr := hwr.symm
    by_cases hlt : k < s.size
    · obtain ⟨b, hb⟩ : ∃ b, s[k] = b := ⟨_, rfl⟩
      have hg := str_get hlt
      rw [hb] at hg
      have HG := Lib.hid hg; clear hg
      cases hd : digitB b.toNat
      · have HR := Lib.hid (numR_eq (num_form HE0.out (digL_stop HG.out hd)))
        have HD := Lib.hid hd; clear hd
        go_wp2_with (go_at_call 29; refine (digit_n _ (UInt8.toNat_lt b) _).mono ?_; rintro e w1 ⟨rfl, hw1⟩; obtain rfl : _ = w1 := hw1.symm; rw [HD.out])
        go_ret2
        exact ⟨by rw [HR.out]; first | done | rfl, by first | rfl | trivial⟩
      · have HS : Hid (digL (s.data.toList.take (k + 1)) = true) := Lib.hid (by rw [digL_take HG.out, HA.out, hd]; rfl)
        have HD := Lib.hid hd; clear hd
        go_wp2_with (go_at_call 29; refine (digit_n _ (UInt8.toNat_lt b) _).mono ?_; rintro e w1 ⟨rfl, hw1⟩; obtain rfl : _ = w1 := hw1.symm; rw [HD.out])
        go_roundw
        case rel => exact ⟨k + 1, by omega, by first | rfl | trivial, HS, by go_num⟩
        case measure => (simp [intOf]) <;> omega
    · have HDL : Hid (digL s.data.toList = true) := Lib.hid (by have := HA.out; rwa [take_all (by omega)] at this)
      clear HA
      have hz0 : s.data.toList[0]? = some s[0] := str_get hpos
      obtain ⟨b, hb⟩ : ∃ b, s[0] = b := ⟨_, rfl⟩
      rw [hb] at hz0
      cases hz : zeroHead s.data.toList
      · have HZ := Lib.hid hz
        by_cases h1 : 1 < s.size
        · have e1 : ((b.toNat : Int) == 48) = false := by
            unfold zeroHead at hz
            rw [str_len, decide_eq_true h1, hz0] at hz
            simp only [Bool.true_and] at hz
            exact byte_ne (n := 48) (by decide) (by rintro rfl; simp at hz)
          clear hz hz0
          have d1 : decide (1 < (s.size : Int)) = true := decide_eq_true (by omega)
          go_wp2
          go_loopw [30, 5] (fun i n wr => ∃ k v : Nat, k ≤ s.size ∧ wr = w ∧ v ≤ 72057594037927935 ∧ Hid (valN (s.data.toList.take k) = v) ∧ i = .int .i64 k ∧ n = .int .i64 v) (fun i n _ => s.size - (intOf i).toNat)
          case atStart => exact ⟨0, 0, by omega, by first | rfl | trivial, by first | omega | decide, Lib.hid rfl, rfl, rfl⟩
          case round =>
            obtain ⟨k, v, hk, hwr, hv, HV, rfl, rfl⟩ := hrel
            obtain rfl : w = wr := hwr.symm
            by_cases hlt : k < s.size
            · obtain ⟨b, hb⟩ : ∃ b, s[k] = b := ⟨_, rfl⟩
              have hg := str_get hlt
              rw [hb] at hg
              have hdb := digL_get HDL.out hg
              unfold digitB at hdb
              simp only [Bool.and_eq_true, decide_eq_true_eq] at hdb
              have HN : Hid (valN (s.data.toList.take (k + 1)) = 10 * v + (b.toNat - 48)) := Lib.hid (by rw [valN_take hg, HV.out])
              clear hg
              have hi1 : (48 : Int) ≤ (b.toNat : Int) := by omega
              have hi2 : (b.toNat : Int) ≤ 57 := by omega
              by_cases hm : 10 * v + (b.toNat - 48) ≤ 72057594037927935
              · have hm2 : (10 : Int) * (v : Int) + ((b.toNat : Int) - 48) ≤ 72057594037927935 := by omega
                go_wp2
                go_roundw
                case rel => exact ⟨k + 1, 10 * v + (b.toNat - 48), by omega, by first | rfl | trivial, hm, HN, by go_num, by go_num⟩
                case measure => (simp [intOf]) <;> omega
              · have HR := Lib.hid (numR_eq (num_long HE0.out HDL.out HZ.out (by have := valN_mono s.data.toList (k + 1); rw [HN.out] at this; omega)))
                have hm2 : (72057594037927935 : Int) < (10 : Int) * (v : Int) + ((b.toNat : Int) - 48) := by omega
                go_wp2
                go_ret2
                exact ⟨by rw [HR.out]; first | done | rfl, by first | rfl | trivial⟩
            · have HR := Lib.hid (numR_eq (num_ok HE0.out HDL.out HZ.out (by rw [← take_all (show s.size ≤ k by omega), HV.out]; exact hv)))
              have HV2 : Hid (valN s.data.toList = v) := Lib.hid (by rw [← take_all (show s.size ≤ k by omega), HV.out])
              go_wp2
              go_ret2
              exact ⟨by rw [HR.out, HV2.out]; first | done | rfl, by first | rfl | trivial⟩
        · clear hz hz0
          have d1 : decide (1 < (s.size : Int)) = false := decide_eq_false (by omega)
          go_wp2
          go_loopw [30, 5] (fun i n wr => ∃ k v : Nat, k ≤ s.size ∧ wr = w ∧ v ≤ 72057594037927935 ∧ Hid (valN (s.data.toList.take k) = v) ∧ i = .int .i64 k ∧ n = .int .i64 v) (fun i n _ => s.size - (intOf i).toNat)
          case atStart => exact ⟨0, 0, by omega, by first | rfl | trivial, by first | omega | decide, Lib.hid rfl, rfl, rfl⟩
          case round =>
            obtain ⟨k, v, hk, hwr, hv, HV, rfl, rfl⟩ := hrel
            obtain rfl : w = wr := hwr.symm
            by_cases hlt : k < s.size
            · obtain ⟨b, hb⟩ : ∃ b, s[k] = b := ⟨_, rfl⟩
              have hg := str_get hlt
              rw [hb] at hg
              have hdb := digL_get HDL.out hg
              unfold digitB at hdb
              simp only [Bool.and_eq_true, decide_eq_true_eq] at hdb
              have HN : Hid (valN (s.data.toList.take (k + 1)) = 10 * v + (b.toNat - 48)) := Lib.hid (by rw [valN_take hg, HV.out])
              clear hg
              have hi1 : (48 : Int) ≤ (b.toNat : Int) := by omega
              have hi2 : (b.toNat : Int) ≤ 57 := by omega
              by_cases hm : 10 * v + (b.toNat - 48) ≤ 72057594037927935
              · have hm2 : (10 : Int) * (v : Int) + ((b.toNat : Int) - 48) ≤ 72057594037927935 := by omega
                go_wp2
                go_roundw
                case rel => exact ⟨k + 1, 10 * v + (b.toNat - 48), by omega, by first | rfl | trivial, hm, HN, by go_num, by go_num⟩
                case measure => (simp [intOf]) <;> omega
              · have HR := Lib.hid (numR_eq (num_long HE0.out HDL.out HZ.out (by have := valN_mono s.data.toList (k + 1); rw [HN.out] at this; omega)))
                have hm2 : (72057594037927935 : Int) < (10 : Int) * (v : Int) + ((b.toNat : Int) - 48) := by omega
                go_wp2
                go_ret2
                exact ⟨by rw [HR.out]; first | done | rfl, by first | rfl | trivial⟩
            · have HR := Lib.hid (numR_eq (num_ok HE0.out HDL.out HZ.out (by rw [← take_all (show s.size ≤ k by omega), HV.out]; exact hv)))
              have HV2 : Hid (valN s.data.toList = v) := Lib.hid (by rw [← take_all (show s.size ≤ k by omega), HV.out])
              go_wp2
              go_ret2
              exact ⟨by rw [HR.out, HV2.out]; first | done | rfl, by first | rfl | trivial⟩
      · have HR := Lib.hid (numR_eq (num_zero HE0.out HDL.out hz))
        have d1 : decide (1 < (s.size : Int)) = true := by unfold zeroHead at hz; simp only [Bool.and_eq_true, decide_eq_true_eq, str_len] at hz; exact decide_eq_true (by omega)
        have e1 : b = 48 := by unfold zeroHead at hz; rw [hz0] at hz; simp only [Bool.and_eq_true, decide_eq_true_eq, beq_iff_eq, Option.some.injEq] at hz; exact hz.2
        clear hz hz0
        subst e1
        go_wp2
        go_ret2
        exact ⟨by rw [HR.out]; first | done | rfl, by first | rfl | trivial⟩

set_option maxRecDepth 100000 in
set_option maxHeartbeats 3200000 in
theorem refNumber_any (s : ByteArray) (w : World) (hs : s.size ≤ maxLen) :
    Calls Tryd.prog 20 #[.string s] w fun e w' => e = numR s.data.toList ∧ w' = w := by
  unfold maxLen at hs
  by_cases h0 : s.size = 0
  · have he := str_nil h0
    subst he
    go_enter Tryd.func20, Tryd.ntmps20
    go_wp2
    go_ret2
    exact ⟨rfl, rfl⟩
  have hpos : 0 < s.size := by omega
  have hne := str_ne'' hpos
  have hne2 := str_ne' hpos
  have HE0 := Lib.hid (str_ne hpos)
  go_enter Tryd.func20, Tryd.ntmps20
  go_wp2
  go_loopw [4] (fun i wr => ∃ k : Nat, k ≤ s.size ∧ wr = w ∧ Hid (digL (s.data.toList.take k) = true) ∧ i = .int .i64 k) (fun i _ => s.size - (intOf i).toNat)
  case atStart => exact ⟨0, by omega, by first | rfl | trivial, Lib.hid rfl, rfl⟩
  case round =>
    obtain ⟨k, hk, hwr, HA, rfl⟩ := hrel
    obtain rfl : w = wr := hwr.symm
    by_cases hlt : k < s.size
    · obtain ⟨b, hb⟩ : ∃ b, s[k] = b := ⟨_, rfl⟩
      have hg := str_get hlt
      rw [hb] at hg
      have HG := Lib.hid hg; clear hg
      by_cases h48 : b.toNat < 48
      · have HR := Lib.hid (numR_eq (num_form HE0.out (digL_stop HG.out (by unfold digitB; rw [decide_eq_false (show ¬ 48 ≤ b.toNat by omega)]; rfl))))
        have d1 : decide ((b.toNat : Int) < 48) = true := decide_eq_true (by omega)
        go_wp2
        go_ret2
        exact ⟨by rw [HR.out]; first | done | rfl, by first | rfl | trivial⟩
      by_cases h57 : 57 < b.toNat
      · have HR := Lib.hid (numR_eq (num_form HE0.out (digL_stop HG.out (by unfold digitB; rw [decide_eq_false (show ¬ b.toNat ≤ 57 by omega), Bool.and_false]))))
        have d1 : decide ((b.toNat : Int) < 48) = false := decide_eq_false (by omega)
        have d2 : decide (57 < (b.toNat : Int)) = true := decide_eq_true (by omega)
        go_wp2
        go_ret2
        exact ⟨by rw [HR.out]; first | done | rfl, by first | rfl | trivial⟩
      · have HS : Hid (digL (s.data.toList.take (k + 1)) = true) := Lib.hid (by rw [digL_take HG.out, HA.out]; unfold digitB; rw [decide_eq_true (show 48 ≤ b.toNat by omega), decide_eq_true (show b.toNat ≤ 57 by omega)]; rfl)
        have d1 : decide ((b.toNat : Int) < 48) = false := decide_eq_false (by omega)
        have d2 : decide (57 < (b.toNat : Int)) = false := decide_eq_false (by omega)
        go_wp2
        go_roundw
        case rel => exact ⟨k + 1, by omega, by first | rfl | trivial, HS, by go_num⟩
        case measure => (simp [intOf]) <;> omega
    · have HDL : Hid (digL s.data.toList = true) := Lib.hid (by have := HA.out; rwa [take_all (by omega)] at this)
      clear HA
      have hz0 : s.data.toList[0]? = some s[0] := str_get hpos
      obtain ⟨b, hb⟩ : ∃ b, s[0] = b := ⟨_, rfl⟩
      rw [hb] at hz0
      cases hz : zeroHead s.data.toList
      · have HZ := Lib.hid hz
        by_cases h17 : 17 < s.size
        · have HR := Lib.hid (numR_eq (num_long HE0.out HDL.out HZ.out (valN_big HDL.out HE0.out HZ.out (by rw [str_len]; exact h17))))
          have e1 : ((b.toNat : Int) == 48) = false := by
            unfold zeroHead at hz
            rw [str_len, decide_eq_true (show 1 < s.size by omega), hz0] at hz
            simp only [Bool.true_and] at hz
            exact byte_ne (n := 48) (by decide) (by rintro rfl; simp at hz)
          clear hz hz0
          go_wp2
          go_ret2
          exact ⟨by rw [HR.out]; first | done | rfl, by first | rfl | trivial⟩
        by_cases h1 : 1 < s.size
        · have e1 : ((b.toNat : Int) == 48) = false := by
            unfold zeroHead at hz
            rw [str_len, decide_eq_true h1, hz0] at hz
            simp only [Bool.true_and] at hz
            exact byte_ne (n := 48) (by decide) (by rintro rfl; simp at hz)
          clear hz hz0
          go_wp2
          go_loopw [6, 5] (fun i n wr => ∃ k v : Nat, k ≤ s.size ∧ wr = w ∧ v < 10 ^ k ∧ Hid (valN (s.data.toList.take k) = v) ∧ i = .int .i64 k ∧ n = .int .i64 v) (fun i n _ => s.size - (intOf i).toNat)
          case atStart => exact ⟨0, 0, by omega, by first | rfl | trivial, by first | omega | decide, Lib.hid rfl, rfl, rfl⟩
          case round =>
            obtain ⟨k, v, hk, hwr, hv, HV, rfl, rfl⟩ := hrel
            obtain rfl : w = wr := hwr.symm
            by_cases hlt : k < s.size
            · obtain ⟨b, hb⟩ : ∃ b, s[k] = b := ⟨_, rfl⟩
              have hg := str_get hlt
              rw [hb] at hg
              have hdb := digL_get HDL.out hg
              unfold digitB at hdb
              simp only [Bool.and_eq_true, decide_eq_true_eq] at hdb
              have HN : Hid (valN (s.data.toList.take (k + 1)) = 10 * v + (b.toNat - 48)) := Lib.hid (by rw [valN_take hg, HV.out])
              clear hg
              have hi1 : (48 : Int) ≤ (b.toNat : Int) := by omega
              have hi2 : (b.toNat : Int) ≤ 57 := by omega
              have hp : 10 * v + (b.toNat - 48) < 10 ^ (k + 1) := by rw [Nat.pow_succ]; omega
              have hp2 : 10 ^ k ≤ 10 ^ 17 := Nat.pow_le_pow_right (by decide) (by omega)
              have hv2 : v ≤ 100000000000000000 := Nat.le_trans (Nat.le_of_lt hv) hp2
              have HP := Lib.hid hp; clear hp hp2 hv
              go_wp2
              go_roundw
              case rel => exact ⟨k + 1, 10 * v + (b.toNat - 48), by omega, by first | rfl | trivial, HP.out, HN, by go_num, by go_num⟩
              case measure => (simp [intOf]) <;> omega
            · have HV2 : Hid (valN s.data.toList = v) := Lib.hid (by rw [← take_all (show s.size ≤ k by omega), HV.out])
              have hp2 : 10 ^ k ≤ 10 ^ 17 := Nat.pow_le_pow_right (by decide) (by omega)
              have hv2 : v ≤ 100000000000000000 := Nat.le_trans (Nat.le_of_lt hv) hp2
              clear hp2 hv
              by_cases hm : v ≤ 72057594037927935
              · have HR := Lib.hid (numR_eq (num_ok HE0.out HDL.out HZ.out (by rw [HV2.out]; exact hm)))
                have hm2 : (v : Int) ≤ 72057594037927935 := by omega
                go_wp2
                go_ret2
                exact ⟨by rw [HR.out, HV2.out]; first | done | rfl, by first | rfl | trivial⟩
              · have HR := Lib.hid (numR_eq (num_long HE0.out HDL.out HZ.out (by rw [HV2.out]; omega)))
                have hm2 : (72057594037927935 : Int) < (v : Int) := by omega
                go_wp2
                go_ret2
                exact ⟨by rw [HR.out]; first | done | rfl, by first | rfl | trivial⟩
        · clear hz hz0
          have d1 : decide (1 < (s.size : Int)) = false := decide_eq_false (by omega)
          obtain ⟨c, hc⟩ : ∃ c, ((b.toNat : Int) == 48) = c := ⟨_, rfl⟩
          cases c
          all_goals
            go_wp2
            go_loopw [6, 5] (fun i n wr => ∃ k v : Nat, k ≤ s.size ∧ wr = w ∧ v < 10 ^ k ∧ Hid (valN (s.data.toList.take k) = v) ∧ i = .int .i64 k ∧ n = .int .i64 v) (fun i n _ => s.size - (intOf i).toNat)
            case atStart => exact ⟨0, 0, by omega, by first | rfl | trivial, by first | omega | decide, Lib.hid rfl, rfl, rfl⟩
            case round =>
              obtain ⟨k, v, hk, hwr, hv, HV, rfl, rfl⟩ := hrel
              obtain rfl : w = wr := hwr.symm
              by_cases hlt : k < s.size
              · obtain ⟨b, hb⟩ : ∃ b, s[k] = b := ⟨_, rfl⟩
                have hg := str_get hlt
                rw [hb] at hg
                have hdb := digL_get HDL.out hg
                unfold digitB at hdb
                simp only [Bool.and_eq_true, decide_eq_true_eq] at hdb
                have HN : Hid (valN (s.data.toList.take (k + 1)) = 10 * v + (b.toNat - 48)) := Lib.hid (by rw [valN_take hg, HV.out])
                clear hg
                have hi1 : (48 : Int) ≤ (b.toNat : Int) := by omega
                have hi2 : (b.toNat : Int) ≤ 57 := by omega
                have hp : 10 * v + (b.toNat - 48) < 10 ^ (k + 1) := by rw [Nat.pow_succ]; omega
                have hp2 : 10 ^ k ≤ 10 ^ 17 := Nat.pow_le_pow_right (by decide) (by omega)
                have hv2 : v ≤ 100000000000000000 := Nat.le_trans (Nat.le_of_lt hv) hp2
                have HP := Lib.hid hp; clear hp hp2 hv
                go_wp2
                go_roundw
                case rel => exact ⟨k + 1, 10 * v + (b.toNat - 48), by omega, by first | rfl | trivial, HP.out, HN, by go_num, by go_num⟩
                case measure => (simp [intOf]) <;> omega
              · have HV2 : Hid (valN s.data.toList = v) := Lib.hid (by rw [← take_all (show s.size ≤ k by omega), HV.out])
                have hp2 : 10 ^ k ≤ 10 ^ 17 := Nat.pow_le_pow_right (by decide) (by omega)
                have hv2 : v ≤ 100000000000000000 := Nat.le_trans (Nat.le_of_lt hv) hp2
                clear hp2 hv
                by_cases hm : v ≤ 72057594037927935
                · have HR := Lib.hid (numR_eq (num_ok HE0.out HDL.out HZ.out (by rw [HV2.out]; exact hm)))
                  have hm2 : (v : Int) ≤ 72057594037927935 := by omega
                  go_wp2
                  go_ret2
                  exact ⟨by rw [HR.out, HV2.out]; first | done | rfl, by first | rfl | trivial⟩
                · have HR := Lib.hid (numR_eq (num_long HE0.out HDL.out HZ.out (by rw [HV2.out]; omega)))
                  have hm2 : (72057594037927935 : Int) < (v : Int) := by omega
                  go_wp2
                  go_ret2
                  exact ⟨by rw [HR.out]; first | done | rfl, by first | rfl | trivial⟩
      · have HR := Lib.hid (numR_eq (num_zero HE0.out HDL.out hz))
        have d1 : decide (1 < (s.size : Int)) = true := by unfold zeroHead at hz; simp only [Bool.and_eq_true, decide_eq_true_eq, str_len] at hz; exact decide_eq_true (by omega)
        have e1 : b = 48 := by unfold zeroHead at hz; rw [hz0] at hz; simp only [Bool.and_eq_true, decide_eq_true_eq, beq_iff_eq, Option.some.injEq] at hz; exact hz.2
        clear hz hz0
        subst e1
        go_wp2
        go_ret2
        exact ⟨by rw [HR.out]; first | done | rfl, by first | rfl | trivial⟩
end Go.Proofs.YtemmblfjmhcenaaDoor
