/- Records: whole, with more behind, cut off, with one of the first eight bytes another one. -/
import Derived.Test.YtfikbaoiialfeaaDoorFr2
namespace Go.Proofs.YtfikbaoiialfeaaDoor
open Go.RowKit
set_option linter.unusedVariables false
theorem ext_list (T : ByteArray) (i j : Nat) : (T.extract i j).data.toList = (T.data.toList.drop i).take (j - i) := by
  simp only [ByteArray.data_extract, Array.toList_extract, List.extract_eq_take_drop]
theorem ba_eq {a b : ByteArray} (h : a.data.toList = b.data.toList) : a = b := ByteArray.ext (Array.ext' h)
theorem openFr_eq (T : ByteArray) : openFr T = if T.size < 8 then (⟨#[]⟩, 2) else if 2147483647 < val4 T then (⟨#[]⟩, 4) else if T.size < 8 + val4 T then (⟨#[]⟩, 2)
    else if T.extract 4 8 = ⟨(chk (T.extract 8 (8 + val4 T)).data.toList).toArray⟩ then (if 8 + val4 T < T.size then (⟨#[]⟩, 3) else (T.extract 8 (8 + val4 T), 0)) else (⟨#[]⟩, 5) := by
  have hL : T.extract (0 : Int).toNat T.size = T := by
    apply ba_eq
    rw [ext_list]
    simp only [Int.toNat_zero, List.drop_zero, Nat.sub_zero]
    rw [List.take_of_length_le (by rw [str_len]; exact Nat.le_refl _)]
  have hN : nextFr T 0 = (if T.size < 8 then (⟨#[]⟩, 0, 2) else if 2147483647 < val4 T then (⟨#[]⟩, 0, 4) else if T.size < 8 + val4 T then (⟨#[]⟩, 0, 2) else if T.extract 4 8 = ⟨(chk (T.extract 8 (8 + val4 T)).data.toList).toArray⟩ then (T.extract 8 (8 + val4 T), 0 + 8 + (val4 T : Int), 0) else (⟨#[]⟩, 0, 5)) := by
    unfold nextFr
    rw [if_neg (by omega), hL]
  unfold openFr
  rw [hN]
  clear hN hL
  by_cases c1 : T.size < 8
  · simp only [if_pos c1]; rfl
  simp only [if_neg c1]
  by_cases c2 : 2147483647 < val4 T
  · simp only [if_pos c2]; rfl
  simp only [if_neg c2]
  by_cases c3 : T.size < 8 + val4 T
  · simp only [if_pos c3]; rfl
  simp only [if_neg c3]
  by_cases c4 : T.extract 4 8 = ⟨(chk (T.extract 8 (8 + val4 T)).data.toList).toArray⟩
  · simp only [if_pos c4]
    rw [if_pos trivial]
    by_cases c5 : 8 + val4 T < T.size
    · rw [if_pos (by omega), if_pos c5]
    · rw [if_neg (by omega), if_neg c5]
  · simp only [if_neg c4]; rfl
def vl (l : List UInt8) : Nat := (l.getD 0 0).toNat * 16777216 + (l.getD 1 0).toNat * 65536 + (l.getD 2 0).toNat * 256 + (l.getD 3 0).toNat
theorem val4_vl (T : ByteArray) : val4 T = vl T.data.toList := rfl
theorem vl_cons (a b c d : UInt8) (r : List UInt8) : vl (a :: b :: c :: d :: r) = a.toNat * 16777216 + b.toNat * 65536 + c.toNat * 256 + d.toNat := rfl
theorem b4_len (n : Nat) : (b4 n).length = 4 := rfl
theorem vl_b4 (n : Nat) (hn : n ≤ 2000000000) (r : List UInt8) : vl (b4 n ++ r) = n := by
  have h0 := u8_val ((n : Int) / 16777216)
  have h1 := u8_val ((n : Int) / 65536)
  have h2 := u8_val ((n : Int) / 256)
  have h3 := u8_val (n : Int)
  show (u8 ((n : Int) / 16777216)).toNat * 16777216 + (u8 ((n : Int) / 65536)).toNat * 65536 + (u8 ((n : Int) / 256)).toNat * 256 + (u8 (n : Int)).toNat = n
  omega
theorem putB_list (b : ByteArray) : (putB b).data.toList = b4 b.size ++ (chk b.data.toList ++ b.data.toList) := by
  unfold putB
  simp
theorem putB_size (b : ByteArray) : (putB b).size = 8 + b.size := by
  rw [← str_len, putB_list, List.length_append, List.length_append, b4_len, chk_len, str_len]; omega
section
variable {b T : ByteArray} {X : List UInt8}
/-- Bytes that begin as a record does: the checksum, the body. -/
theorem fr_parts (hb : b.size ≤ 2000000000) (hT : T.data.toList = b4 b.size ++ (chk b.data.toList ++ b.data.toList) ++ X) :
    val4 T = b.size ∧ T.size = 8 + b.size + X.length ∧ T.extract 4 8 = ⟨(chk b.data.toList).toArray⟩ ∧ T.extract 8 (8 + b.size) = b := by
  have hcl := chk_len b.data.toList
  refine ⟨?_, ?_, ?_, ?_⟩
  · rw [val4_vl, hT, List.append_assoc, vl_b4 _ hb]
  · rw [← str_len, hT, List.length_append, List.length_append, List.length_append, b4_len, hcl, str_len]; omega
  · apply ba_eq
    rw [ext_list, hT, List.append_assoc, ← b4_len b.size, List.drop_left, List.append_assoc]
    show List.take 4 _ = _
    rw [← hcl, List.take_left]
  · apply ba_eq
    rw [ext_list, hT, ← List.append_assoc (b4 b.size), List.append_assoc _ _ X]
    have h8 : (b4 b.size ++ chk b.data.toList).length = 8 := by rw [List.length_append, b4_len, hcl]
    rw [← h8, List.drop_left, h8, show 8 + b.size - 8 = b.data.toList.length by rw [str_len]; omega, List.take_left]
theorem open_whole (hb : b.size ≤ 2000000000) : openFr (putB b) = (b, 0) := by
  obtain ⟨h1, h2, h3, h4⟩ := fr_parts (X := []) hb (by rw [putB_list, List.append_nil])
  simp only [List.length_nil, Nat.add_zero] at h2
  rw [openFr_eq, h1, h4, h3, if_neg (by omega), if_neg (by omega), if_neg (by omega), if_pos rfl, if_neg (by omega)]
theorem open_more (hb : b.size ≤ 2000000000) (m : ByteArray) (hm : 0 < m.size) : openFr (putB b ++ m) = (⟨#[]⟩, 3) := by
  obtain ⟨h1, h2, h3, h4⟩ := fr_parts (T := putB b ++ m) (X := m.data.toList) hb (by rw [← putB_list]; simp)
  rw [str_len] at h2
  rw [openFr_eq, h1, h4, h3, if_neg (by omega), if_neg (by omega), if_neg (by omega), if_pos rfl, if_pos (by omega)]
theorem open_cut (hb : b.size ≤ 2000000000) {c : Nat} (hc : c < 8 + b.size) : openFr ((putB b).extract 0 c) = (⟨#[]⟩, 2) := by
  have hsz : ((putB b).extract 0 c).size = c := by
    have := putB_size b
    simp; omega
  have hl : ((putB b).extract 0 c).data.toList = (putB b).data.toList.take c := by rw [ext_list]; simp
  rw [openFr_eq, hsz]
  by_cases h8 : c < 8
  · rw [if_pos h8]
  have hv : val4 ((putB b).extract 0 c) = b.size := by
    rw [val4_vl, hl, putB_list]
    have h4 : c = (b4 b.size).length + (c - 4) := by rw [b4_len]; omega
    rw [h4, List.take_length_add_append, vl_b4 _ hb]
  rw [hv, if_neg h8, if_neg (by omega), if_pos hc]
theorem set_list (l : List UInt8) {k : Nat} (hk : k < l.length) {x : UInt8} : (l.set k x).length = l.length := by simp
/-- A record with one of its first eight bytes another one. -/
theorem open_turned (hb : b.size ≤ 2000000000) {k : Nat} {y : UInt8} (hk : k < 8) (hT : T.data.toList = (putB b).data.toList.set k y) (hy : (putB b).data.toList[k]? ≠ some y) :
    (openFr T).2 ≠ 0 ∧ (4 ≤ k → (openFr T).2 = 5) := by
  have hcl := chk_len b.data.toList
  have hsz : T.size = 8 + b.size := by rw [← str_len, hT, List.length_set, str_len, putB_size]
  rw [putB_list] at hT hy
  by_cases h4 : 4 ≤ k
  · have hset : (b4 b.size ++ (chk b.data.toList ++ b.data.toList)).set k y = b4 b.size ++ ((chk b.data.toList).set (k - 4) y ++ b.data.toList) := by
      rw [List.set_append_right _ _ (by rw [b4_len]; exact h4), b4_len, List.set_append_left _ _ (by omega)]
    rw [hset] at hT
    have hv : val4 T = b.size := by rw [val4_vl, hT, vl_b4 _ hb]
    have hcl' : ((chk b.data.toList).set (k - 4) y).length = 4 := by rw [List.length_set, hcl]
    have he1 : T.extract 8 (8 + b.size) = b := by
      apply ba_eq
      rw [ext_list, hT, ← List.append_assoc (b4 b.size)]
      have h8 : (b4 b.size ++ (chk b.data.toList).set (k - 4) y).length = 8 := by rw [List.length_append, b4_len, hcl']
      rw [← h8, List.drop_left, h8, show 8 + b.size - 8 = b.data.toList.length by rw [str_len]; omega, List.take_length]
    have he2 : (T.extract 4 8).data.toList = (chk b.data.toList).set (k - 4) y := by
      rw [ext_list, hT]
      show List.take 4 ((chk b.data.toList).set (k - 4) y ++ b.data.toList) = _
      rw [List.take_append_of_le_length (by omega), List.take_of_length_le (by omega)]
    have hne : T.extract 4 8 ≠ ⟨(chk b.data.toList).toArray⟩ := fun e => by
      have e2 := congrArg (fun a : ByteArray => a.data.toList) e
      simp only at e2
      rw [he2] at e2
      apply hy
      rw [List.getElem?_append_right (by rw [b4_len]; exact h4), b4_len, List.getElem?_append_left (by omega)]
      have e3 : (chk b.data.toList)[k - 4]? = ((chk b.data.toList).set (k - 4) y)[k - 4]? := by rw [e2]
      rw [e3, List.getElem?_set_self (by omega)]
    rw [openFr_eq, hv, he1, if_neg (by omega), if_neg (by omega), if_neg (by omega), if_neg hne]
    exact ⟨by decide, fun _ => rfl⟩
  · have hset : (b4 b.size ++ (chk b.data.toList ++ b.data.toList)).set k y = (b4 b.size).set k y ++ (chk b.data.toList ++ b.data.toList) := by
      rw [List.set_append_left _ _ (by rw [b4_len]; omega)]
    rw [List.getElem?_append_left (by rw [b4_len]; omega)] at hy
    rw [hset] at hT
    have hv : val4 T ≠ b.size := by
      rw [val4_vl, hT]
      have hvb := vl_b4 b.size hb []
      rw [List.append_nil] at hvb
      obtain ⟨a0, a1, a2, a3, hab⟩ : ∃ a0 a1 a2 a3, b4 b.size = [a0, a1, a2, a3] := ⟨_, _, _, _, rfl⟩
      rw [hab] at hy hvb ⊢
      rw [vl_cons] at hvb
      have t0 := a0.toNat_lt; have t1 := a1.toNat_lt; have t2 := a2.toNat_lt; have t3 := a3.toNat_lt; have ty := y.toNat_lt
      have hne : ∀ a : UInt8, a ≠ y → a.toNat ≠ y.toNat := fun a h e => h (UInt8.toNat_inj.1 e)
      rcases (show k = 0 ∨ k = 1 ∨ k = 2 ∨ k = 3 by omega) with rfl | rfl | rfl | rfl
      · have := hne a0 (fun e => hy (by rw [e]; rfl))
        rw [show ([a0, a1, a2, a3] : List UInt8).set 0 y = [y, a1, a2, a3] from rfl]
        simp only [List.cons_append, List.nil_append, vl_cons]
        omega
      · have := hne a1 (fun e => hy (by rw [e]; rfl))
        rw [show ([a0, a1, a2, a3] : List UInt8).set 1 y = [a0, y, a2, a3] from rfl]
        simp only [List.cons_append, List.nil_append, vl_cons]
        omega
      · have := hne a2 (fun e => hy (by rw [e]; rfl))
        rw [show ([a0, a1, a2, a3] : List UInt8).set 2 y = [a0, a1, y, a3] from rfl]
        simp only [List.cons_append, List.nil_append, vl_cons]
        omega
      · have := hne a3 (fun e => hy (by rw [e]; rfl))
        rw [show ([a0, a1, a2, a3] : List UInt8).set 3 y = [a0, a1, a2, y] from rfl]
        simp only [List.cons_append, List.nil_append, vl_cons]
        omega
    refine ⟨?_, fun h => absurd h h4⟩
    rw [openFr_eq, if_neg (by omega)]
    split
    · exact (by decide)
    split
    · exact (by decide)
    split
    · rw [if_pos (by omega)]; exact (by decide)
    · exact (by decide)
end
end Go.Proofs.YtfikbaoiialfeaaDoor
