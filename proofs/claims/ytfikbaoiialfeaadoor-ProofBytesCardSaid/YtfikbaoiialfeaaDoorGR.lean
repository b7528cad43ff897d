/- Records: their bytes, what is read of bytes. Records out of bytes. Records: whole, with more behind, cut off, with one of the first eight bytes another one. FrameTurned, walked. -/
import Derived.Test.YtfikbaoiialfeaaDoorGS
import Derived.Test.YtfikbaoiialfeaaDoorGG
import Derived.WalkKit
import Derived.ProofKit
import Derived.Handy
import Derived.Below
import Derived.Lib.Hide
import Derived.IntWalk
import Derived.Outline
import Derived.WalkLawsBesides
import Derived.WalkSpells
import Derived.Test.YtfikbaoiialfeaaDoorGA
import Derived.Lib.ConvBytes
namespace Go.Proofs.YtfikbaoiialfeaaDoor
open Go.RowKit
attribute [local go_sem] strV
set_option linter.unusedVariables false
/-- The checksum of a body. -/
def chk (l : List UInt8) : List UInt8 := (shaF l).take 4
theorem chk_len (l : List UInt8) : (chk l).length = 4 := by unfold chk; rw [List.length_take, shaF_len]; rfl
def b4 (n : Nat) : List UInt8 := [u8 ((n : Int) / 16777216), u8 ((n : Int) / 65536), u8 ((n : Int) / 256), u8 (n : Int)]
/-- The record of a body. -/
def putB (b : ByteArray) : ByteArray := (⟨(b4 b.size).toArray⟩ ++ ⟨(chk b.data.toList).toArray⟩) ++ b
theorem conv_take {w : World} {g : Nat} {q : List UInt8} {t : TypeId} (hg : w.heap[g]? = some (.cells (hrow q) t (0, 0))) (hq : q.length = 32) :
    (convert 111 9 (.slice (some ⟨g, 0, none⟩) 4 32)).run Tryd.prog w = .ok (.string ⟨(q.take 4).toArray⟩) w := by
  have hl : (q.take 4).length = 4 := by rw [List.length_take, hq]; rfl
  have := run_convert_bytes_back (P := Tryd.prog) w 111 9 5 ⟨g, 0, none⟩ 32 (q.take 4) Tryd.underlying111 Tryd.underlying5 Tryd.underlying9 (fun j hj => by
    have hadd : (⟨g, 0, none⟩ : Addr).add j = ⟨g, j, none⟩ := by unfold Addr.add; by_cases h : j = 0 <;> simp [h]
    have hj4 : j < 4 := by rw [hl] at hj; exact hj
    rw [hadd, cell_heap hg, hrow_get (List.getElem?_eq_getElem (by omega))]
    simp)
  rwa [hl] at this
end Go.Proofs.YtfikbaoiialfeaaDoor
namespace Go.Proofs.YtfikbaoiialfeaaDoor
open Go.RowKit
attribute [local go_sem] strV
set_option linter.unusedVariables false
def byb (L : ByteArray) (i : Nat) : Nat := (L.data.toList.getD i 0).toNat
/-- The number that the first four bytes tell. -/
def val4 (L : ByteArray) : Nat := byb L 0 * 16777216 + byb L 1 * 65536 + byb L 2 * 256 + byb L 3
def nextFr (s : ByteArray) (a : Int) : ByteArray × Int × Int :=
  if a < 0 ∨ (s.size : Int) < a then (⟨#[]⟩, 0, 1)
  else
    let L := s.extract a.toNat s.size
    if L.size < 8 then (⟨#[]⟩, 0, 2)
    else if 2147483647 < val4 L then (⟨#[]⟩, 0, 4)
    else if L.size < 8 + val4 L then (⟨#[]⟩, 0, 2)
    else
      let b := L.extract 8 (8 + val4 L)
      if L.extract 4 8 = ⟨(chk b.data.toList).toArray⟩ then (b, a + 8 + val4 L, 0) else (⟨#[]⟩, 0, 5)
theorem byb_lt (L : ByteArray) (i : Nat) : byb L i < 256 := UInt8.toNat_lt _
theorem byb_get {L : ByteArray} {i : Nat} (h : i < L.size) : ∃ c : UInt8, L[i]? = some c ∧ c.toNat = byb L i ∧ L[i] = c := by
  refine ⟨L[i], getElem?_pos L i h, ?_, rfl⟩
  unfold byb
  rw [List.getD_eq_getElem?_getD, List.getElem?_eq_getElem (by rw [str_len]; exact h)]
  rfl
theorem or4 (a b c d : Nat) (ha : a < 256) (hb : b < 256) (hc : c < 256) (hd : d < 256) :
    bits .or .i64 (bits .or .i64 (bits .or .i64 ((a : Int) * 16777216) ((b : Int) * 65536)) ((c : Int) * 256)) (d : Int) = ((a * 16777216 + b * 65536 + c * 256 + d : Nat) : Int) := by
  have e1 : bits .or .i64 ((a : Int) * 16777216) ((b : Int) * 65536) = ((a * 16777216 + b * 65536 : Nat) : Int) := by
    have := i64_or_nat (a * 16777216) (b * 65536) (by omega) (by omega)
    rw [nat_join 24 (a * 16777216) (b * 65536) (by omega) (by omega)] at this
    exact this
  have e2 : bits .or .i64 ((a * 16777216 + b * 65536 : Nat) : Int) ((c : Int) * 256) = ((a * 16777216 + b * 65536 + c * 256 : Nat) : Int) := by
    have := i64_or_nat (a * 16777216 + b * 65536) (c * 256) (by omega) (by omega)
    rw [nat_join 16 (a * 16777216 + b * 65536) (c * 256) (by omega) (by omega)] at this
    exact this
  have e3 : bits .or .i64 ((a * 16777216 + b * 65536 + c * 256 : Nat) : Int) (d : Int) = ((a * 16777216 + b * 65536 + c * 256 + d : Nat) : Int) := by
    have := i64_or_nat (a * 16777216 + b * 65536 + c * 256) d (by omega) (by omega)
    rw [nat_join 8 (a * 16777216 + b * 65536 + c * 256) d (by omega) (by omega)] at this
    exact this
  rw [e1, e2, e3]
/-- What Open answers. -/
def openFr (s : ByteArray) : ByteArray × Int :=
  let x := nextFr s 0
  if x.2.2 = 0 then (if x.2.1 < (s.size : Int) then (⟨#[]⟩, 3) else (x.1, 0)) else (⟨#[]⟩, x.2.2)
end Go.Proofs.YtfikbaoiialfeaaDoor
namespace Go.Proofs.YtfikbaoiialfeaaDoor
open Go.RowKit
set_option linter.unusedVariables false
theorem ext_list (T : ByteArray) (i j : Nat) : (T.extract i j).data.toList = (T.data.toList.drop i).take (j - i) := by
  simp only [ByteArray.data_extract, Array.toList_extract, List.extract_eq_take_drop]
theorem ba_eq {a b : ByteArray} (h : a.data.toList = b.data.toList) : a = b := ByteArray.ext (Array.ext' h)
theorem openFr_eq (T : ByteArray) : openFr T = if T.size < 8 then (⟨#[]⟩, 2) else if 2147483647 < val4 T then (⟨#[]⟩, 4) else if T.size < 8 + val4 T then (⟨#[]⟩, 2)
    else if T.extract 4 8 = ⟨(chk (T.extract 8 (8 + val4 T)).data.toList).toArray⟩ then (if 8 + val4 T < T.size then (⟨#[]⟩, 3) else (T.extract 8 (8 + val4 T), 0)) else (⟨#[]⟩, 5) := by
  have hL : T.extract (0 : Int).toNat T.size = T := by
    apply ba_eq
    rw [ext_list]
    simp only [Int.toNat_zero, List.drop_zero, Nat.sub_zero]
    rw [List.take_of_length_le (by rw [str_len]; exact Nat.le_refl _)]
  have hN : nextFr T 0 = (if T.size < 8 then (⟨#[]⟩, 0, 2) else if 2147483647 < val4 T then (⟨#[]⟩, 0, 4) else if T.size < 8 + val4 T then (⟨#[]⟩, 0, 2) else if T.extract 4 8 = ⟨(chk (T.extract 8 (8 + val4 T)).data.toList).toArray⟩ then (T.extract 8 (8 + val4 T), 0 + 8 + (val4 T : Int), 0) else (⟨#[]⟩, 0, 5)) := by
    unfold nextFr
    rw [if_neg (by omega), hL]
  unfold openFr
  rw [hN]
  clear hN hL
  by_cases c1 : T.size < 8
  · simp only [if_pos c1]; rfl
  simp only [if_neg c1]
  by_cases c2 : 2147483647 < val4 T
  · simp only [if_pos c2]; rfl
  simp only [if_neg c2]
  by_cases c3 : T.size < 8 + val4 T
  · simp only [if_pos c3]; rfl
  simp only [if_neg c3]
  by_cases c4 : T.extract 4 8 = ⟨(chk (T.extract 8 (8 + val4 T)).data.toList).toArray⟩
  · simp only [if_pos c4]
    rw [if_pos trivial]
    by_cases c5 : 8 + val4 T < T.size
    · rw [if_pos (by omega), if_pos c5]
    · rw [if_neg (by omega), if_neg c5]
  · simp only [if_neg c4]; rfl
def vl (l : List UInt8) : Nat := (l.getD 0 0).toNat * 16777216 + (l.getD 1 0).toNat * 65536 + (l.getD 2 0).toNat * 256 + (l.getD 3 0).toNat
theorem val4_vl (T : ByteArray) : val4 T = vl T.data.toList := rfl
theorem vl_cons (a b c d : UInt8) (r : List UInt8) : vl (a :: b :: c :: d :: r) = a.toNat * 16777216 + b.toNat * 65536 + c.toNat * 256 + d.toNat := rfl
theorem b4_len (n : Nat) : (b4 n).length = 4 := rfl
theorem vl_b4 (n : Nat) (hn : n ≤ 2000000000) (r : List UInt8) : vl (b4 n ++ r) = n := by
  have h0 := u8_val ((n : Int) / 16777216)
  have h1 := u8_val ((n : Int) / 65536)
  have h2 := u8_val ((n : Int) / 256)
  have h3 := u8_val (n : Int)
  show (u8 ((n : Int) / 16777216)).toNat * 16777216 + (u8 ((n : Int) / 65536)).toNat * 65536 + (u8 ((n : Int) / 256)).toNat * 256 + (u8 (n : Int)).toNat = n
  omega
theorem putB_list (b : ByteArray) : (putB b).data.toList = b4 b.size ++ (chk b.data.toList ++ b.data.toList) := by
  unfold putB
  simp
theorem putB_size (b : ByteArray) : (putB b).size = 8 + b.size := by
  rw [← str_len, putB_list, List.length_append, List.length_append, b4_len, chk_len, str_len]; omega
section
variable {b T : ByteArray} {X : List UInt8}
/-- Bytes that begin as a record does: the checksum, the body. -/
theorem fr_parts (hb : b.size ≤ 2000000000) (hT : T.data.toList = b4 b.size ++ (chk b.data.toList ++ b.data.toList) ++ X) :
    val4 T = b.size ∧ T.size = 8 + b.size + X.length ∧ T.extract 4 8 = ⟨(chk b.data.toList).toArray⟩ ∧ T.extract 8 (8 + b.size) = b := by
  have hcl := chk_len b.data.toList
  refine ⟨?_, ?_, ?_, ?_⟩
  · rw [val4_vl, hT, List.append_assoc, vl_b4 _ hb]
  · rw [← str_len, hT, List.length_append, List.length_append, List.length_append, b4_len, hcl, str_len]; omega
  · apply ba_eq
    rw [ext_list, hT, List.append_assoc, ← b4_len b.size, List.drop_left, List.append_assoc]
    show List.take 4 _ = _
    rw [← hcl, List.take_left]
  · apply ba_eq
    rw [ext_list, hT, ← List.append_assoc (b4 b.size), List.append_assoc _ _ X]
    have h8 : (b4 b.size ++ chk b.data.toList).length = 8 := by rw [List.length_append, b4_len, hcl]
    rw [← h8, List.drop_left, h8, show 8 + b.size - 8 = b.data.toList.length by rw [str_len]; omega, List.take_left]
theorem open_whole (hb : b.size ≤ 2000000000) : openFr (putB b) = (b, 0) := by
  obtain ⟨h1, h2, h3, h4⟩ := fr_parts (X := []) hb (by rw [putB_list, List.append_nil])
  simp only [List.length_nil, Nat.add_zero] at h2
  rw [openFr_eq, h1, h4, h3, if_neg (by omega), if_neg (by omega), if_neg (by omega), if_pos rfl, if_neg (by omega)]
theorem open_more (hb : b.size ≤ 2000000000) (m : ByteArray) (hm : 0 < m.size) : openFr (putB b ++ m) = (⟨#[]⟩, 3) := by
  obtain ⟨h1, h2, h3, h4⟩ := fr_parts (T := putB b ++ m) (X := m.data.toList) hb (by rw [← putB_list]; simp)
  rw [str_len] at h2
  rw [openFr_eq, h1, h4, h3, if_neg (by omega), if_neg (by omega), if_neg (by omega), if_pos rfl, if_pos (by omega)]
theorem open_cut (hb : b.size ≤ 2000000000) {c : Nat} (hc : c < 8 + b.size) : openFr ((putB b).extract 0 c) = (⟨#[]⟩, 2) := by
  have hsz : ((putB b).extract 0 c).size = c := by
    have := putB_size b
    simp; omega
  have hl : ((putB b).extract 0 c).data.toList = (putB b).data.toList.take c := by rw [ext_list]; simp
  rw [openFr_eq, hsz]
  by_cases h8 : c < 8
  · rw [if_pos h8]
  have hv : val4 ((putB b).extract 0 c) = b.size := by
    rw [val4_vl, hl, putB_list]
    have h4 : c = (b4 b.size).length + (c - 4) := by rw [b4_len]; omega
    rw [h4, List.take_length_add_append, vl_b4 _ hb]
  rw [hv, if_neg h8, if_neg (by omega), if_pos hc]
theorem set_list (l : List UInt8) {k : Nat} (hk : k < l.length) {x : UInt8} : (l.set k x).length = l.length := by simp
/-- A record with one of its first eight bytes another one. -/
theorem open_turned (hb : b.size ≤ 2000000000) {k : Nat} {y : UInt8} (hk : k < 8) (hT : T.data.toList = (putB b).data.toList.set k y) (hy : (putB b).data.toList[k]? ≠ some y) :
    (openFr T).2 ≠ 0 ∧ (4 ≤ k → (openFr T).2 = 5) := by
  have hcl := chk_len b.data.toList
  have hsz : T.size = 8 + b.size := by rw [← str_len, hT, List.length_set, str_len, putB_size]
  rw [putB_list] at hT hy
  by_cases h4 : 4 ≤ k
  · have hset : (b4 b.size ++ (chk b.data.toList ++ b.data.toList)).set k y = b4 b.size ++ ((chk b.data.toList).set (k - 4) y ++ b.data.toList) := by
      rw [List.set_append_right _ _ (by rw [b4_len]; exact h4), b4_len, List.set_append_left _ _ (by omega)]
    rw [hset] at hT
    have hv : val4 T = b.size := by rw [val4_vl, hT, vl_b4 _ hb]
    have hcl' : ((chk b.data.toList).set (k - 4) y).length = 4 := by rw [List.length_set, hcl]
    have he1 : T.extract 8 (8 + b.size) = b := by
      apply ba_eq
      rw [ext_list, hT, ← List.append_assoc (b4 b.size)]
      have h8 : (b4 b.size ++ (chk b.data.toList).set (k - 4) y).length = 8 := by rw [List.length_append, b4_len, hcl']
      rw [← h8, List.drop_left, h8, show 8 + b.size - 8 = b.data.toList.length by rw [str_len]; omega, List.take_length]
    have he2 : (T.extract 4 8).data.toList = (chk b.data.toList).set (k - 4) y := by
      rw [ext_list, hT]
      show List.take 4 ((chk b.data.toList).set (k - 4) y ++ b.data.toList) = _
      rw [List.take_append_of_le_length (by omega), List.take_of_length_le (by omega)]
    have hne : T.extract 4 8 ≠ ⟨(chk b.data.toList).toArray⟩ := fun e => by
      have e2 := congrArg (fun a : ByteArray => a.data.toList) e
      simp only at e2
      rw [he2] at e2
      apply hy
      rw [List.getElem?_append_right (by rw [b4_len]; exact h4), b4_len, List.getElem?_append_left (by omega)]
      have e3 : (chk b.data.toList)[k - 4]? = ((chk b.data.toList).set (k - 4) y)[k - 4]? := by rw [e2]
      rw [e3, List.getElem?_set_self (by omega)]
    rw [openFr_eq, hv, he1, if_neg (by omega), if_neg (by omega), if_neg (by omega), if_neg hne]
    exact ⟨by decide, fun _ => rfl⟩
  · have hset : (b4 b.size ++ (chk b.data.toList ++ b.data.toList)).set k y = (b4 b.size).set k y ++ (chk b.data.toList ++ b.data.toList) := by
      rw [List.set_append_left _ _ (by rw [b4_len]; omega)]
    rw [List.getElem?_append_left (by rw [b4_len]; omega)] at hy
    rw [hset] at hT
    have hv : val4 T ≠ b.size := by
      rw [val4_vl, hT]
      have hvb := vl_b4 b.size hb []
      rw [List.append_nil] at hvb
      obtain ⟨a0, a1, a2, a3, hab⟩ : ∃ a0 a1 a2 a3, b4 b.size = [a0, a1, a2, a3] := ⟨_, _, _, _, rfl⟩
      rw [hab] at hy hvb ⊢
      rw [vl_cons] at hvb
      have t0 := a0.toNat_lt; have t1 := a1.toNat_lt; have t2 := a2.toNat_lt; have t3 := a3.toNat_lt; have ty := y.toNat_lt
      have hne : ∀ a : UInt8, a ≠ y → a.toNat ≠ y.toNat := fun a h e => h (UInt8.toNat_inj.1 e)
      rcases (show k = 0 ∨ k = 1 ∨ k = 2 ∨ k = 3 by omega) with rfl | rfl | rfl | rfl
      · have := hne a0 (fun e => hy (by rw [e]; rfl))
        rw [show ([a0, a1, a2, a3] : List UInt8).set 0 y = [y, a1, a2, a3] from rfl]
        simp only [List.cons_append, List.nil_append, vl_cons]
        omega
      · have := hne a1 (fun e => hy (by rw [e]; rfl))
        rw [show ([a0, a1, a2, a3] : List UInt8).set 1 y = [a0, y, a2, a3] from rfl]
        simp only [List.cons_append, List.nil_append, vl_cons]
        omega
      · have := hne a2 (fun e => hy (by rw [e]; rfl))
        rw [show ([a0, a1, a2, a3] : List UInt8).set 2 y = [a0, a1, y, a3] from rfl]
        simp only [List.cons_append, List.nil_append, vl_cons]
        omega
      · have := hne a3 (fun e => hy (by rw [e]; rfl))
        rw [show ([a0, a1, a2, a3] : List UInt8).set 3 y = [a0, a1, a2, y] from rfl]
        simp only [List.cons_append, List.nil_append, vl_cons]
        omega
    refine ⟨?_, fun h => absurd h h4⟩
    rw [openFr_eq, if_neg (by omega)]
    split
    · exact (by decide)
    split
    · exact (by decide)
    split
    · rw [if_pos (by omega)]; exact (by decide)
    · exact (by decide)
end
end Go.Proofs.YtfikbaoiialfeaaDoor
namespace Go.Proofs.YtfikbaoiialfeaaDoor
open Go.RowKit
attribute [local go_sem] strV
set_option linter.unusedVariables false
theorem put_empty : putB ⟨#[]⟩ = ⟨#[0, 0, 0, 0, 227, 176, 196, 66]⟩ := by decide +kernel
theorem conv_cells {w : World} {g c : Nat} {q : List UInt8} (hc : ∀ j, (hj : j < q.length) → w.cell? ⟨g, j, none⟩ = some (.int .u8 (q[j].toNat : Int))) :
    (convert 111 9 (.slice (some ⟨g, 0, none⟩) q.length c)).run Tryd.prog w = .ok (.string ⟨q.toArray⟩) w :=
  run_convert_bytes_back (P := Tryd.prog) w 111 9 5 ⟨g, 0, none⟩ c q Tryd.underlying111 Tryd.underlying5 Tryd.underlying9 (fun j hj => by
    have hadd : (⟨g, 0, none⟩ : Addr).add j = ⟨g, j, none⟩ := by unfold Addr.add; by_cases h : j = 0 <;> simp [h]
    rw [hadd, hc j hj])
theorem bytes_frozen (V : World) (S : ByteArray) {k : Nat} (hk : k < S.size) : (Lib.bytesWorld V 5 S).frozen? ⟨V.heap.size, k, none⟩ = false := by
  unfold World.frozen?
  rw [Lib.bytesWorld_at_new]
  have hl : S.size ≤ (Lib.bytesCells V 5 S).size := by unfold Lib.bytesCells; simp
  simp
  omega
theorem bytes_below (V : World) (S : ByteArray) : Below V.heap.size V (Lib.bytesWorld V 5 S) :=
  ⟨rfl, rfl, rfl, by rw [Lib.bytesWorld_size]; omega, fun j hj => Lib.bytesWorld_at_old _ _ _ j hj⟩
end Go.Proofs.YtfikbaoiialfeaaDoor
