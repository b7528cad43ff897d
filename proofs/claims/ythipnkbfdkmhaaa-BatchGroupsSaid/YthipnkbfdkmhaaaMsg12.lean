/- Transactions in bytes. -/
import Derived.Test.YthipnkbfdkmhaaaMsg11
import Derived.Test.YthipnkbfdkmhaaaMsg8
import Derived.Deep.MidRow
import Derived.LoopTactic
import Derived.BigFrame
import Derived.WalkKit
import Derived.ProofKit
import Derived.Handy
import Derived.Below
import Derived.Lib.Hide
import Derived.IntWalk
import Derived.Outline
import Derived.WalkLawsBesides
import Derived.WalkSpells
namespace Go.Proofs.Ythipnkbfdkmhaaa
open Go.RowKit
attribute [local go_sem] strV
set_option linter.unusedVariables false
def txItem (m : MsgV) : List UInt8 := textB ⟨(msgBy m).toArray⟩
def txBy (ms : List MsgV) : List UInt8 := putL (ms.length : Int) ++ ms.flatMap txItem
def encTx (ms : List MsgV) : ByteArray × Int := if 64 < ms.length then (⟨#[]⟩, 22) else if ms.all mayMsgB then (⟨(txBy ms).toArray⟩, 0) else (⟨#[]⟩, 1)
theorem msgBy_le {m : MsgV} (h : mayMsgB m = true) : (msgBy m).length ≤ 6000 := by
  have := msgS_le m
  unfold msgS at this
  rw [if_pos h] at this
  have h2 : (⟨(msgBy m).toArray⟩ : ByteArray).size = (msgBy m).length := by show (msgBy m).toArray.size = _; rw [List.size_toArray]
  rw [h2] at this
  omega
theorem txItem_le {m : MsgV} (h : mayMsgB m = true) : (txItem m).length ≤ 6010 := by
  have h1 := msgBy_le h
  have h2 : (⟨(msgBy m).toArray⟩ : ByteArray).size = (msgBy m).length := by show (msgBy m).toArray.size = _; rw [List.size_toArray]
  have h3 := putL_len' (((⟨(msgBy m).toArray⟩ : ByteArray).size : Nat) : Int)
  unfold txItem textB
  rw [List.length_append, str_len, h2]
  rw [h2] at h3
  omega
theorem txItems_le : ∀ {l : List MsgV}, l.all mayMsgB = true → (l.flatMap txItem).length ≤ l.length * 6010
  | [], _ => Nat.le_refl _
  | m :: l, h => by
    rw [List.all_cons, Bool.and_eq_true] at h
    rw [List.flatMap_cons, List.length_append, List.length_cons]
    have := txItem_le h.1
    have := txItems_le h.2
    omega
theorem bytes_size (l : List UInt8) : (⟨l.toArray⟩ : ByteArray).size = l.length := by show l.toArray.size = _; rw [List.size_toArray]
set_option maxRecDepth 100000 in
set_option maxHeartbeats 6400000 in
theorem msgTx_any (a : Option Addr) (n cap : Nat) (ms : List MsgV) (w : World) (hr : RowAt w a (ms.flatMap MsgV.cellsL)) (hok : ∀ m ∈ ms, m.ok w) (hn : ms.length = n) :
    Calls Try.prog 28 #[.slice a n cap] w fun e w' => e = .returned (.tuple #[.string (encTx ms).1, .int .i64 (encTx ms).2]) ∧ Below w.heap.size w w' := by
  have HN := Lib.hid hn
  by_cases h64 : 64 < n
  · have d64 : decide (64 < (n : Int)) = true := decide_eq_true (by omega)
    rw [show encTx ms = (⟨#[]⟩, 22) by unfold encTx; rw [if_pos (by omega)]]
    go_enter Try.func28, Try.ntmps28
    go_wp2
    go_returns
    exact ⟨rfl, Below.refl _ _⟩
  have d64 : decide (64 < (n : Int)) = false := decide_eq_false (by omega)
  have HE : Hid (encTx ms = if ms.all mayMsgB then (⟨(putL (n : Int) ++ ms.flatMap txItem).toArray⟩, 0) else (⟨#[]⟩, 1)) := Lib.hid (by unfold encTx; rw [if_neg (by omega)]; unfold txBy; rw [hn])
  obtain ⟨X, hX⟩ : ∃ X, encTx ms = X := ⟨_, rfl⟩
  rw [hX] at HE ⊢
  have hp0 := putL_len' (n : Int)
  obtain ⟨P0, hP0⟩ : ∃ P, putL (n : Int) = P := ⟨_, rfl⟩
  rw [hP0] at HE hp0
  have HP0 := Lib.hid hP0
  clear hn hX hP0
  have CN := fun W (h : WAt w.heap.size w.heap.size W [] 0) (hb : w.heap.size ≤ W.heap.size) => wnum_k w.heap.size w.heap.size W [] n h hb (by omega) (by simp)
  rw [HP0.out] at CN
  simp only [List.nil_append] at CN
  go_enter Try.func28, Try.ntmps28
  go_upto_region 4 with (go_at_call 48; refine (wnew_any w.heap.size _ (Nat.le_refl _)).mono ?_; rintro e w3 ⟨rfl, hW, hbel⟩)
  go_upto_region 6 with (go_at_call 76; refine (CN _ hW hbel.size).mono ?_; rintro e w4 ⟨rfl, hW, hb4, _⟩; have hbel := hbel.trans hb4)
  clear CN
  go_loopw [19] (fun i wr => ∃ k : Nat, k ≤ n ∧ i = .int .i64 k ∧ Hid ((ms.take k).all mayMsgB = true) ∧ WAt w.heap.size w.heap.size wr (P0 ++ (ms.take k).flatMap txItem) 0 ∧ Below w.heap.size w wr) (fun i _ => n - (intOf i).toNat)
  case atStart => exact ⟨0, Nat.zero_le _, rfl, Lib.hid rfl, by simpa using hW, hbel⟩
  case round =>
    clear hW hbel
    obtain ⟨k, hk, rfl, HA, hW, hbel⟩ := hrel
    by_cases hlt : k < n
    · have d1 : decide ((k : Int) < (n : Int)) = true := decide_eq_true (by omega)
      have d1n : decide (k < n) = true := decide_eq_true hlt
      have hkl : k < ms.length := by rw [HN.out]; exact hlt
      obtain ⟨b1, o1, rfl, hb1, hg1⟩ := msg_range (hr.below hbel) hkl
      have ok1 := (hok _ (List.getElem_mem hkl)).below hbel
      have hta := all_takeL (p := mayMsgB) hkl
      have hft := flat_takeB (f := txItem) hkl
      have hbd := fun h => all_badL (p := mayMsgB) hkl h
      have hle : ((ms.take k).flatMap txItem).length ≤ 64 * 6010 := by
        have := txItems_le HA.out
        rw [List.length_take] at this
        have : min k ms.length ≤ 64 := by omega
        omega
      obtain ⟨m, hm9⟩ : ∃ m, ms[k] = m := ⟨_, rfl⟩
      rw [hm9] at hg1 ok1 hta hft hbd
      obtain ⟨L0, hL0⟩ : ∃ L, (ms.take k).flatMap txItem = L := ⟨_, rfl⟩
      rw [hL0] at hft hle hW
      have HTA := Lib.hid hta
      have HFT := Lib.hid hft
      have CE := fun W (hb : Below wr.heap.size wr W) => msgEncode_any m W (ok1.below hb)
      clear hm9 hL0 hta hft
      have n0 : (0 : Int) ≤ (k : Int) := by omega
      have n1' : (k : Int) < (n : Int) := by omega
      have n2' : ((k : Nat) : Int).toNat = k := by omega
      go_upto_region 8 with (first | (refine wpList_load_mid rfl 34 (.tmp 21) rfl b1 _ rfl m.row.toList _ hg1 Try.underlying34 rfl (msg_info _) ?_; rw [Array.toArray_toList]) | (refine wpList_storeRowTo (Z := m.row) rfl (.tmp 6) (.tmp 22) 34 rfl (by rw [MsgV.row_size]; kernel_rfl) rfl (by rfl) (heap_push _ _ _) (by rw [MsgV.row_size]; rfl) (MsgV.row_one _) ?_))
      refine wp_nameE _ (fun W5 hX => ?_)
      have hb5 : Below wr.heap.size wr W5 := by rw [hX]; exact below_setRow (Below.alloc (Below.refl _ _) (Nat.le_refl _) _) (Nat.le_refl _) _
      have hx : W5.heap[wr.heap.size]? = some (.cells m.row 34 (0, 0)) := by rw [hX]; exact setRow_heap _ _ _ _ _ _ (heap_push _ _ _)
      clear hX hg1
      have hbel5 := hbel.trans (hb5.mono hbel.size)
      have hW := hW.below hb5
      cases hM : mayMsgB m
      · rw [show encMsg m = .tuple #[.string ⟨#[]⟩, .int .i64 1] by unfold encMsg; rw [hM]; rfl] at CE
        have hE : X = (⟨#[]⟩, 1) := by rw [HE.out, hbd hM]; rfl
        subst hE
        go_wp2_with (first | (refine wpList_load_mid rfl 34 (.tmp 6) rfl wr.heap.size 0 rfl m.row.toList _ (rangeAt_row5 hx) Try.underlying34 rfl (msg_info _) ?_; rw [Array.toArray_toList]) | (go_at_call 16; refine (CE _ hb5).mono ?_; rintro e w6 ⟨rfl, hb6⟩; have hbel6 := hbel5.trans (hb6.mono hbel5.size)))
        go_returns
        exact ⟨rfl, hbel6⟩
      · rw [show encMsg m = .tuple #[.string ⟨(msgBy m).toArray⟩, .int .i64 0] by unfold encMsg; rw [hM]; rfl] at CE
        have hml := msgBy_le hM
        have hsz : (⟨(msgBy m).toArray⟩ : ByteArray).size ≤ 1000000 := by rw [bytes_size]; omega
        have HT : Hid (txItem m = putL (((⟨(msgBy m).toArray⟩ : ByteArray).size : Nat) : Int) ++ (⟨(msgBy m).toArray⟩ : ByteArray).data.toList) := Lib.hid rfl
        obtain ⟨S, hS⟩ : ∃ S : ByteArray, (⟨(msgBy m).toArray⟩ : ByteArray) = S := ⟨_, rfl⟩
        rw [hS] at CE hsz HT
        have CT := fun W (h : WAt w.heap.size w.heap.size W (P0 ++ L0) 0) (hb : w.heap.size ≤ W.heap.size) => wtext_k w.heap.size w.heap.size W (P0 ++ L0) S h hb hsz (by rw [List.length_append]; omega)
        clear hS hml
        go_wp2_with (first | (refine wpList_load_mid rfl 34 (.tmp 6) rfl wr.heap.size 0 rfl m.row.toList _ (rangeAt_row5 hx) Try.underlying34 rfl (msg_info _) ?_; rw [Array.toArray_toList]) | (go_at_call 16; refine (CE _ hb5).mono ?_; rintro e w6 ⟨rfl, hb6⟩; have hbel6 := hbel5.trans (hb6.mono hbel5.size); have hW6 := hW.below hb6) | (go_at_call 77; refine (CT _ hW6 hbel6.size).mono ?_; rintro e w7 ⟨rfl, hW7, hb7, _⟩; have hbel7 := hbel6.trans hb7))
        go_roundw
        case rel => exact ⟨k + 1, by omega, by go_num, Lib.hid (by rw [HTA.out, HA.out, hM]; rfl), by rw [HFT.out, HT.out, ← List.append_assoc, ← List.append_assoc]; exact hW7, hbel7⟩
        case measure => (simp [intOf]) <;> omega
    · have d9 : decide ((k : Int) < (n : Int)) = false := decide_eq_false (by omega)
      have d9n : decide (k < n) = false := decide_eq_false hlt
      have hA := HA.out
      rw [List.take_of_length_le (by rw [HN.out]; omega)] at hA hW
      have hE : X = (⟨(P0 ++ ms.flatMap txItem).toArray⟩, 0) := by rw [HE.out, hA]; rfl
      subst hE
      clear hA
      go_wp2_with (go_at_call 50; refine (wbytes_rd w.heap.size _ _ _ hW.rd hbel.size).mono ?_; rintro e w9 ⟨rfl, hW9, hb9⟩; have hbel := hbel.trans hb9)
      go_returns
      exact ⟨rfl, hbel⟩
end Go.Proofs.Ythipnkbfdkmhaaa
