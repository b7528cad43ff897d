/- What messages cost together. -/
import Derived.Test.YthipnkbfdkmhaaaMsg7
import Derived.WalkKit
import Derived.ProofKit
import Derived.Handy
import Derived.Below
import Derived.Lib.Hide
import Derived.IntWalk
import Derived.Outline
import Derived.WalkLawsBesides
import Derived.WalkSpells
namespace Go.Proofs.Ythipnkbfdkmhaaa
open Go.RowKit
attribute [local go_sem] strV
set_option linter.unusedVariables false

def MsgV.cellsL (m : MsgV) : List Value := m.row.toList
theorem MsgV.cells_len (m : MsgV) : m.cellsL.length = 50 := by unfold MsgV.cellsL; rw [Array.length_toList, MsgV.row_size]
theorem msg_range {w : World} {a : Option Addr} {xs : List MsgV} (h : RowAt w a (xs.flatMap MsgV.cellsL)) {k : Nat} (hk : k < xs.length) :
    ∃ b off, a = some ⟨b, off, none⟩ ∧ b < w.heap.size ∧ w.rangeAt b (off + k * 50) xs[k].row.toList := by
  obtain ⟨b, off, ha, hb, hc⟩ := h.elem MsgV.cells_len hk (by decide)
  refine ⟨b, off, ha, hb, fun j v hv => ?_⟩
  have hj : j < 50 := by have := (List.getElem?_eq_some_iff.1 hv).1; rw [Array.length_toList, MsgV.row_size] at this; exact this
  rw [Nat.add_assoc, hc j hj]
  exact hv
def sumP (l : List MsgV) : Int := (l.map priceM).sum
theorem price_rng {m : MsgV} (hl : lightM m = true) : 0 ≤ priceM m ∧ priceM m ≤ 40000 := by
  obtain ⟨_, l2, l3⟩ := light_msg hl
  obtain ⟨p1, p2, p3⟩ := light_pf l2
  obtain ⟨c1, c2, c3⟩ := light_pf l3
  have := msgS_le m
  unfold priceM
  split <;> omega
theorem sumP_take {l : List MsgV} {k : Nat} (h : k < l.length) : sumP (l.take (k + 1)) = sumP (l.take k) + priceM l[k] := by
  unfold sumP
  rw [List.take_succ_eq_append_getElem h, List.map_append, List.sum_append, List.map_cons, List.map_nil, List.sum_cons, List.sum_nil]
  omega
theorem sumP_rng {l : List MsgV} (h : ∀ m ∈ l, lightM m = true) : ∀ k, 0 ≤ sumP (l.take k) ∧ sumP (l.take k) ≤ 40000 * (k : Int) := fun k => by
  induction k with
  | zero => simp [sumP]
  | succ k ih =>
    by_cases hk : k < l.length
    · rw [sumP_take hk]
      have := price_rng (h _ (List.getElem_mem hk))
      omega
    · rw [List.take_of_length_le (by omega)] at ih ⊢
      omega
set_option maxRecDepth 100000 in
set_option maxHeartbeats 2000000 in
theorem total_any (a : Option Addr) (n cap : Nat) (ms : List MsgV) (w : World) (hr : RowAt w a (ms.flatMap MsgV.cellsL)) (hok : ∀ m ∈ ms, m.ok w) (hl : ∀ m ∈ ms, lightM m = true) (hn : ms.length = n) (hn70 : n ≤ 70) :
    Calls Try.prog 36 #[.slice a n cap] w fun e w' => e = .returned (.int .i64 (sumP ms)) ∧ Below w.heap.size w w' := by
  have HN := Lib.hid hn
  have hsr := sumP_rng hl
  obtain ⟨S, hS⟩ : ∃ S, sumP ms = S := ⟨_, rfl⟩
  rw [hS]
  have HS := Lib.hid hS
  clear hn hS
  go_enter Try.func36, Try.ntmps36
  go_upto_region 3 with fail
  go_loopw [3, 8] (fun s i wr => ∃ k : Nat, k ≤ n ∧ i = .int .i64 k ∧ s = .int .i64 (sumP (ms.take k)) ∧ Below w.heap.size w wr) (fun _ i _ => n - (intOf i).toNat)
  case atStart => exact ⟨0, Nat.zero_le _, rfl, by simp [sumP], Below.refl _ _⟩
  case round =>
    obtain ⟨k, hk, rfl, rfl, hbel⟩ := hrel
    by_cases hlt : k < n
    · have d1 : decide ((k : Int) < (n : Int)) = true := decide_eq_true (by omega)
      have d1n : decide (k < n) = true := decide_eq_true hlt
      have hkl : k < ms.length := by rw [HN.out]; exact hlt
      obtain ⟨b1, o1, rfl, hb1, hg1⟩ := msg_range (hr.below hbel) hkl
      have ok1 := (hok _ (List.getElem_mem hkl)).below hbel
      have hl1 := hl _ (List.getElem_mem hkl)
      have hst := sumP_take hkl
      obtain ⟨m, hm9⟩ : ∃ m, ms[k] = m := ⟨_, rfl⟩
      rw [hm9] at hg1 ok1 hst hl1
      have hpr := price_rng hl1
      have hsk := hsr k
      obtain ⟨t, ht⟩ : ∃ t, sumP (ms.take k) = t := ⟨_, rfl⟩
      rw [ht] at hst hsk
      simp only [ht]
      obtain ⟨p, hp⟩ : ∃ t, priceM m = t := ⟨_, rfl⟩
      have HST : Hid (sumP (ms.take (k + 1)) = t + p) := Lib.hid (by rw [hst, hp])
      have CP := fun W (hb : Below wr.heap.size wr W) => price_light m W (ok1.below hb) hl1
      simp only [hp] at CP
      rw [hp] at hpr
      clear hm9 hst ht hp
      have n0 : (0 : Int) ≤ (k : Int) := by omega
      have n1' : (k : Int) < (n : Int) := by omega
      have n2' : ((k : Nat) : Int).toNat = k := by omega
      go_upto_region 5 with (first | (refine wpList_load_mid rfl 34 (.tmp 10) rfl b1 _ rfl m.row.toList _ hg1 Try.underlying34 rfl (msg_info _) ?_; rw [Array.toArray_toList]) | (refine wpList_storeRowTo (Z := m.row) rfl (.tmp 5) (.tmp 11) 34 rfl (by rw [MsgV.row_size]; kernel_rfl) rfl (by rfl) (heap_push _ _ _) (by rw [MsgV.row_size]; rfl) (MsgV.row_one _) ?_))
      refine wp_nameE _ (fun W5 hX => ?_)
      have hb5 : Below wr.heap.size wr W5 := by rw [hX]; exact below_setRow (Below.alloc (Below.refl _ _) (Nat.le_refl _) _) (Nat.le_refl _) _
      have hx : W5.heap[wr.heap.size]? = some (.cells m.row 34 (0, 0)) := by rw [hX]; exact setRow_heap _ _ _ _ _ _ (heap_push _ _ _)
      clear hX hg1
      have hbel5 := hbel.trans (hb5.mono hbel.size)
      go_wp2_with (first | (refine wpList_load_mid rfl 34 (.tmp 5) rfl wr.heap.size 0 rfl m.row.toList _ (rangeAt_row5 hx) Try.underlying34 rfl (msg_info _) ?_; rw [Array.toArray_toList]) | (go_at_call 34; refine (CP _ hb5).mono ?_; rintro e w6 ⟨rfl, hb6⟩; have hbel6 := hbel5.trans (hb6.mono hbel5.size)))
      go_roundw
      case rel => exact ⟨k + 1, by omega, by go_num, by rw [HST.out], hbel6⟩
      case measure => (simp [intOf]) <;> omega
    · have d9 : decide ((k : Int) < (n : Int)) = false := decide_eq_false (by omega)
      have d9n : decide (k < n) = false := decide_eq_false hlt
      rw [List.take_of_length_le (by rw [HN.out]; omega), HS.out]
      go_wp2
      go_returns
      exact ⟨rfl, hbel⟩
end Go.Proofs.Ythipnkbfdkmhaaa
