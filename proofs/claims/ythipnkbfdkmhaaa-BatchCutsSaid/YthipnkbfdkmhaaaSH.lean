/- gas.New, Take, Left, Used and the law GasMeter. GasMore: a longer answer costs more, by just so much. The document's own reader: numbers and texts, and what they keep. The document's reader: hashes, counts, packets; all but its own block is kept. The document's reader: proofs. The document's messages out of bytes, kind by kind. The document's transactions in bytes. The messages of a transaction, by the document. The document's steps and prices. The document's Fits (ligref22.Fits). -/
import Derived.Test.YthipnkbfdkmhaaaRows
import Derived.Test.YthipnkbfdkmhaaaSA
import Derived.WalkKit
import Derived.ProofKit
import Derived.Handy
import Derived.Below
import Derived.Lib.Hide
import Derived.IntWalk
import Derived.Outline
import Derived.WalkLawsBesides
import Derived.WalkSpells
import Derived.Test.YthipnkbfdkmhaaaSE
import Derived.BigQuiet
import Derived.Test.YthipnkbfdkmhaaaGB
import Derived.Test.YthipnkbfdkmhaaaGC
import Derived.Test.YthipnkbfdkmhaaaSD
import Derived.Test.YthipnkbfdkmhaaaPf3
import Derived.BigRegion
import Derived.RegionTactic
import Derived.Deep.QuietTactic
import Derived.Laws.Tables
import Derived.Laws.Rows
import Derived.Laws.Cells
import Derived.Deep.MidRow
import Derived.LoopTactic
import Derived.BigFrame
import Derived.Test.YthipnkbfdkmhaaaGE
import Derived.Deep.Upon
import Derived.Test.YthipnkbfdkmhaaaGF
import Derived.Test.YthipnkbfdkmhaaaBt3
import Derived.Test.YthipnkbfdkmhaaaSF
namespace Go.Proofs.Ythipnkbfdkmhaaa
open Go.RowKit

/-- A meter at block B: its limit and what is used. -/
structure MeterAt (w : World) (B : Nat) (L U : Int) : Prop where
  c0 : w.cell? ⟨B, 0, none⟩ = some (.int .i64 L)
  c1 : w.cell? ⟨B, 1, none⟩ = some (.int .i64 U)
  f1 : w.frozen? ⟨B, 1, none⟩ = false
  lt : B < w.heap.size

theorem MeterAt.below {w w' : World} {B : Nat} {L U : Int} (h : MeterAt w B L U) (hb : Below w.heap.size w w') : MeterAt w' B L U :=
  ⟨(hb.cell h.lt).trans h.c0, (hb.cell h.lt).trans h.c1, (hb.frozen h.lt).trans h.f1, Nat.lt_of_lt_of_le h.lt hb.size⟩
theorem MeterAt.store {w : World} {B : Nat} {L U : Int} (h : MeterAt w B L U) (V : Int) : MeterAt (w.setCell ⟨B, 1, none⟩ (.int .i64 V)) B L V := by
  obtain ⟨h1, h2, h3, h4⟩ := h
  exact ⟨by go_simp, by go_simp, by go_simp, by simpa [World.setCell] using h4⟩


end Go.Proofs.Ythipnkbfdkmhaaa
namespace Go.Proofs.Ythipnkbfdkmhaaa
open Go.RowKit
attribute [local go_sem] strV
set_option linter.unusedVariables false

def MsgV.more (m : MsgV) : MsgV := { m with ack := m.ack ++ (⟨#[120]⟩ : ByteArray) }
end Go.Proofs.Ythipnkbfdkmhaaa
namespace Go.Proofs.Ythipnkbfdkmhaaa
open Go.RowKit
attribute [local go_sem] strV
end Go.Proofs.Ythipnkbfdkmhaaa
namespace Go.Proofs.Ythipnkbfdkmhaaa
open Go.RowKit
attribute [local go_sem] strV
set_option linter.unusedVariables false
end Go.Proofs.Ythipnkbfdkmhaaa
namespace Go.Proofs.Ythipnkbfdkmhaaa
open Go.RowKit
attribute [local go_sem] strV
set_option linter.unusedVariables false
theorem QAt.drew {b : Nat} {w : World} {s : ByteArray} {A E : Int} (h : QAt b w s A E) (n : Nat) : QAt b { w with drawn := w.drawn + n } s A E := h
/-- How far a list has been read: an error stays. -/
def Sofar {α : Type} (PP : ByteArray → Int → Int → α × Int × Int) (N k : Nat) (s : ByteArray) (a0 e0 : Int) (xs : List α) (ak ek : Int) : Prop :=
  (ek = 0 → listP PP N s a0 e0 = (xs ++ (listP PP (N - k) s ak 0).1, (listP PP (N - k) s ak 0).2)) ∧ (ek ≠ 0 → (listP PP N s a0 e0).2.2 = ek)
theorem Sofar.next {α : Type} {PP : ByteArray → Int → Int → α × Int × Int} (hst : ∀ s a e, e ≠ 0 → (PP s a e).2.2 = e) {N k : Nat} {s : ByteArray} {a0 e0 : Int} {xs : List α} {ak : Int} (h : Sofar PP N k s a0 e0 xs ak 0) (hk : k < N) {q : α} {an en bn : Int} (hx : (PP s ak 0).2.2 = en) (hq : en = 0 → (PP s ak 0).1 = q ∧ (PP s ak 0).2.1 = bn) :
    Sofar PP N (k + 1) s a0 e0 (xs ++ [q]) bn en := by
  have h0 := h.1 rfl
  have hs := listP_step (P := PP) (s := s) hk (show PP s ak 0 = ((PP s ak 0).1, (PP s ak 0).2.1, (PP s ak 0).2.2) from rfl)
  refine ⟨fun he => ?_, fun he => ?_⟩
  · obtain ⟨q1, q2⟩ := hq he
    rw [h0, hs, hx, he, q1, q2]
    simp
  · rw [h0, hs]
    simp only
    rw [hx]
    exact listP_stay hst _ _ _ _ he
theorem Sofar.done {α : Type} {PP : ByteArray → Int → Int → α × Int × Int} {N : Nat} {s : ByteArray} {a0 e0 : Int} {xs : List α} {ak : Int} (h : Sofar PP N N s a0 e0 xs ak 0) : listP PP N s a0 e0 = (xs, ak, 0) := by
  rw [h.1 rfl, Nat.sub_self]
  simp [listP]
end Go.Proofs.Ythipnkbfdkmhaaa
namespace Go.Proofs.Ythipnkbfdkmhaaa
open Go.RowKit
attribute [local go_sem] strV
set_option linter.unusedVariables false
theorem QAt.cells {b g : Nat} {w : World} {s : ByteArray} {A E : Int} (h : QAt b w s A E) (hne : g ≠ b) (o : Nat) (vs : List Value) : QAt b (w.setCells g o vs) s A E := by
  unfold QAt at h ⊢
  rw [setCells_oth vs o hne]; exact h
end Go.Proofs.Ythipnkbfdkmhaaa
namespace Go.Proofs.Ythipnkbfdkmhaaa
open Go.RowKit
attribute [local go_sem] strV
set_option linter.unusedVariables false
set_option maxRecDepth 100000 in
set_option maxHeartbeats 6400000 in
theorem refTx_any (a : Option Addr) (n cap : Nat) (ms : List MsgV) (w : World) (hr : RowAt w a (ms.flatMap MsgV.cellsL)) (hok : ∀ m ∈ ms, m.ok w) (hn : ms.length = n) :
    Calls Try.prog 29 #[.slice a n cap] w fun e w' => e = .returned (.tuple #[.string (encTx ms).1, .int .i64 (encTx ms).2]) ∧ Below w.heap.size w w' := by
  have HN := Lib.hid hn
  by_cases h64 : 64 < n
  · have d64 : decide (64 < (n : Int)) = true := decide_eq_true (by omega)
    rw [show encTx ms = (⟨#[]⟩, 22) by unfold encTx; rw [if_pos (by omega)]]
    go_enter Try.func29, Try.ntmps29
    go_wp2
    go_returns
    exact ⟨rfl, Below.refl _ _⟩
  have d64 : decide (64 < (n : Int)) = false := decide_eq_false (by omega)
  have HE : Hid (encTx ms = if ms.all mayMsgB then (⟨(putL (n : Int) ++ ms.flatMap txItem).toArray⟩, 0) else (⟨#[]⟩, 1)) := Lib.hid (by unfold encTx; rw [if_neg (by omega)]; unfold txBy; rw [hn])
  obtain ⟨X, hX⟩ : ∃ X, encTx ms = X := ⟨_, rfl⟩
  rw [hX] at HE ⊢
  have hp0 := putL_len' (n : Int)
  have PN := fun W => putNum_any (n : Int) W
  unfold strV at PN
  obtain ⟨P0, hP0⟩ : ∃ P, putL (n : Int) = P := ⟨_, rfl⟩
  rw [hP0] at HE hp0
  simp only [hP0] at PN
  clear hn hX hP0
  have hS0 : (⟨P0.toArray⟩ : ByteArray).data.toList = P0 := rfl
  obtain ⟨S0, hs0⟩ : ∃ S : ByteArray, (⟨P0.toArray⟩ : ByteArray) = S := ⟨_, rfl⟩
  rw [hs0] at hS0
  simp only [hs0] at PN
  have HS0 := Lib.hid hS0
  clear hs0 hS0
  have hbel := Below.refl w.heap.size w
  go_enter Try.func29, Try.ntmps29
  go_upto_region 5 with (go_at_call 60; refine (PN _).mono ?_; rintro e w3 ⟨rfl, hb⟩; have hbel := hbel.trans (hb.mono hbel.size); clear hb)
  clear PN
  go_loopw [4, 5] (fun y i wr => ∃ (k : Nat) (S : ByteArray), k ≤ n ∧ i = .int .i64 k ∧ y = .string S ∧ Hid ((ms.take k).all mayMsgB = true) ∧ Hid (S.data.toList = P0 ++ (ms.take k).flatMap txItem) ∧ Below w.heap.size w wr) (fun _ i _ => n - (intOf i).toNat)
  case atStart => exact ⟨0, S0, Nat.zero_le _, rfl, rfl, Lib.hid rfl, Lib.hid (by rw [HS0.out]; simp), hbel⟩
  case round =>
    clear hbel
    obtain ⟨k, S, hk, rfl, rfl, HA, HW, hbel⟩ := hrel
    by_cases hlt : k < n
    · have d1 : decide ((k : Int) < (n : Int)) = true := decide_eq_true (by omega)
      have d1n : decide (k < n) = true := decide_eq_true hlt
      have hkl : k < ms.length := by rw [HN.out]; exact hlt
      obtain ⟨b1, o1, rfl, hb1, hg1⟩ := msg_range (hr.below hbel) hkl
      have ok1 := (hok _ (List.getElem_mem hkl)).below hbel
      have hta := all_takeL (p := mayMsgB) hkl
      have hft := flat_takeB (f := txItem) hkl
      have hbd := fun h => all_badL (p := mayMsgB) hkl h
      have hle : S.size ≤ 500000 := by
        have := txItems_le HA.out
        rw [List.length_take] at this
        have : min k ms.length ≤ 64 := by omega
        rw [← str_len, HW.out, List.length_append]
        omega
      obtain ⟨m, hm9⟩ : ∃ m, ms[k] = m := ⟨_, rfl⟩
      rw [hm9] at hg1 ok1 hta hft hbd
      have HTA := Lib.hid hta
      have HFT := Lib.hid hft
      have CE := refEncMsg_any m wr ok1
      clear hm9 hta hft
      have n0 : (0 : Int) ≤ (k : Int) := by omega
      have n1' : (k : Int) < (n : Int) := by omega
      have n2' : ((k : Nat) : Int).toNat = k := by omega
      cases hM : mayMsgB m
      · rw [show encMsg m = .tuple #[.string ⟨#[]⟩, .int .i64 1] by unfold encMsg; rw [hM]; rfl] at CE
        have hE : X = (⟨#[]⟩, 1) := by rw [HE.out, hbd hM]; rfl
        subst hE
        clear hbd
        go_wp2_with (first | (refine wpList_load_mid rfl 34 (.tmp 23) rfl b1 _ rfl m.row.toList _ hg1 Try.underlying34 rfl (msg_info _) ?_; rw [Array.toArray_toList]) | (go_at_call 20; refine CE.mono ?_; rintro e w6 ⟨rfl, hb⟩; have hbel := hbel.trans (hb.mono hbel.size); clear hb))
        go_returns
        exact ⟨rfl, hbel⟩
      · rw [show encMsg m = .tuple #[.string ⟨(msgBy m).toArray⟩, .int .i64 0] by unfold encMsg; rw [hM]; rfl] at CE
        have hml := msgBy_le hM
        have hsz : (⟨(msgBy m).toArray⟩ : ByteArray).size ≤ 1000000 := by rw [bytes_size]; omega
        have HT : Hid (txItem m = putL (((⟨(msgBy m).toArray⟩ : ByteArray).size : Nat) : Int) ++ (⟨(msgBy m).toArray⟩ : ByteArray).data.toList) := Lib.hid rfl
        have hti := txItem_le hM
        obtain ⟨T, hT⟩ : ∃ T : ByteArray, (⟨(msgBy m).toArray⟩ : ByteArray) = T := ⟨_, rfl⟩
        rw [hT] at CE hsz HT
        have PT := fun W => refPutText_any T W hsz
        unfold strV at PT
        rw [← HT.out] at PT
        obtain ⟨U, hU⟩ : ∃ U : ByteArray, (⟨(txItem m).toArray⟩ : ByteArray) = U := ⟨_, rfl⟩
        have hUl : U.data.toList = txItem m := by rw [← hU]
        have hUs : U.size ≤ 10000 := by rw [← str_len, hUl]; omega
        simp only [hU] at PT
        have HUL := Lib.hid hUl
        have hcat : ¬ 9223372036854775807 < S.size + U.size := by omega
        clear hT hml hU hUl hti hbd
        go_wp2_with (first | (refine wpList_load_mid rfl 34 (.tmp 23) rfl b1 _ rfl m.row.toList _ hg1 Try.underlying34 rfl (msg_info _) ?_; rw [Array.toArray_toList]) | (go_at_call 20; refine CE.mono ?_; rintro e w6 ⟨rfl, hb⟩; have hbel := hbel.trans (hb.mono hbel.size); clear hb) | (go_at_call 63; refine (PT _).mono ?_; rintro e w7 ⟨rfl, hb⟩; have hbel := hbel.trans (hb.mono hbel.size); clear hb))
        go_roundw
        case rel => exact ⟨k + 1, S ++ U, by omega, by go_num, rfl, Lib.hid (by rw [HTA.out, HA.out, hM]; rfl), Lib.hid (by rw [HFT.out, str_append, HW.out, HUL.out, List.append_assoc]), hbel⟩
        case measure => (simp [intOf]) <;> omega
    · have d9 : decide ((k : Int) < (n : Int)) = false := decide_eq_false (by omega)
      have d9n : decide (k < n) = false := decide_eq_false hlt
      have hA := HA.out
      have hW := HW.out
      rw [List.take_of_length_le (by rw [HN.out]; omega)] at hA hW
      have hE : X = (S, 0) := by
        rw [HE.out, hA, if_pos rfl, ← hW]
      subst hE
      clear hA hW
      go_wp2
      go_returns
      exact ⟨rfl, hbel⟩
end Go.Proofs.Ythipnkbfdkmhaaa
namespace Go.Proofs.Ythipnkbfdkmhaaa
open Go.RowKit
attribute [local go_sem] strV
set_option linter.unusedVariables false
end Go.Proofs.Ythipnkbfdkmhaaa
namespace Go.Proofs.Ythipnkbfdkmhaaa
open Go.RowKit
attribute [local go_sem] strV
set_option linter.unusedVariables false
set_option maxRecDepth 100000 in
set_option maxHeartbeats 4000000 in
theorem refSteps_any (ct : Int) (a : Option Addr) (n cap : Nat) (xs : List LeafV) (w : World) (h : LvsAt w a xs) (hn : xs.length = n) (hn5 : n ≤ 5) (hp : ∀ x ∈ xs, x.path.length ≤ 40) :
    Calls Try.prog 84 #[.agg #[.int .i64 ct, .slice a n cap]] w fun e w' => e = .returned (.int .i64 (stepsD xs : Nat)) ∧ Below w.heap.size w w' := by
  have HN := Lib.hid hn
  obtain ⟨r, hr⟩ : ∃ r, stepsD xs = r := ⟨_, rfl⟩
  rw [hr]
  have HF : Hid (n + (xs.map fun x => x.path.length).sum = r) := Lib.hid (by rw [← hr, ← hn]; rfl)
  clear hr hn
  have hg0 := heap_push w #[.int .i64 ct, .slice a n cap] 32
  have hbA : Below w.heap.size w (w.alloc (.cells #[.int .i64 ct, .slice a n cap] 32)) := Below.alloc (Below.refl _ _) (Nat.le_refl _) _
  go_enter Try.func84, Try.ntmps84
  go_upto_region 1 with fail
  refine wp_nameE _ (fun W1 hX => ?_)
  have hg : W1.heap[w.heap.size]? = some (.cells #[.int .i64 ct, .slice a n cap] 32 (0, 0)) := by rw [hX]; exact hg0
  have hbel : Below w.heap.size w W1 := by rw [hX]; exact hbA
  clear hX hg0 hbA
  have q0 := cell_heap hg 0; have q1 := cell_heap hg 1
  go_upto_region 3 with fail
  go_loopw [3, 4] (fun s i wr => ∃ k t : Nat, k ≤ n ∧ i = .int .i64 k ∧ s = .int .i64 t ∧ Hid (t = n + ((xs.take k).map fun x => x.path.length).sum) ∧ t ≤ 5 + 40 * k ∧ wr = W1) (fun _ i _ => n - (intOf i).toNat)
  case atStart => exact ⟨0, n, Nat.zero_le _, rfl, rfl, Lib.hid (by simp), by omega, rfl⟩
  case round =>
    obtain ⟨k, t, hk, rfl, rfl, HT, ht, rfl⟩ := hrel
    by_cases hlt : k < n
    · have d1 : decide ((k : Int) < (n : Int)) = true := decide_eq_true (by omega)
      have d1n : decide (k < n) = true := decide_eq_true hlt
      have hkl : k < xs.length := by rw [HN.out]; exact hlt
      obtain ⟨b1, o1, rfl, hb1, hg1⟩ := lv_range (h.row.below hbel) hkl
      have ok1 := (h.each _ (List.getElem_mem hkl)).below hbel
      have hp40 := hp _ (List.getElem_mem hkl)
      have hstep := sum_take hkl
      obtain ⟨⟨key, val, idx, pa, pn, pc, path⟩, hp9⟩ : ∃ p, xs[k] = p := ⟨_, rfl⟩
      rw [hp9] at hg1 ok1 hstep hp40
      have u3 := hg1 3 _ rfl
      have hpl : path.length = pn := ok1.len
      simp only [hpl] at hstep hp40
      have HS : Hid (t + pn = n + ((xs.take (k + 1)).map fun x => x.path.length).sum) := Lib.hid (by rw [hstep, HT.out]; omega)
      have n0 : (0 : Int) ≤ (k : Int) := by omega
      have n1' : (k : Int) < (n : Int) := by omega
      have n2' : ((k : Nat) : Int).toNat = k := by omega
      have n3 : (t : Int) ≤ 1000 := by omega
      have n4 : (pn : Int) ≤ 40 := by omega
      clear hp9 ok1 hpl hstep hg1
      go_wp2
      go_roundw
      case rel => exact ⟨k + 1, t + pn, by omega, by go_num, by go_num, HS, by omega, by first | rfl | trivial⟩
      case measure => (simp [intOf]) <;> omega
    · have d9 : decide ((k : Int) < (n : Int)) = false := decide_eq_false (by omega)
      have d9n : decide (k < n) = false := decide_eq_false hlt
      obtain rfl : t = r := by rw [← HF.out, HT.out, List.take_of_length_le (by rw [HN.out]; omega)]
      go_wp2
      go_ret
      exact ⟨rfl, hbel⟩
theorem msgS_true {m : MsgV} (h : mayMsgB m = true) : msgS m = ⟨(msgBy m).toArray⟩ := by unfold msgS; rw [h]; rfl
theorem msgS_false {m : MsgV} (h : mayMsgB m = false) : msgS m = ⟨#[]⟩ := by unfold msgS; rw [h]; rfl
theorem size_pos {m : MsgV} (h : mayMsgB m = true) : 0 < (msgS m).size := by
  rw [msgS_true h, bytes_size]
  obtain ⟨k1, k5, _⟩ := may_kd h
  rw [msgBy_d k1 k5]
  unfold msgDB
  have hg : 0 < (putL m.d.kd).length := by
    have he : encB m.d.kd = true := by
      show encB m.kd = true
      unfold encB
      simp only [decide_eq_true_eq]
      omega
    unfold putL
    rw [he, if_pos rfl]
    exact grp_pos _ _
  rw [List.length_append]
  omega
set_option maxRecDepth 100000 in
set_option maxHeartbeats 4000000 in
theorem refPrice_any (m : MsgV) (w : World) (hm : m.ok w) (hl : lightM m = true) :
    Calls Try.prog 35 #[.agg m.row] w fun e w' => e = .returned (.int .i64 (priceM m)) ∧ Below w.heap.size w w' := by
  obtain ⟨_, l2, l3⟩ := light_msg hl
  obtain ⟨p1, p2, p3⟩ := light_pf l2
  obtain ⟨c1, c2, c3⟩ := light_pf l3
  have CE := fun W (hb : Below w.heap.size w W) => refEncMsg_any m W (hm.below hb)
  have hsl := msgS_le m
  cases hM : mayMsgB m
  · rw [show encMsg m = .tuple #[.string ⟨#[]⟩, .int .i64 1] by unfold encMsg; rw [hM]; rfl] at CE
    rw [show priceM m = 0 by unfold priceM; rw [msgS_false hM]; rfl]
    clear hM
    go_enter Try.func35, Try.ntmps35
    go_upto_region 1 with fail
    refine wp_nameE _ (fun W1 hX => ?_)
    have hg : W1.heap[w.heap.size]? = some (.cells m.row 34 (0, 0)) := by rw [hX]; exact heap_push _ _ _
    have hbel : Below w.heap.size w W1 := by rw [hX]; exact Below.alloc (Below.refl _ _) (Nat.le_refl _) _
    clear hX
    have hgl : w.heap.size < W1.heap.size := (Array.getElem?_eq_some_iff.1 hg).1
    obtain ⟨q0, q1, q2, q3, q4, q5, q6, q7, q8, q9, q10, q11, q12, q13, q14, q15, q16, q17⟩ := msg_cells hg
    go_wp2_with (first | (refine wpList_load_mid rfl 34 (.tmp 1) rfl w.heap.size 0 rfl m.row.toList _ (rangeAt_row5 hg) Try.underlying34 rfl (msg_info _) ?_; rw [Array.toArray_toList]) | (go_at_call 20; refine (CE _ hbel).mono ?_; rintro e w2 ⟨rfl, hb⟩; have hg := cells_of hg hb hgl; have hgl := Nat.lt_of_lt_of_le hgl hb.size; have hbel := hbel.trans (hb.mono hbel.size); obtain ⟨q0, q1, q2, q3, q4, q5, q6, q7, q8, q9, q10, q11, q12, q13, q14, q15, q16, q17⟩ := msg_cells hg; clear hb))
    go_ret
    exact ⟨rfl, hbel⟩
  · rw [show encMsg m = .tuple #[.string (msgS m), .int .i64 0] by rw [msgS_true hM]; unfold encMsg; rw [hM]; rfl] at CE
    have hpos := size_pos hM
    have CP := fun W (hb : Below w.heap.size w W) => refSteps_any m.pct m.pa m.pn m.pc m.pxs W (hm.p.below hb) hm.plen (by rw [← hm.plen]; exact p1) p2
    have CC := fun W (hb : Below w.heap.size w W) => refSteps_any m.cct m.ca m.cn m.cc m.cxs W (hm.c.below hb) hm.clen (by rw [← hm.clen]; exact c1) c2
    obtain ⟨a, ea⟩ : ∃ s, stepsD m.pxs = s := ⟨_, rfl⟩
    obtain ⟨b, eb⟩ : ∃ s, stepsD m.cxs = s := ⟨_, rfl⟩
    obtain ⟨S, eS⟩ : ∃ S, msgS m = S := ⟨_, rfl⟩
    rw [show priceM m = 1000 + 3 * (S.size : Int) + 50 * ((a : Int) + (b : Int)) by unfold priceM; rw [eS, ea, eb, if_neg (by rw [← eS]; omega)]]
    rw [eS] at CE hsl hpos
    rw [ea] at p3
    rw [eb] at c3
    simp only [ea] at CP
    simp only [eb] at CC
    clear hM ea eb eS l2 l3 hl p1 p2 c1 c2
    go_enter Try.func35, Try.ntmps35
    go_upto_region 1 with fail
    refine wp_nameE _ (fun W1 hX => ?_)
    have hg : W1.heap[w.heap.size]? = some (.cells m.row 34 (0, 0)) := by rw [hX]; exact heap_push _ _ _
    have hbel : Below w.heap.size w W1 := by rw [hX]; exact Below.alloc (Below.refl _ _) (Nat.le_refl _) _
    clear hX
    have hgl : w.heap.size < W1.heap.size := (Array.getElem?_eq_some_iff.1 hg).1
    obtain ⟨q0, q1, q2, q3, q4, q5, q6, q7, q8, q9, q10, q11, q12, q13, q14, q15, q16, q17⟩ := msg_cells hg
    go_upto_region 4 with (first | (refine wpList_load_mid rfl 34 (.tmp 1) rfl w.heap.size 0 rfl m.row.toList _ (rangeAt_row5 hg) Try.underlying34 rfl (msg_info _) ?_; rw [Array.toArray_toList]) | (go_at_call 20; refine (CE _ hbel).mono ?_; rintro e w2 ⟨rfl, hb⟩; have hg := cells_of hg hb hgl; have hgl := Nat.lt_of_lt_of_le hgl hb.size; have hbel := hbel.trans (hb.mono hbel.size); obtain ⟨q0, q1, q2, q3, q4, q5, q6, q7, q8, q9, q10, q11, q12, q13, q14, q15, q16, q17⟩ := msg_cells hg; clear hb))
    have z : ∀ n : Beyond w2, n.x.cell? ⟨w.heap.size, 46, none⟩ = some (.int .i64 m.pct) ∧ n.x.cell? ⟨w.heap.size, 47, none⟩ = some (.slice m.pa m.pn m.pc) ∧ n.x.cell? ⟨w.heap.size, 48, none⟩ = some (.int .i64 m.cct) ∧ n.x.cell? ⟨w.heap.size, 49, none⟩ = some (.slice m.ca m.cn m.cc) := fun n => by
      have h := msg_cells (cells_of hg n.h hgl)
      exact ⟨h.2.2.2.2.2.2.2.2.2.2.2.2.2.2.1, h.2.2.2.2.2.2.2.2.2.2.2.2.2.2.2.1, h.2.2.2.2.2.2.2.2.2.2.2.2.2.2.2.2.1, h.2.2.2.2.2.2.2.2.2.2.2.2.2.2.2.2.2⟩
    have z0 := fun n => (z n).1
    have z1 := fun n => (z n).2.1
    have z2 := fun n => (z n).2.2.1
    have z3 := fun n => (z n).2.2.2
    clear z
    refine wp_region_below (by kernel_rfl) (by kernel_rfl) ?_
    repeat (go_big_quiet_step (first | (go_at_call 84; with_reducible exact quiet_below (CP _ (hbel.trans ((Beyond.h _).mono hbel.size)))) | (go_at_call 84; with_reducible exact quiet_below (CC _ (hbel.trans ((Beyond.h _).mono hbel.size))))))
    intro w9 hw9
    have hb := beyond_below hw9
    have hbel := hbel.trans (hb.mono hbel.size)
    go_wp2
    go_ret
    exact ⟨by first | rfl | simp, hbel⟩
end Go.Proofs.Ythipnkbfdkmhaaa
namespace Go.Proofs.Ythipnkbfdkmhaaa
open Go.RowKit
attribute [local go_sem] strV
set_option linter.unusedVariables false
/-- Do messages fit into one transaction? -/
def fitsF (lg lb lc : Int) (ms : List MsgV) : Bool := ((encTx ms).2 == 0) && decide (((encTx ms).1.size : Int) ≤ min lb 1048576) && decide ((ms.length : Int) ≤ min lc 64) && decide (sumP ms ≤ lg)
set_option maxRecDepth 100000 in
set_option maxHeartbeats 6400000 in
theorem refFits_any (lg lb lc : Int) (a : Option Addr) (n cap : Nat) (ms : List MsgV) (w : World) (hr : RowAt w a (ms.flatMap MsgV.cellsL)) (hok : ∀ m ∈ ms, m.ok w) (hl : ∀ m ∈ ms, lightM m = true) (hn : ms.length = n) :
    Calls Try.prog 44 #[.agg #[.int .i64 (lg), .int .i64 (lb), .int .i64 (lc)], .slice a n cap] w fun e w' => e = .returned (.bool (fitsF lg lb lc ms)) ∧ Below w.heap.size w w' := by
  have CT := fun W (hb : Below w.heap.size w W) => refTx_any a n cap ms W (hr.below hb) (fun m hm => (hok m hm).below hb) hn
  obtain ⟨r, hr9⟩ : ∃ r, fitsF lg lb lc ms = r := ⟨_, rfl⟩
  rw [hr9]
  unfold fitsF at hr9
  obtain ⟨⟨s, E⟩, hE⟩ : ∃ t, encTx ms = t := ⟨_, rfl⟩
  rw [hE, hn] at hr9
  simp only [hE] at CT
  have HR := Lib.hid hr9
  have HN := Lib.hid hn
  clear hr9 hE hn
  have hq := heap_push w #[.int .i64 (lg), .int .i64 (lb), .int .i64 (lc)] 58
  have hb0 : Below w.heap.size w (w.alloc (.cells #[.int .i64 (lg), .int .i64 (lb), .int .i64 (lc)] 58)) := Below.alloc (Below.refl _ _) (Nat.le_refl _) _
  go_enter Try.func44, Try.ntmps44
  go_upto_region 1 with fail
  refine wp_nameE _ (fun W1 hX => ?_)
  have hL : W1.heap[w.heap.size]? = some (.cells #[.int .i64 (lg), .int .i64 (lb), .int .i64 (lc)] 58 (0, 0)) := by rw [hX]; exact hq
  have hbel : Below w.heap.size w W1 := by rw [hX]; exact hb0
  clear hX hq hb0
  have q0 := cell_heap hL 0
  have q1 := cell_heap hL 1
  have q2 := cell_heap hL 2
  go_upto_region 2 with (go_at_call 29; refine (CT _ hbel).mono ?_; rintro e w2 ⟨rfl, hb⟩; have hL := cells_of hL hb (Array.getElem?_eq_some_iff.1 hL).1; have q0 := cell_heap hL 0; have q1 := cell_heap hL 1; have q2 := cell_heap hL 2; have hbel := hbel.trans (hb.mono hbel.size); clear hb)
  clear CT
  obtain ⟨eb, heb⟩ : ∃ b, (E == 0) = b := ⟨_, rfl⟩
  have hebn : (E != 0) = !eb := by rw [bne, heb]
  obtain ⟨M, hM⟩ : ∃ z, min lb 1048576 = z := ⟨_, rfl⟩
  obtain ⟨M2, hM2⟩ : ∃ z, min lc 64 = z := ⟨_, rfl⟩
  have hM64 : M2 ≤ 64 := by omega
  rw [heb, hM, hM2] at HR
  have go : ∀ b, r = b → True := fun _ _ => trivial
  clear go
  cases eb
  · obtain rfl : r = false := by rw [← HR.out]; rfl
    have hebn : (E != 0) = true := hebn
    go_wp2
    go_ret
    exact ⟨by first | rfl | simp, hbel⟩
  have hebn : (E != 0) = false := hebn
  by_cases h1 : M < (s.size : Int)
  · have d1 : decide (M < (s.size : Int)) = true := decide_eq_true h1
    obtain rfl : r = false := by rw [← HR.out, decide_eq_false (show ¬ (s.size : Int) ≤ M by omega)]; rfl
    clear h1
    go_wp2
    go_ret
    exact ⟨by first | rfl | simp, hbel⟩
  have d1 : decide (M < (s.size : Int)) = false := decide_eq_false h1
  by_cases h2 : M2 < (n : Int)
  · have d2 : decide (M2 < (n : Int)) = true := decide_eq_true h2
    obtain rfl : r = false := by rw [← HR.out, decide_eq_false (show ¬ (n : Int) ≤ M2 by omega), Bool.and_false]; rfl
    clear h1 h2
    go_wp2
    go_ret
    exact ⟨by first | rfl | simp, hbel⟩
  have d2 : decide (M2 < (n : Int)) = false := decide_eq_false h2
  have hn64 : n ≤ 64 := by omega
  have HR2 : Hid (decide (sumP ms ≤ lg) = r) := Lib.hid (by rw [← HR.out, decide_eq_true (show (s.size : Int) ≤ M by omega), decide_eq_true (show (n : Int) ≤ M2 by omega)]; rfl)
  clear h1 h2 HR heb
  go_upto_region 6 with fail
  clear hebn hM hM2 d1 d2 hM64 q0 q1 q2
  have hLl := (Array.getElem?_eq_some_iff.1 hL).1
  have hb9 := Below.refl w2.heap.size w2
  go_loopw [7, 8] (fun sv i wr => ∃ (k : Nat) (z : Int), k ≤ n ∧ i = .int .i64 k ∧ sv = .int .i64 z ∧ Hid (z = sumP (ms.take k)) ∧ (-100000000 * (k : Int) ≤ z ∧ z ≤ 100000000 * (k : Int)) ∧ Below w2.heap.size w2 wr) (fun _ i _ => n - (intOf i).toNat)
  case atStart => exact ⟨0, 0, Nat.zero_le _, rfl, rfl, Lib.hid rfl, ⟨by omega, by omega⟩, Below.refl _ _⟩
  case round =>
    clear hb9
    obtain ⟨k, z, hk, rfl, rfl, HZ, hz, hbW⟩ := hrel
    have hL := cells_of hL hbW hLl
    have q0 := cell_heap hL 0
    by_cases hlt : k < n
    rotate_left
    · have d9 : decide ((k : Int) < (n : Int)) = false := decide_eq_false (by omega)
      have d9n : decide (k < n) = false := decide_eq_false hlt
      have hzr : decide (z ≤ lg) = r := by rw [HZ.out, List.take_of_length_le (by rw [HN.out]; omega)]; exact HR2.out
      go_wp2
      go_ret
      exact ⟨by first | rfl | simp, hbel.trans (hbW.mono hbel.size)⟩
    have d2 : decide ((k : Int) < (n : Int)) = true := decide_eq_true (by omega)
    have d2n : decide (k < n) = true := decide_eq_true hlt
    have hkl : k < ms.length := by rw [HN.out]; exact hlt
    have hbE := hbel.trans (hbW.mono hbel.size)
    obtain ⟨b1, o1, rfl, hb1, hg1⟩ := msg_range (hr.below hbE) hkl
    have ok1 := (hok _ (List.getElem_mem hkl)).below hbE
    have hl1 := hl _ (List.getElem_mem hkl)
    have hst := sumP_take hkl
    obtain ⟨m, hm9⟩ : ∃ m, ms[k] = m := ⟨_, rfl⟩
    rw [hm9] at hg1 ok1 hl1 hst
    have CP := fun W (hb : Below wr.heap.size wr W) => refPrice_any m W (ok1.below hb) hl1
    have hpr := price_rng hl1
    obtain ⟨p, hp⟩ : ∃ z, priceM m = z := ⟨_, rfl⟩
    simp only [hp] at CP
    rw [hp] at hpr hst
    rw [← HZ.out] at hst
    have HST := Lib.hid hst
    clear hst hm9 hp
    have hb0 := Below.refl wr.heap.size wr
    have n0 : (0 : Int) ≤ (k : Int) := by omega
    have n1 : (k : Int) < (n : Int) := by omega
    have n2 : ((k : Nat) : Int).toNat = k := by omega
    have s1 : -9223372036854775808 ≤ z + p := by omega
    have s2 : z + p ≤ 9223372036854775807 := by omega
    go_wp2_with (first | (refine wpList_load_mid rfl 34 (.tmp 41) rfl b1 _ rfl m.row.toList _ hg1 Try.underlying34 rfl (msg_info _) ?_; rw [Array.toArray_toList]) | (go_at_call 35; refine (CP _ hb0).mono ?_; rintro e w8 ⟨rfl, hb8⟩))
    go_roundw
    case rel => exact ⟨k + 1, z + p, by omega, by go_num, by first | rfl | go_num, Lib.hid HST.out.symm, ⟨by omega, by omega⟩, hbW.trans (hb8.mono hbW.size)⟩
    case measure => (simp [intOf]) <;> omega
end Go.Proofs.Ythipnkbfdkmhaaa
