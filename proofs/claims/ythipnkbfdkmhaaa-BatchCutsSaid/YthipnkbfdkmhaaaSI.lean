/- batch.Fits. The program's and the document's Fits are one. The document's cut, in numbers, is the program's. Lists of lists of numbers held against each other (liglaw28.lists). The document's cut: what it owns. Lists of lists out of what is owned. -/
import Derived.Test.YthipnkbfdkmhaaaBt3
import Derived.Test.YthipnkbfdkmhaaaSF
import Derived.BigRegion
import Derived.RegionTactic
import Derived.Deep.MidRow
import Derived.LoopTactic
import Derived.BigFrame
import Derived.WalkKit
import Derived.ProofKit
import Derived.Handy
import Derived.Below
import Derived.Lib.Hide
import Derived.IntWalk
import Derived.Outline
import Derived.WalkLawsBesides
import Derived.WalkSpells
import Derived.Test.YthipnkbfdkmhaaaSH
import Derived.Maps.AppendAt
import Derived.Maps.OwnRows
import Derived.Test.YthipnkbfdkmhaaaSE
namespace Go.Proofs.Ythipnkbfdkmhaaa
open Go.RowKit
attribute [local go_sem] strV
set_option linter.unusedVariables false
/-- What messages take of a transaction. -/
def sumL (ms : List MsgV) : Int × Int × Int := ms.foldl (fun s m => addL s (wL m)) (0, 1, 0)
theorem sumL_take {ms : List MsgV} {k : Nat} (hk : k < ms.length) : sumL (ms.take (k + 1)) = addL (sumL (ms.take k)) (wL ms[k]) := by
  unfold sumL
  rw [List.take_succ_eq_append_getElem hk, List.foldl_append]; rfl
def fitsW (l : Int × Int × Int) (ms : List MsgV) : Bool := ms.all mayMsgB && inL l (sumL ms)
def boundL (x : Int × Int × Int) (k : Nat) : Prop := (0 ≤ x.1 ∧ x.1 ≤ k) ∧ (-(k : Int) ≤ x.2.1 ∧ x.2.1 ≤ 1 + 400000 * (k : Int)) ∧ (0 ≤ x.2.2 ∧ x.2.2 ≤ 40000 * (k : Int))
set_option maxRecDepth 100000 in
set_option maxHeartbeats 6400000 in
theorem btFits_any (lg lb lc : Int) (a : Option Addr) (n cap : Nat) (ms : List MsgV) (w : World) (hr : RowAt w a (ms.flatMap MsgV.cellsL)) (hok : ∀ m ∈ ms, m.ok w) (hl : ∀ m ∈ ms, lightM m = true) (hn : ms.length = n) (h70 : n ≤ 100) :
    Calls Try.prog 43 #[.agg #[.int .i64 (lg), .int .i64 (lb), .int .i64 (lc)], .slice a n cap] w fun e w' => e = .returned (.bool (fitsW (lg, lb, lc) ms)) ∧ Below w.heap.size w w' := by
  obtain ⟨r, hr9⟩ : ∃ r, fitsW (lg, lb, lc) ms = r := ⟨_, rfl⟩
  rw [hr9]
  unfold fitsW at hr9
  have HR := Lib.hid hr9
  have HN := Lib.hid hn
  clear hr9 hn
  have hq := heap_push w #[.int .i64 (lg), .int .i64 (lb), .int .i64 (lc)] 58
  have hb0 : Below w.heap.size w (w.alloc (.cells #[.int .i64 (lg), .int .i64 (lb), .int .i64 (lc)] 58)) := Below.alloc (Below.refl _ _) (Nat.le_refl _) _
  go_enter Try.func43, Try.ntmps43
  go_upto_region 1 with fail
  refine wp_nameE _ (fun W1 hX => ?_)
  have hL : W1.heap[w.heap.size]? = some (.cells #[.int .i64 (lg), .int .i64 (lb), .int .i64 (lc)] 58 (0, 0)) := by rw [hX]; exact hq
  have hbel : Below w.heap.size w W1 := by rw [hX]; exact hb0
  clear hX hq hb0
  have hLl := (Array.getElem?_eq_some_iff.1 hL).1
  go_upto_region 2 with (go_at_call 89; refine (bt_empty _).mono ?_; rintro e w2 ⟨rfl, hb⟩; have hL := cells_of hL hb hLl; have hbel := hbel.trans (hb.mono hbel.size); clear hb)
  have hq := heap_push w2 #[.int .i64 (0), .int .i64 (1), .int .i64 (0)] 113
  have hb3 : Below w2.heap.size w2 (w2.alloc (.cells #[.int .i64 (0), .int .i64 (1), .int .i64 (0)] 113)) := Below.alloc (Below.refl _ _) (Nat.le_refl _) _
  refine wp_nameE _ (fun W2 hX => ?_)
  have hC : W2.heap[w2.heap.size]? = some (.cells #[.int .i64 (0), .int .i64 (1), .int .i64 (0)] 113 (0, 0)) := by rw [hX]; exact hq
  have hL : W2.heap[w.heap.size]? = some (.cells #[.int .i64 (lg), .int .i64 (lb), .int .i64 (lc)] 58 (0, 0)) := by rw [hX]; exact cells_of hL hb3 (Array.getElem?_eq_some_iff.1 hL).1
  have hlt5 : w.heap.size < w2.heap.size := (Array.getElem?_eq_some_iff.1 ‹w2.heap[w.heap.size]? = _›).1
  have hbel : Below w.heap.size w W2 := by rw [hX]; exact hbel.trans (hb3.mono hbel.size)
  clear hX hq hb3
  obtain ⟨g5, hg5⟩ : ∃ g, w2.heap.size = g := ⟨_, rfl⟩
  rw [hg5] at hC hlt5
  simp only [hg5]
  clear hg5
  go_upto_region 3 with fail
  go_loopw [13] (fun i wr => ∃ (k : Nat) (S : Int × Int × Int), k ≤ n ∧ i = .int .i64 k ∧ Hid (S = sumL (ms.take k)) ∧ Hid (∀ t (h : t < ms.length), t < k → mayMsgB ms[t] = true) ∧ Hid (boundL S k) ∧ wr.heap[g5]? = some (.cells #[.int .i64 (S.1), .int .i64 (S.2.1), .int .i64 (S.2.2)] 113 (0, 0)) ∧ wr.heap[w.heap.size]? = some (.cells #[.int .i64 (lg), .int .i64 (lb), .int .i64 (lc)] 58 (0, 0)) ∧ Below w.heap.size w wr) (fun i _ => n - (intOf i).toNat)
  case atStart => exact ⟨0, (0, 1, 0), Nat.zero_le _, rfl, Lib.hid rfl, Lib.hid (fun t h h2 => by omega), Lib.hid ⟨⟨by decide, by decide⟩, ⟨by decide, by decide⟩, ⟨by decide, by decide⟩⟩, hC, hL, hbel⟩
  case round =>
    clear hC hL hbel
    obtain ⟨k, ⟨c1, c2, c3⟩, hk, rfl, HS, HA, HB, hC, hL, hbel⟩ := hrel
    have hC : wr.heap[g5]? = some (.cells #[.int .i64 (c1), .int .i64 (c2), .int .i64 (c3)] 113 (0, 0)) := hC
    have hCl := (Array.getElem?_eq_some_iff.1 hC).1
    have hLl := (Array.getElem?_eq_some_iff.1 hL).1
    by_cases hlt : k < n
    rotate_left
    · have d9 : decide ((k : Int) < (n : Int)) = false := decide_eq_false (by omega)
      have d9n : decide (k < n) = false := decide_eq_false hlt
      have hS9 := HS.out
      rw [List.take_of_length_le (by rw [HN.out]; omega)] at hS9
      have hW9 : withinB c1 c2 c3 lg lb lc = r := by
        rw [← HR.out, List.all_eq_true.2 (fun m hm => by obtain ⟨t, ht, rfl⟩ := List.getElem_of_mem hm; exact HA.out t ht (by rw [HN.out] at ht; omega)), ← hS9]; rfl
      have CW := fun W => bt_within c1 c2 c3 lg lb lc W
      simp only [hW9] at CW
      clear hW9 hS9
      go_wp2_with (first | (refine wpList_load_mid rfl 113 (.tmp 5) rfl g5 0 rfl (#[.int .i64 (c1), .int .i64 (c2), .int .i64 (c3)] : Array Value).toList _ (rangeAt_row5 hC) Try.underlying113 rfl (by rfl) ?_; rw [Array.toArray_toList]) | (refine wpList_load_mid rfl 58 (.tmp 2) rfl w.heap.size 0 rfl (#[.int .i64 (lg), .int .i64 (lb), .int .i64 (lc)] : Array Value).toList _ (rangeAt_row5 hL) Try.underlying58 rfl (by rfl) ?_; rw [Array.toArray_toList]) | (go_at_call 88; refine (CW _).mono ?_; rintro e w9 ⟨rfl, hb9⟩))
      go_ret
      exact ⟨by first | rfl | simp, hbel.trans (hb9.mono hbel.size)⟩
    have d1 : decide ((k : Int) < (n : Int)) = true := decide_eq_true (by omega)
    have d1n : decide (k < n) = true := decide_eq_true hlt
    have hkl : k < ms.length := by rw [HN.out]; exact hlt
    obtain ⟨b1, o1, rfl, hb1, hg1⟩ := msg_range (hr.below hbel) hkl
    have ok1 := (hok _ (List.getElem_mem hkl)).below hbel
    have hl1 := hl _ (List.getElem_mem hkl)
    have hst := sumL_take hkl
    obtain ⟨m, hm9⟩ : ∃ m, ms[k] = m := ⟨_, rfl⟩
    have HM9 := Lib.hid hm9
    rw [hm9] at hg1 ok1 hl1 hst
    rw [← HS.out] at hst
    have hzr := wB_rng m
    have hpr := price_rng hl1
    have CG := fun W (hb : Below wr.heap.size wr W) => bt_weigh m W (ok1.below hb) hl1
    obtain ⟨z, hz⟩ : ∃ z, wB m = z := ⟨_, rfl⟩
    obtain ⟨p, hp⟩ : ∃ z, priceM m = z := ⟨_, rfl⟩
    obtain ⟨km, hkm⟩ : ∃ z, mayMsgB m = z := ⟨_, rfl⟩
    simp only [hz, hp, hkm] at CG
    rw [hz] at hzr
    rw [hp] at hpr
    have hst : sumL (ms.take (k + 1)) = (c1 + 1, c2 + z, c3 + p) := by rw [hst]; unfold addL wL; rw [hz, hp]
    have HST := Lib.hid hst
    have HKM := Lib.hid hkm
    clear hst hm9 hz hp hkm
    have n0 : (0 : Int) ≤ (k : Int) := by omega
    have n1 : (k : Int) < (n : Int) := by omega
    have n2 : ((k : Nat) : Int).toNat = k := by omega
    go_upto_region 5 with (first | (refine wpList_load_mid rfl 34 (.tmp 15) rfl b1 _ rfl m.row.toList _ hg1 Try.underlying34 rfl (msg_info _) ?_; rw [Array.toArray_toList]) | (refine wpList_storeRowTo (Z := m.row) rfl (.tmp 7) (.tmp 16) 34 rfl (by rw [MsgV.row_size]; kernel_rfl) rfl (by rfl) (heap_push _ _ _) (by rw [MsgV.row_size]; rfl) (MsgV.row_one _) ?_))
    refine wp_nameE _ (fun W7 hX => ?_)
    have hb7 : Below wr.heap.size wr W7 := by rw [hX]; exact below_setRow (Below.alloc (Below.refl _ _) (Nat.le_refl _) _) (Nat.le_refl _) _
    have hx : W7.heap[wr.heap.size]? = some (.cells m.row 34 (0, 0)) := by rw [hX]; exact setRow_heap _ _ _ _ _ _ (heap_push _ _ _)
    have hC := cells_of hC hb7 hCl
    have hL := cells_of hL hb7 hLl
    have hbel := hbel.trans (hb7.mono hbel.size)
    have CG := fun W (hb : Below W7.heap.size W7 W) => CG W (hb7.trans (hb.mono hb7.size))
    have hCl := Nat.lt_of_lt_of_le hCl hb7.size
    have hLl := Nat.lt_of_lt_of_le hLl hb7.size
    obtain ⟨gx, hgx⟩ : ∃ g, wr.heap.size = g := ⟨_, rfl⟩
    rw [hgx] at hx
    simp only [hgx]
    clear hX hg1 hgx hb7
    have hb0 := Below.refl W7.heap.size W7
    go_upto_region 6 with (first | (refine wpList_load_mid rfl 34 (.tmp 7) rfl gx 0 rfl m.row.toList _ (rangeAt_row5 hx) Try.underlying34 rfl (msg_info _) ?_; rw [Array.toArray_toList]) | (go_at_call 86; refine (CG _ hb0).mono ?_; rintro e w8 ⟨rfl, hb8⟩))
    have hq := heap_push w8 #[.int .i64 (1), .int .i64 (z), .int .i64 (p)] 113
    have hb9 : Below w8.heap.size w8 (w8.alloc (.cells #[.int .i64 (1), .int .i64 (z), .int .i64 (p)] 113)) := Below.alloc (Below.refl _ _) (Nat.le_refl _) _
    refine wp_nameE _ (fun W9 hX => ?_)
    have hb9 : Below W7.heap.size W7 W9 := by rw [hX]; exact hb8.trans (hb9.mono hb8.size)
    have hZ : W9.heap[w8.heap.size]? = some (.cells #[.int .i64 (1), .int .i64 (z), .int .i64 (p)] 113 (0, 0)) := by rw [hX]; exact hq
    have hC := cells_of hC hb9 hCl
    have hL := cells_of hL hb9 hLl
    have hbel := hbel.trans (hb9.mono hbel.size)
    obtain ⟨g8, hg8⟩ : ∃ g, w8.heap.size = g := ⟨_, rfl⟩
    rw [hg8] at hZ
    simp only [hg8]
    clear hX hq hb8 hg8 hb9 hx
    have hB := HB.out
    unfold boundL at hB
    simp only [] at hB
    cases km
    · obtain rfl : r = false := by
        rw [← HR.out, List.all_eq_false.2 ⟨ms[k], List.getElem_mem hkl, by rw [HM9.out, HKM.out]; exact Bool.false_ne_true⟩]; rfl
      go_wp2
      go_ret
      exact ⟨by first | rfl | simp, hbel⟩
    have CA := fun W => bt_and c1 c2 c3 1 z p W (by omega) (by omega) (by omega) (by omega) (by omega) (by omega)
    have hCl := (Array.getElem?_eq_some_iff.1 hC).1
    have hLl := (Array.getElem?_eq_some_iff.1 hL).1
    go_upto_region 8 with fail
    have hbz := Below.refl W9.heap.size W9
    go_wp2_with (first | (refine wpList_load_mid rfl 113 (.tmp 5) rfl g5 0 rfl (#[.int .i64 (c1), .int .i64 (c2), .int .i64 (c3)] : Array Value).toList _ (rangeAt_row5 hC) Try.underlying113 rfl (by rfl) ?_; rw [Array.toArray_toList]) | (refine wpList_load_mid rfl 113 (.tmp 8) rfl g8 0 rfl (#[.int .i64 (1), .int .i64 (z), .int .i64 (p)] : Array Value).toList _ (rangeAt_row5 hZ) Try.underlying113 rfl (by rfl) ?_; rw [Array.toArray_toList]) | (go_at_call 87; refine (CA _).mono ?_; rintro e w10 ⟨rfl, hb10⟩; have hC10 := cells_of hC hb10 hCl) | (refine wpList_storeRowTo (Z := #[.int .i64 (c1 + 1), .int .i64 (c2 + z), .int .i64 (c3 + p)]) rfl (.tmp 5) (.tmp 26) 113 rfl (by kernel_rfl) rfl (by rfl) hC10 rfl (ld_one _ _ _) ?_))
    go_roundw
    case rel => exact ⟨k + 1, (c1 + 1, c2 + z, c3 + p), by omega, by go_num, Lib.hid HST.out.symm, Lib.hid (fun t ht h9 => by
        rcases Nat.lt_or_ge t k with h | h
        · exact HA.out t ht h
        · obtain rfl : t = k := by omega
          rw [HM9.out]; exact HKM.out), Lib.hid (by unfold boundL; simp only []; omega), setRow_heap _ _ _ _ _ _ hC10, (setRow_other _ _ _ _ (by omega)).trans (cells_of hL hb10 hLl), below_setRow (hbel.trans (hb10.mono hbel.size)) (by omega) _⟩
    case measure => (simp [intOf]) <;> omega
end Go.Proofs.Ythipnkbfdkmhaaa
namespace Go.Proofs.Ythipnkbfdkmhaaa
open Go.RowKit
attribute [local go_sem] strV
set_option linter.unusedVariables false
theorem putL_small : ∀ n : Fin 65, (putL ((n.val : Nat) : Int)).length = 1 := by decide +kernel
theorem sumL_from (ms : List MsgV) : ∀ s : Int × Int × Int, ms.foldl (fun s m => addL s (wL m)) s = (s.1 + (ms.length : Int), s.2.1 + (ms.map wB).sum, s.2.2 + (ms.map priceM).sum) := by
  induction ms with
  | nil => intro s; simp
  | cons m ms ih =>
    intro s
    rw [List.foldl_cons, ih]
    unfold addL wL
    simp only [List.length_cons, List.map_cons, List.sum_cons, Prod.mk.injEq]
    refine ⟨by omega, by omega, by omega⟩
theorem sumL_eq (ms : List MsgV) : sumL ms = ((ms.length : Int), 1 + (ms.map wB).sum, sumP ms) := by
  unfold sumL sumP
  rw [sumL_from]
  simp
theorem encTx_may {ms : List MsgV} (h64 : ms.length ≤ 64) (ha : ms.all mayMsgB = true) : encTx ms = (⟨(txBy ms).toArray⟩, 0) := by
  unfold encTx
  rw [if_neg (by omega), if_pos ha]
theorem txBy_len {ms : List MsgV} (h64 : ms.length ≤ 64) : (txBy ms).length = 1 + (ms.flatMap txItem).length := by
  unfold txBy
  rw [List.length_append]
  have := putL_small ⟨ms.length, by omega⟩
  simp only [] at this
  rw [this]
theorem wB_item {m : MsgV} (h : mayMsgB m = true) : wB m = ((txItem m).length : Int) := by
  unfold wB
  rw [encTx_may (ms := [m]) (by simp) (by simp [h])]
  have h2 := txBy_len (ms := [m]) (by simp)
  have h3 : (⟨(txBy [m]).toArray⟩ : ByteArray).size = (txBy [m]).length := by show (txBy [m]).toArray.size = _; rw [List.size_toArray]
  rw [h3, h2]
  simp only [List.flatMap_cons, List.flatMap_nil, List.append_nil]
  omega
theorem items_sum {ms : List MsgV} (ha : ms.all mayMsgB = true) : (((ms.flatMap txItem).length : Nat) : Int) = (ms.map wB).sum := by
  induction ms with
  | nil => rfl
  | cons m ms ih =>
    rw [List.all_cons, Bool.and_eq_true] at ha
    rw [List.flatMap_cons, List.length_append, List.map_cons, List.sum_cons, wB_item ha.1, ← ih ha.2]
    omega
theorem fits_same (lg lb lc : Int) (ms : List MsgV) : fitsF lg lb lc ms = fitsW (lg, lb, lc) ms := by
  unfold fitsF fitsW inL withinB
  rw [sumL_eq]
  simp only []
  by_cases h64 : ms.length ≤ 64
  · cases ha : ms.all mayMsgB with
    | true =>
      rw [encTx_may h64 ha]
      have h3 : (⟨(txBy ms).toArray⟩ : ByteArray).size = (txBy ms).length := by show (txBy ms).toArray.size = _; rw [List.size_toArray]
      simp only []
      rw [h3, txBy_len h64]
      have h4 := items_sum ha
      rw [← h4]
      simp only [Int.natCast_add, Bool.true_and, beq_self_eq_true]
      rw [Bool.and_comm (decide ((ms.length : Int) ≤ min lc 64))]
      rfl
    | false =>
      have : (encTx ms).2 = 1 := by unfold encTx; rw [if_neg (by omega), ha]; rfl
      rw [this]; rfl
  · have : (encTx ms).2 = 22 := by unfold encTx; rw [if_pos (by omega)]
    rw [this, decide_eq_false (show ¬ ((ms.length : Int) ≤ min lc 64) by omega)]
    simp
end Go.Proofs.Ythipnkbfdkmhaaa
namespace Go.Proofs.Ythipnkbfdkmhaaa
open Go.RowKit
attribute [local go_sem] strV
set_option linter.unusedVariables false
structure RefS where
  txs : List (List Int)
  sk : List Int
  now : List Int
  cur : List MsgV
  lost : List Int
def rawG (gs : List Int) (n i : Nat) : Int := if gs.length = n then gs.getD i 0 else 0
def refOutB (l : Int × Int × Int) (u : List MsgV) (g : Int) (lost : List Int) (m : MsgV) : Bool := !fitsW l (u ++ [m]) || (decide (0 < g) && decide (g ∈ lost))
def refStep (l : Int × Int × Int) (u : List MsgV) (g : Int) (s : RefS) (i : Nat) (m : MsgV) : RefS :=
  if refOutB l u g s.lost m = true then ⟨s.txs, s.sk ++ [(i : Int)], s.now, s.cur, s.lost ++ [g]⟩
  else if s.now ≠ [] ∧ fitsW l (s.cur ++ [m]) = false then ⟨s.txs ++ [s.now], s.sk, [(i : Int)], [m], s.lost⟩
  else ⟨s.txs, s.sk, s.now ++ [(i : Int)], s.cur ++ [m], s.lost⟩
def refK (l : Int × Int × Int) (up : List MsgV) (gs : List Int) (ms : List MsgV) : Nat → RefS
  | 0 => ⟨[], [], [], up.take 1, []⟩
  | k + 1 => match ms[k]? with | some m => refStep l (up.take 1) (rawG gs ms.length k) (refK l up gs ms k) k m | none => refK l up gs ms k
def refF (l : Int × Int × Int) (up ms : List MsgV) (gs : List Int) : List (List Int) × List Int :=
  (if (refK l up gs ms ms.length).now ≠ [] then (refK l up gs ms ms.length).txs ++ [(refK l up gs ms ms.length).now] else (refK l up gs ms ms.length).txs, (refK l up gs ms ms.length).sk)
theorem sumL_snoc (ms : List MsgV) (m : MsgV) : sumL (ms ++ [m]) = addL (sumL ms) (wL m) := by
  unfold sumL
  rw [List.foldl_append]; rfl
theorem begin_sum (up : List MsgV) : beginL up = (sumL (up.take 1), (up.take 1).all mayMsgB) := by
  cases up with
  | nil => rfl
  | cons m up =>
    unfold beginL sumL addL wL
    simp
structure SameS (u : List MsgV) (a : CutS) (b : RefS) : Prop where
  txs : a.txs = if b.now = [] then b.txs else b.txs ++ [b.now]
  non : b.now = [] → b.txs = []
  sk : a.sk = b.sk
  cur : a.cur = sumL b.cur
  may : u.all mayMsgB = true → b.cur.all mayMsgB = true
  pos : ∀ g ∈ a.br, 0 < g
  br : ∀ g, 0 < g → (g ∈ a.br ↔ g ∈ b.lost)
theorem SameS.out {u : List MsgV} {a : CutS} {b : RefS} (h : SameS u a b) (l : Int × Int × Int) (g : Int) (m : MsgV) :
    cutOut l (sumL u) (u.all mayMsgB) (max g 0) a.br m = refOutB l u g b.lost m := by
  unfold cutOut refOutB fitsW
  rw [sumL_snoc, List.all_append]
  have hg : decide (0 < a.br.count (max g 0)) = (decide (0 < g) && decide (g ∈ b.lost)) := by
    rw [← Bool.decide_and]
    apply decide_eq_decide.mpr
    rw [List.count_pos_iff]
    constructor
    · intro hm
      have h0 := h.pos _ hm
      have h1 : max g 0 = g := by omega
      rw [h1] at hm
      exact ⟨by omega, (h.br g (by omega)).mp hm⟩
    · rintro ⟨h0, hm⟩
      have h1 : max g 0 = g := by omega
      rw [h1]
      exact (h.br g h0).mpr hm
  rw [hg]
  simp only [List.all_cons, List.all_nil, Bool.and_true, Bool.not_and]
theorem SameS.step {u : List MsgV} {a : CutS} {b : RefS} (h : SameS u a b) (l : Int × Int × Int) (g : Int) (i : Nat) (m : MsgV) :
    SameS u (cutStep l (sumL u) (u.all mayMsgB) (max g 0) a i m) (refStep l u g b i m) := by
  unfold cutStep refStep
  rw [h.out]
  by_cases ho : refOutB l u g b.lost m = true
  · rw [if_pos ho, if_pos ho]
    refine ⟨h.txs, h.non, by show a.sk ++ _ = b.sk ++ _; rw [h.sk], h.cur, h.may, ?_, ?_⟩
    · intro x hx
      by_cases hg : 0 < max g 0
      · simp only [hg, if_true, List.mem_append, List.mem_singleton] at hx
        rcases hx with hx | hx
        · exact h.pos x hx
        · omega
      · simp only [hg, if_false] at hx
        exact h.pos x hx
    · intro x hx
      have hb := h.br x hx
      show x ∈ (if 0 < max g 0 then a.br ++ [max g 0] else a.br) ↔ x ∈ b.lost ++ [g]
      by_cases hg : 0 < max g 0
      · rw [if_pos hg, List.mem_append, List.mem_append, List.mem_singleton, List.mem_singleton, hb, show max g 0 = g by omega]
      · rw [if_neg hg, List.mem_append, List.mem_singleton, hb]
        constructor
        · exact fun h => .inl h
        · rintro (h | h)
          · exact h
          · omega
  · rw [if_neg ho, if_neg ho]
    have hf : fitsW l (u ++ [m]) = true := by
      unfold refOutB at ho
      cases hq : fitsW l (u ++ [m]) with
      | true => rfl
      | false => rw [hq] at ho; simp at ho
    have hf2 : u.all mayMsgB = true ∧ mayMsgB m = true := by
      unfold fitsW at hf
      rw [Bool.and_eq_true, List.all_append, Bool.and_eq_true] at hf
      refine ⟨hf.1.1, ?_⟩
      have := hf.1.2
      simpa using this
    have hcm := h.may hf2.1
    have hfc : fitsW l (b.cur ++ [m]) = inL l (addL a.cur (wL m)) := by
      unfold fitsW
      rw [sumL_snoc, h.cur, List.all_append, hcm]
      simp [hf2.2]
    have hcm2 : (b.cur ++ [m]).all mayMsgB = true := by rw [List.all_append, hcm]; simp [hf2.2]
    by_cases hn : b.now = []
    · have ht : a.txs = [] := by rw [h.txs, if_pos hn, h.non hn]
      rw [if_pos ht, if_neg (by rintro ⟨h1, _⟩; exact h1 hn)]
      refine ⟨?_, ?_, h.sk, ?_, fun _ => hcm2, h.pos, h.br⟩
      · simp [hn, h.non hn]
      · intro h1; simp at h1
      · show addL a.cur (wL m) = sumL (b.cur ++ [m]); rw [sumL_snoc, h.cur]
    · have ht : a.txs = b.txs ++ [b.now] := by rw [h.txs, if_neg hn]
      rw [if_neg (by rw [ht]; simp)]
      by_cases hi : inL l (addL a.cur (wL m)) = true
      · rw [if_pos hi, if_neg (by rw [hfc, hi]; rintro ⟨_, h1⟩; cases h1)]
        refine ⟨?_, ?_, h.sk, ?_, fun _ => hcm2, h.pos, h.br⟩
        · simp [putLast, ht]
        · intro h1; simp at h1
        · show addL a.cur (wL m) = sumL (b.cur ++ [m]); rw [sumL_snoc, h.cur]
      · rw [if_neg hi, if_pos ⟨hn, by rw [hfc]; simpa using hi⟩]
        refine ⟨?_, ?_, h.sk, rfl, fun _ => by simp [hf2.2], h.pos, h.br⟩
        · simp [ht]
        · intro h1; simp at h1
theorem group_raw (gs : List Int) (n i : Nat) : groupF gs n i = max (rawG gs n i) 0 := by
  unfold groupF rawG
  split <;> rfl
theorem cut_sames (l : Int × Int × Int) (up ms : List MsgV) (gs : List Int) : ∀ k, SameS (up.take 1) (cutK l up gs ms k) (refK l up gs ms k) := by
  intro k
  induction k with
  | zero =>
    refine ⟨rfl, fun _ => rfl, rfl, ?_, fun h => h, ?_, ?_⟩
    · show (beginL up).1 = sumL (up.take 1); rw [begin_sum]
    · intro g hg; cases hg
    · intro g _; exact ⟨fun h => (by cases h), fun h => (by cases h)⟩
  | succ k ih =>
    unfold cutK refK
    cases hm : ms[k]? with
    | none => exact ih
    | some m =>
      simp only []
      rw [begin_sum, group_raw]
      exact ih.step l _ k m
theorem cut_ref (l : Int × Int × Int) (up ms : List MsgV) (gs : List Int) : refF l up ms gs = cutF l up ms gs := by
  have h := cut_sames l up ms gs ms.length
  unfold refF cutF
  rw [h.txs, h.sk]
  by_cases hn : (refK l up gs ms ms.length).now = []
  · rw [if_neg (by simp [hn]), if_pos hn]
  · rw [if_pos hn, if_neg hn]
end Go.Proofs.Ythipnkbfdkmhaaa
namespace Go.Proofs.Ythipnkbfdkmhaaa
open Go.RowKit
attribute [local go_sem] strV
set_option linter.unusedVariables false
/-- A list of lists of numbers lies there: each element is a slice of its numbers. -/
structure LL (w : World) (a : Option Addr) (xs : List (List Int)) (vs : List Value) : Prop where
  row : RowAt w a vs
  len : vs.length = xs.length
  each : ∀ (j : Nat) v zs, vs[j]? = some v → xs[j]? = some zs → ∃ (b : Option Addr) (c : Nat), v = .slice b zs.length c ∧ RowAt w b (zs.map (Value.int .i64)) ∧ zs.length ≤ maxLen
theorem LL.below {w w' : World} {a : Option Addr} {xs : List (List Int)} {vs : List Value} (h : LL w a xs vs) (hb : Below w.heap.size w w') : LL w' a xs vs :=
  ⟨h.row.below hb, h.len, fun j v zs h1 h2 => by obtain ⟨b, c, e, r, m⟩ := h.each j v zs h1 h2; exact ⟨b, c, e, r.below hb, m⟩⟩
theorem LL.at {w : World} {a : Option Addr} {xs : List (List Int)} {vs : List Value} (h : LL w a xs vs) {k : Nat} (hk : k < xs.length) :
    ∃ b off c d, a = some ⟨b, off, none⟩ ∧ b < w.heap.size ∧ w.cell? ⟨b, off + k, none⟩ = some (.slice c xs[k].length d) ∧ RowAt w c (xs[k].map (Value.int .i64)) ∧ xs[k].length ≤ maxLen := by
  have hkv : k < vs.length := by rw [h.len]; exact hk
  obtain ⟨c, d, e, r, m⟩ := h.each k vs[k] xs[k] (List.getElem?_eq_getElem hkv) (List.getElem?_eq_getElem hk)
  rcases h.row with hv | ⟨b, off, ha, hb, hc⟩
  · rw [hv] at hkv; simp at hkv
  · exact ⟨b, off, c, d, ha, hb, by rw [hc k hkv, List.getElem?_eq_getElem hkv, e], r, m⟩
theorem ll_eq {xs ys : List (List Int)} (hl : xs.length = ys.length) (h : ∀ t, t < xs.length → xs[t]? = ys[t]?) : (xs == ys) = true := by
  rw [beq_iff_eq]
  exact List.ext_getElem? (fun t => by
    rcases Nat.lt_or_ge t xs.length with h1 | h1
    · exact h t h1
    · rw [List.getElem?_eq_none h1, List.getElem?_eq_none (by omega)])
set_option maxRecDepth 100000 in
set_option maxHeartbeats 6400000 in
theorem lists_any (a a2 : Option Addr) (n n2 cap cap2 : Nat) (xs ys : List (List Int)) (vs us : List Value) (w : World) (h : LL w a xs vs) (h2 : LL w a2 ys us) (hn : xs.length = n) (hn2 : ys.length = n2) (hm : n ≤ maxLen) :
    Calls Try.prog 41 #[.slice a n cap, .slice a2 n2 cap2] w fun e w' => e = .returned (.bool (xs == ys)) ∧ Below w.heap.size w w' := by
  obtain ⟨r, hr⟩ : ∃ r, (xs == ys) = r := ⟨_, rfl⟩
  rw [hr]
  have HR := Lib.hid hr
  have HN := Lib.hid hn
  have HN2 := Lib.hid hn2
  unfold maxLen at hm
  clear hr hn hn2
  by_cases hne : n = n2
  rotate_left
  · have e1 : (((n : Nat) : Int) != ((n2 : Nat) : Int)) = true := by rw [bne_iff_ne]; omega
    have e1n : (n != n2) = true := by rw [bne_iff_ne]; exact hne
    obtain rfl : r = false := by rw [← HR.out, beq_eq_false_iff_ne]; intro e; exact hne (by rw [← HN.out, ← HN2.out, e])
    go_enter Try.func41, Try.ntmps41
    go_wp2
    go_ret
    exact ⟨by first | rfl | simp, Below.refl _ _⟩
  subst hne
  go_enter Try.func41, Try.ntmps41
  go_upto_region 4 with fail
  go_loopw [5] (fun i wr => ∃ k : Nat, k ≤ n ∧ i = .int .i64 k ∧ Hid (∀ t, t < k → xs[t]? = ys[t]?) ∧ Below w.heap.size w wr) (fun i _ => n - (intOf i).toNat)
  case atStart => exact ⟨0, Nat.zero_le _, rfl, Lib.hid (fun t ht => by omega), Below.refl _ _⟩
  case round =>
    obtain ⟨k, hk, rfl, HA, hbel⟩ := hrel
    by_cases hlt : k < n
    rotate_left
    · have d9 : decide ((k : Int) < (n : Int)) = false := decide_eq_false (by omega)
      have d9n : decide (k < n) = false := decide_eq_false hlt
      obtain rfl : r = true := by rw [← HR.out]; exact ll_eq (by rw [HN.out, HN2.out]) (fun t ht => HA.out t (by rw [HN.out] at ht; omega))
      go_wp2
      go_ret
      exact ⟨by first | rfl | simp, hbel⟩
    have dd : decide ((k : Int) < (n : Int)) = true := decide_eq_true (by omega)
    have ddn : decide (k < n) = true := decide_eq_true hlt
    have hkl : k < xs.length := by rw [HN.out]; exact hlt
    have hkl2 : k < ys.length := by rw [HN2.out]; exact hlt
    obtain ⟨b1, o1, p1, d1, rfl, hb1, hc1, hr1, hm1⟩ := (h.below hbel).at hkl
    obtain ⟨b2, o2, p2, d2, rfl, hb2, hc2, hr2, hm2⟩ := (h2.below hbel).at hkl2
    have HX := Lib.hid (List.getElem?_eq_getElem hkl)
    have HY := Lib.hid (List.getElem?_eq_getElem hkl2)
    obtain ⟨X, hX⟩ : ∃ z, xs[k] = z := ⟨_, rfl⟩
    obtain ⟨Y, hY⟩ : ∃ z, ys[k] = z := ⟨_, rfl⟩
    rw [hX] at hc1 hr1 hm1 HX
    rw [hY] at hc2 hr2 hm2 HY
    have CI := fun W (hb : Below wr.heap.size wr W) => ints_any (cap := d1) (cap' := d2) (hr1.below hb) (hr2.below hb) rfl rfl hm1 hm2
    obtain ⟨eb, heb⟩ : ∃ z, (X == Y) = z := ⟨_, rfl⟩
    simp only [heb] at CI
    have HEB := Lib.hid heb
    have n0 : (0 : Int) ≤ (k : Int) := by omega
    have n1 : (k : Int) < (n : Int) := by omega
    have n2' : ((k : Nat) : Int).toNat = k := by omega
    clear hX hY heb
    go_upto_region 6 with fail
    refine wp_region_facts [Fact.eq (.slice (some ⟨b1, o1, none⟩) n cap), Fact.eq (.int .i64 (k : Int)), Fact.eq (.pointer (some ⟨b1, o1 + k, none⟩)), Fact.eq (.slice p1 X.length d1), Fact.eq (.slice (some ⟨b2, o2, none⟩) n cap2), Fact.eq (.int .i64 (k : Int)), Fact.eq (.pointer (some ⟨b2, o2 + k, none⟩)), Fact.eq (.slice p2 Y.length d2), Fact.eq (.bool eb), Fact.eq (.bool (!eb))] (by kernel_rfl) (by kernel_rfl) (by kernel_rfl) (by kernel_rfl) (fun x => by simp only [fillFrom, Act.put, List.setIfInBounds_toArray, List.set_cons_succ, List.set_cons_zero]; rfl) ?_ ?_
    · refine ⟨?_, ?_, ?_, ?_, ?_, ?_, ?_, ?_, ?_, ?_, trivial⟩
      · intro x w' hbw hd
        clear hd
        go_wp2_with fail
        exact frPost_mk rfl (by repeat (first | assumption | exact Below.refl _ _ | refine bch ?_ (by assumption) | refine Below.alloc ?_ (by simp) _)) rfl
      · intro x w' hbw hd
        clear hd
        go_wp2_with fail
        exact frPost_mk rfl (by repeat (first | assumption | exact Below.refl _ _ | refine bch ?_ (by assumption) | refine Below.alloc ?_ (by simp) _)) rfl
      · intro x w' hbw hd
        have d0 : x 0 = .slice (some ⟨b1, o1, none⟩) n cap := hd 0 rfl
        have d1 : x 1 = .int .i64 (k : Int) := hd 1 rfl
        clear hd
        go_wp2_with fail
        exact frPost_mk rfl (by repeat (first | assumption | exact Below.refl _ _ | refine bch ?_ (by assumption) | refine Below.alloc ?_ (by simp) _)) (by first | rfl | (show Value.pointer _ = Value.pointer _; simp))
      · intro x w' hbw hd
        have d2 : x 2 = .pointer (some ⟨b1, o1 + k, none⟩) := hd 2 rfl
        clear hd
        have cq : w'.cell? ⟨b1, o1 + k, none⟩ = some (.slice p1 X.length d1) := by rw [hbw.cell (p := ⟨b1, o1 + k, none⟩) hb1]; exact hc1
        go_wp2_with (first | fail)
        exact frPost_mk rfl (by repeat (first | assumption | exact Below.refl _ _ | refine bch ?_ (by assumption) | refine Below.alloc ?_ (by simp) _)) rfl
      · intro x w' hbw hd
        clear hd
        go_wp2_with fail
        exact frPost_mk rfl (by repeat (first | assumption | exact Below.refl _ _ | refine bch ?_ (by assumption) | refine Below.alloc ?_ (by simp) _)) rfl
      · intro x w' hbw hd
        clear hd
        go_wp2_with fail
        exact frPost_mk rfl (by repeat (first | assumption | exact Below.refl _ _ | refine bch ?_ (by assumption) | refine Below.alloc ?_ (by simp) _)) rfl
      · intro x w' hbw hd
        have d4 : x 4 = .slice (some ⟨b2, o2, none⟩) n cap2 := hd 4 rfl
        have d5 : x 5 = .int .i64 (k : Int) := hd 5 rfl
        clear hd
        go_wp2_with fail
        exact frPost_mk rfl (by repeat (first | assumption | exact Below.refl _ _ | refine bch ?_ (by assumption) | refine Below.alloc ?_ (by simp) _)) (by first | rfl | (show Value.pointer _ = Value.pointer _; simp))
      · intro x w' hbw hd
        have d6 : x 6 = .pointer (some ⟨b2, o2 + k, none⟩) := hd 6 rfl
        clear hd
        have cq : w'.cell? ⟨b2, o2 + k, none⟩ = some (.slice p2 Y.length d2) := by rw [hbw.cell (p := ⟨b2, o2 + k, none⟩) hb2]; exact hc2
        go_wp2_with (first | fail)
        exact frPost_mk rfl (by repeat (first | assumption | exact Below.refl _ _ | refine bch ?_ (by assumption) | refine Below.alloc ?_ (by simp) _)) rfl
      · intro x w' hbw hd
        have d3 : x 3 = .slice p1 X.length d1 := hd 3 rfl
        have d7 : x 7 = .slice p2 Y.length d2 := hd 7 rfl
        clear hd
        have CC := CI w' hbw
        go_wp2_with (first | (go_at_call 42; refine CC.mono ?_; rintro e wx ⟨rfl, hbx⟩))
        exact frPost_mk rfl (by repeat (first | assumption | exact Below.refl _ _ | refine bch ?_ (by assumption) | refine Below.alloc ?_ (by simp) _)) rfl
      · intro x w' hbw hd
        have d8 : x 8 = .bool eb := hd 8 rfl
        clear hd
        go_wp2_with fail
        exact frPost_mk rfl (by repeat (first | assumption | exact Below.refl _ _ | refine bch ?_ (by assumption) | refine Below.alloc ?_ (by simp) _)) rfl
    intro x w6 hbw hall
    have hx9 : x 9 = .bool (!eb) := hall 9 (by decide)
    clear hall
    simp only [hx9]
    cases eb
    · obtain rfl : r = false := by
        rw [← HR.out, beq_eq_false_iff_ne]
        intro e
        have h9 := HX.out
        rw [e, HY.out] at h9
        have h8 := HEB.out
        rw [beq_eq_false_iff_ne] at h8
        exact h8 (Option.some.inj h9).symm
      go_wp2
      go_ret
      exact ⟨by first | rfl | simp, hbel.trans (hbw.mono hbel.size)⟩
    · go_wp2
      go_roundw
      case rel => exact ⟨k + 1, by omega, by go_num, Lib.hid (fun t ht => by
          rcases Nat.lt_or_ge t k with h9 | h9
          · exact HA.out t h9
          · obtain rfl : t = k := by omega
            rw [HX.out, HY.out, beq_iff_eq.1 HEB.out]), hbel.trans (hbw.mono hbel.size)⟩
      case measure => (simp [intOf]) <;> omega
end Go.Proofs.Ythipnkbfdkmhaaa
namespace Go.Proofs.Ythipnkbfdkmhaaa
open Go.RowKit
attribute [local go_sem] strV
set_option linter.unusedVariables false
structure Fam (w : World) (base : Nat) (tv sv lv nv cv : Value) (vs : List Value) (txs : List (List Int)) (sk lo now : List Int) (cs : List Value) (cn : Nat) : Prop where
  o : w.ownsRow base 59 1 tv vs.length vs
  s : w.ownsInts base 3 .i64 sv sk
  l : w.ownsInts base 3 .i64 lv lo
  n : w.ownsInts base 3 .i64 nv now
  c : w.ownsRow base 34 50 cv cn cs
  len : vs.length = txs.length
  i : ∀ (j : Nat) v zs, vs[j]? = some v → txs[j]? = some zs → w.ownsInts base 3 .i64 v zs
  ap : List.Pairwise Apart (tv :: sv :: lv :: nv :: cv :: vs)
section
variable {w w' : World} {base cn : Nat} {tv sv lv nv cv : Value} {vs : List Value} {txs : List (List Int)} {sk lo now : List Int} {cs : List Value}
theorem Fam.ivl (h : Fam w base tv sv lv nv cv vs txs sk lo now cs cn) {v : Value} (hv : v ∈ vs) : ∀ k, v.ownBlock = some k → base ≤ k ∧ k < w.heap.size := by
  obtain ⟨j, hj, rfl⟩ := List.getElem_of_mem hv
  have hj2 : j < txs.length := by rw [← h.len]; exact hj
  exact (h.i j _ _ (List.getElem?_eq_getElem hj) (List.getElem?_eq_getElem hj2)).1.lt
theorem Fam.lts (h : Fam w base tv sv lv nv cv vs txs sk lo now cs cn) : ∀ v ∈ tv :: sv :: lv :: nv :: cv :: vs, ∀ k, v.ownBlock = some k → base ≤ k ∧ k < w.heap.size := by
  intro v hv
  simp only [List.mem_cons] at hv
  rcases hv with rfl | rfl | rfl | rfl | rfl | hv
  · exact h.o.lt
  · exact h.s.1.lt
  · exact h.l.1.lt
  · exact h.n.1.lt
  · exact h.c.lt
  · exact h.ivl hv
theorem apart_new {a a' : Value} {l : List Value} {N : Nat} (h : List.Pairwise Apart (a :: l)) (hat : a'.ownBlock = a.ownBlock ∨ a'.ownBlock = some N) (hl : ∀ v ∈ l, ∀ k, v.ownBlock = some k → k < N) : List.Pairwise Apart (a' :: l) := by
  rw [List.pairwise_cons] at h ⊢
  exact ⟨fun b hb => (h.1 b hb).new hat (hl b hb), h.2⟩
theorem apart_fresh {a' : Value} {l : List Value} {N : Nat} (h : List.Pairwise Apart l) (hat : ∀ k, a'.ownBlock = some k → N ≤ k) (hl : ∀ v ∈ l, ∀ k, v.ownBlock = some k → k < N) : List.Pairwise Apart (a' :: l) := by
  rw [List.pairwise_cons]
  refine ⟨fun b hb => ?_, h⟩
  cases ha : a'.ownBlock with
  | none => exact .inl ha
  | some k =>
    refine .inr (.inr (fun e => ?_))
    have h1 := hat k ha
    rw [ha] at e
    have h2 := hl b hb k e.symm
    omega
theorem ap_perm {l l' : List Value} (h : List.Pairwise Apart l) (hp : l.Perm l') : List.Pairwise Apart l' := (List.Perm.pairwise_iff (fun h => h.symm) hp).1 h
theorem Fam.kept (h : Fam w base tv sv lv nv cv vs txs sk lo now cs cn) {row : Option Nat} (hg : w.grownBy w' row) (hr : ∀ k, row = some k → k < base) : Fam w' base tv sv lv nv cv vs txs sk lo now cs cn := by
  have off : ∀ v : Value, (∀ k, v.ownBlock = some k → base ≤ k ∧ k < w.heap.size) → v.ownBlock = none ∨ v.ownBlock ≠ row := fun v hv => by
    cases hk : v.ownBlock with
    | none => exact .inl rfl
    | some k =>
      refine .inr (fun e => ?_)
      have := hr k e.symm
      have := (hv k hk).1
      omega
  exact ⟨h.o.kept hg (off _ h.o.lt), h.s.kept hg (off _ h.s.1.lt), h.l.kept hg (off _ h.l.1.lt), h.n.kept hg (off _ h.n.1.lt), h.c.kept hg (off _ h.c.lt), h.len,
    fun j v zs hv hz => (h.i j v zs hv hz).kept hg (off _ (h.i j v zs hv hz).1.lt), h.ap⟩
theorem Fam.below (h : Fam w base tv sv lv nv cv vs txs sk lo now cs cn) (hb : Below w.heap.size w w') : Fam w' base tv sv lv nv cv vs txs sk lo now cs cn := h.kept (grown_below hb) (fun k e => by cases e)
theorem Fam.nil {base : Nat} (hc : w.ownsRow base 34 50 cv cn cs) : Fam w base (.slice none 0 0) (.slice none 0 0) (.slice none 0 0) (.slice none 0 0) cv [] [] [] [] [] cs cn := by
  refine ⟨World.ownsRow_nil _ _ _ _, World.ownsInts_nil _ _ _ _, World.ownsInts_nil _ _ _ _, World.ownsInts_nil _ _ _ _, hc, rfl, fun j v zs h => (by simp at h), ?_⟩
  exact .cons (fun b _ => .inl rfl) (.cons (fun b _ => .inl rfl) (.cons (fun b _ => .inl rfl) (.cons (fun b _ => .inl rfl) (.cons (fun b hb => by cases hb) .nil))))
/-- One index more is skipped. -/
theorem Fam.skip (h : Fam w base tv sv lv nv cv vs txs sk lo now cs cn) {sv' : Value} {x : Int} (hx : (Lit.int .i64 x).wf = true) (hown : w'.ownsRow base 3 1 sv' (sk.length + 1) (sk.map (Value.int .i64) ++ [.int .i64 x])) (hg : w.grownBy w' sv.ownBlock)
    (hat : sv'.ownBlock = sv.ownBlock ∨ sv'.ownBlock = some w.heap.size) : Fam w' base tv sv' lv nv cv vs txs (sk ++ [x]) lo now cs cn := by
  have hp : (tv :: sv :: lv :: nv :: cv :: vs).Perm (sv :: tv :: lv :: nv :: cv :: vs) := List.Perm.swap ..
  have h2 := ap_perm h.ap hp
  have h3 := (List.pairwise_cons.1 h2).1
  have h4 := apart_new h2 hat (fun v hv k hk => (h.lts v (hp.symm.subset (List.mem_cons_of_mem _ hv)) k hk).2)
  have m : ∀ b, b ∈ (tv :: lv :: nv :: cv :: vs) → b.ownBlock = none ∨ b.ownBlock ≠ sv.ownBlock := fun b hb => (h3 b hb).off
  exact ⟨h.o.kept hg (m _ (by simp)), h.s.appended hown hx, h.l.kept hg (m _ (by simp)), h.n.kept hg (m _ (by simp)), h.c.kept hg (m _ (by simp)), h.len,
    fun j v zs hv hz => (h.i j v zs hv hz).kept hg (m _ (by simp [List.mem_of_getElem? hv])), ap_perm h4 (List.Perm.swap ..)⟩
/-- One group more is lost. -/
theorem Fam.lose (h : Fam w base tv sv lv nv cv vs txs sk lo now cs cn) {lv' : Value} {x : Int} (hx : (Lit.int .i64 x).wf = true) (hown : w'.ownsRow base 3 1 lv' (lo.length + 1) (lo.map (Value.int .i64) ++ [.int .i64 x])) (hg : w.grownBy w' lv.ownBlock)
    (hat : lv'.ownBlock = lv.ownBlock ∨ lv'.ownBlock = some w.heap.size) : Fam w' base tv sv lv' nv cv vs txs sk (lo ++ [x]) now cs cn := by
  have hq : ∀ z : Value, (tv :: sv :: z :: nv :: cv :: vs).Perm (z :: tv :: sv :: nv :: cv :: vs) := fun z => List.perm_middle (l₁ := [tv, sv])
  have hp := hq lv
  have h2 := ap_perm h.ap hp
  have h3 := (List.pairwise_cons.1 h2).1
  have h4 := apart_new h2 hat (fun v hv k hk => (h.lts v (hp.symm.subset (List.mem_cons_of_mem _ hv)) k hk).2)
  have m : ∀ b, b ∈ (tv :: sv :: nv :: cv :: vs) → b.ownBlock = none ∨ b.ownBlock ≠ lv.ownBlock := fun b hb => (h3 b hb).off
  exact ⟨h.o.kept hg (m _ (by simp)), h.s.kept hg (m _ (by simp)), h.l.appended hown hx, h.n.kept hg (m _ (by simp)), h.c.kept hg (m _ (by simp)), h.len,
    fun j v zs hv hz => (h.i j v zs hv hz).kept hg (m _ (by simp [List.mem_of_getElem? hv])), ap_perm h4 (hq lv').symm⟩
/-- What is under way is laid anew. -/
theorem Fam.news (h : Fam w base tv sv lv nv cv vs txs sk lo now cs cn) {nv' : Value} {xs : List Int} (hown : w'.ownsInts w.heap.size 3 .i64 nv' xs) (hb : Below w.heap.size w w') (hB : base ≤ w.heap.size) : Fam w' base tv sv lv nv' cv vs txs sk lo xs cs cn := by
  have hq : ∀ z : Value, (tv :: sv :: lv :: z :: cv :: vs).Perm (z :: tv :: sv :: lv :: cv :: vs) := fun z => List.perm_middle (l₁ := [tv, sv, lv])
  have hp := hq nv
  have h2 := (List.pairwise_cons.1 (ap_perm h.ap hp)).2
  have h4 := apart_fresh (a' := nv') h2 (fun k hk => (hown.1.lt k hk).1) (fun v hv k hk => (h.lts v (hp.symm.subset (List.mem_cons_of_mem _ hv)) k hk).2)
  have hf := h.below hb
  exact ⟨hf.o, hf.s, hf.l, ⟨own_lowerM hown.1 hB, hown.2⟩, hf.c, hf.len, hf.i, ap_perm h4 (hq nv').symm⟩
/-- The messages under way are laid anew. -/
theorem Fam.curs (h : Fam w base tv sv lv nv cv vs txs sk lo now cs cn) {cv' : Value} {ds : List Value} {dn : Nat} (hown : w'.ownsRow w.heap.size 34 50 cv' dn ds) (hb : Below w.heap.size w w') (hB : base ≤ w.heap.size) : Fam w' base tv sv lv nv cv' vs txs sk lo now ds dn := by
  have hq : ∀ z : Value, (tv :: sv :: lv :: nv :: z :: vs).Perm (z :: tv :: sv :: lv :: nv :: vs) := fun z => List.perm_middle (l₁ := [tv, sv, lv, nv])
  have hp := hq cv
  have h2 := (List.pairwise_cons.1 (ap_perm h.ap hp)).2
  have h4 := apart_fresh (a' := cv') h2 (fun k hk => (hown.lt k hk).1) (fun v hv k hk => (h.lts v (hp.symm.subset (List.mem_cons_of_mem _ hv)) k hk).2)
  have hf := h.below hb
  exact ⟨hf.o, hf.s, hf.l, hf.n, own_lowerM hown hB, hf.len, hf.i, ap_perm h4 (hq cv').symm⟩
/-- What is under way is closed. -/
theorem Fam.close (h : Fam w base tv sv lv nv cv vs txs sk lo now cs cn) {tv' : Value} (hown : w'.ownsRow base 59 1 tv' (vs.length + 1) (vs ++ [nv])) (hg : w.grownBy w' tv.ownBlock)
    (hat : tv'.ownBlock = tv.ownBlock ∨ tv'.ownBlock = some w.heap.size) : Fam w' base tv' sv lv (.slice none 0 0) (.slice none 0 0) (vs ++ [nv]) (txs ++ [now]) sk lo [] [] 0 := by
  have h3 := (List.pairwise_cons.1 h.ap).1
  have h4 := apart_new h.ap hat (fun v hv k hk => (h.lts v (List.mem_cons_of_mem _ hv) k hk).2)
  have m : ∀ b, b ∈ (sv :: lv :: nv :: cv :: vs) → b.ownBlock = none ∨ b.ownBlock ≠ tv.ownBlock := fun b hb => (h3 b hb).off
  refine ⟨by simpa using hown, h.s.kept hg (m _ (by simp)), h.l.kept hg (m _ (by simp)), World.ownsInts_nil _ _ _ _, World.ownsRow_nil _ _ _ _, by simp [h.len], fun j v zs hv hz => ?_, ?_⟩
  · rcases Nat.lt_trichotomy j vs.length with hj | hj | hj
    · rw [List.getElem?_append_left hj] at hv
      rw [List.getElem?_append_left (by rw [← h.len]; exact hj)] at hz
      exact (h.i j v zs hv hz).kept hg (m _ (by simp [List.mem_of_getElem? hv]))
    · subst hj
      rw [List.getElem?_append_right (Nat.le_refl _), Nat.sub_self] at hv
      rw [h.len, List.getElem?_append_right (Nat.le_refl _), Nat.sub_self] at hz
      obtain rfl := Option.some.inj hv
      obtain rfl := Option.some.inj hz
      exact h.n.kept hg (m _ (by simp))
    · rw [List.getElem?_eq_none (by simp; omega)] at hv; cases hv
  · have e1 : (tv' :: sv :: lv :: nv :: cv :: vs).Perm (cv :: tv' :: sv :: lv :: nv :: vs) := List.perm_middle (l₁ := [tv', sv, lv, nv])
    have h5 := (List.pairwise_cons.1 (ap_perm h4 e1)).2
    have e2 : (tv' :: sv :: lv :: nv :: vs).Perm (tv' :: sv :: lv :: (vs ++ [nv])) := ((List.perm_append_comm (l₁ := [nv]) (l₂ := vs)).cons lv |>.cons sv |>.cons tv')
    have h6 := ap_perm h5 e2
    have h7 : List.Pairwise Apart (Value.slice none 0 0 :: Value.slice none 0 0 :: tv' :: sv :: lv :: (vs ++ [nv])) := by
      rw [List.pairwise_cons, List.pairwise_cons]
      exact ⟨fun _ _ => .inl rfl, fun _ _ => .inl rfl, h6⟩
    exact ap_perm h7 (List.perm_append_comm (l₁ := [Value.slice none 0 0, Value.slice none 0 0]) (l₂ := [tv', sv, lv]) |>.append_right (vs ++ [nv]))
end
end Go.Proofs.Ythipnkbfdkmhaaa
namespace Go.Proofs.Ythipnkbfdkmhaaa
open Go.RowKit
attribute [local go_sem] strV
set_option linter.unusedVariables false
theorem ll_own {w : World} {base : Nat} {tv : Value} {vs : List Value} {txs : List (List Int)} (o : w.ownsRow base 59 1 tv vs.length vs) (len : vs.length = txs.length)
    (i : ∀ (j : Nat) v zs, vs[j]? = some v → txs[j]? = some zs → w.ownsInts base 3 .i64 v zs) :
    ∃ a cap, tv = .slice a txs.length cap ∧ LL w a txs vs ∧ txs.length ≤ maxLen := by
  obtain ⟨a, cap, hv, hr, hc1, hc2, _⟩ := own_slice o
  refine ⟨a, cap, by rw [← len]; exact hv, ⟨hr, len, fun j v zs h1 h2 => ?_⟩, by omega⟩
  obtain ⟨b, c, hv2, hr2, hd1, hd2, _⟩ := own_slice (i j v zs h1 h2).1
  exact ⟨b, c, hv2, hr2, by omega⟩
theorem Nest.ll {w : World} {base : Nat} {tv sv : Value} {vs : List Value} {txs : List (List Int)} {sk : List Int} (h : Nest w base tv sv vs txs sk) :
    (∃ a cap, tv = .slice a txs.length cap ∧ LL w a txs vs ∧ txs.length ≤ maxLen) ∧ ∃ b cap, sv = .slice b sk.length cap ∧ RowAt w b (sk.map (Value.int .i64)) ∧ sk.length ≤ maxLen := by
  refine ⟨ll_own h.o h.len h.i, ?_⟩
  obtain ⟨b, c, hv2, hr2, hd1, hd2, _⟩ := own_slice h.s.1
  exact ⟨b, c, hv2, hr2, by omega⟩
theorem Fam.ll {w : World} {base cn : Nat} {tv sv lv nv cv : Value} {vs : List Value} {txs : List (List Int)} {sk lo now : List Int} {cs : List Value} (h : Fam w base tv sv lv nv cv vs txs sk lo now cs cn) :
    (∃ a cap, tv = .slice a txs.length cap ∧ LL w a txs vs ∧ txs.length ≤ maxLen) ∧ ∃ b cap, sv = .slice b sk.length cap ∧ RowAt w b (sk.map (Value.int .i64)) ∧ sk.length ≤ maxLen := by
  refine ⟨ll_own h.o h.len h.i, ?_⟩
  obtain ⟨b, c, hv2, hr2, hd1, hd2, _⟩ := own_slice h.s.1
  exact ⟨b, c, hv2, hr2, by omega⟩
end Go.Proofs.Ythipnkbfdkmhaaa
