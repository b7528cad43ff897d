/- The document's transactions in bytes. The messages of a transaction, by the document. -/
import Derived.Test.YthipnkbfdkmhaaaGF
import Derived.Test.YthipnkbfdkmhaaaMsg12
import Derived.Test.YthipnkbfdkmhaaaMsg9
import Derived.Deep.MidRow
import Derived.LoopTactic
import Derived.BigFrame
import Derived.WalkKit
import Derived.ProofKit
import Derived.Handy
import Derived.Below
import Derived.Lib.Hide
import Derived.IntWalk
import Derived.Outline
import Derived.WalkLawsBesides
import Derived.WalkSpells
import Derived.Test.YthipnkbfdkmhaaaRd3
import Derived.Test.YthipnkbfdkmhaaaGK
namespace Go.Proofs.Ythipnkbfdkmhaaa
open Go.RowKit
attribute [local go_sem] strV
set_option linter.unusedVariables false
theorem ba_app2 (a b : List UInt8) : (⟨a.toArray⟩ : ByteArray) ++ ⟨b.toArray⟩ = ⟨(a ++ b).toArray⟩ := by
  apply ByteArray.ext; simp
set_option maxRecDepth 100000 in
set_option maxHeartbeats 6400000 in
theorem refTx_any (a : Option Addr) (n cap : Nat) (ms : List MsgV) (w : World) (hr : RowAt w a (ms.flatMap MsgV.cellsL)) (hok : ∀ m ∈ ms, m.ok w) (hn : ms.length = n) :
    Calls Try.prog 29 #[.slice a n cap] w fun e w' => e = .returned (.tuple #[.string (encTx ms).1, .int .i64 (encTx ms).2]) ∧ Below w.heap.size w w' := by
  have HN := Lib.hid hn
  by_cases h64 : 64 < n
  · have d64 : decide (64 < (n : Int)) = true := decide_eq_true (by omega)
    rw [show encTx ms = (⟨#[]⟩, 22) by unfold encTx; rw [if_pos (by omega)]]
    go_enter Try.func29, Try.ntmps29
    go_wp2
    go_returns
    exact ⟨rfl, Below.refl _ _⟩
  have d64 : decide (64 < (n : Int)) = false := decide_eq_false (by omega)
  have HE : Hid (encTx ms = if ms.all mayMsgB then (⟨(putL (n : Int) ++ ms.flatMap txItem).toArray⟩, 0) else (⟨#[]⟩, 1)) := Lib.hid (by unfold encTx; rw [if_neg (by omega)]; unfold txBy; rw [hn])
  obtain ⟨X, hX⟩ : ∃ X, encTx ms = X := ⟨_, rfl⟩
  rw [hX] at HE ⊢
  have hp0 := putL_len' (n : Int)
  have PN := fun W => putNum_any (n : Int) W
  unfold strV at PN
  obtain ⟨P0, hP0⟩ : ∃ P, putL (n : Int) = P := ⟨_, rfl⟩
  rw [hP0] at HE hp0
  simp only [hP0] at PN
  clear hn hX hP0
  have hS0 : (⟨P0.toArray⟩ : ByteArray).data.toList = P0 := rfl
  obtain ⟨S0, hs0⟩ : ∃ S : ByteArray, (⟨P0.toArray⟩ : ByteArray) = S := ⟨_, rfl⟩
  rw [hs0] at hS0
  simp only [hs0] at PN
  have HS0 := Lib.hid hS0
  clear hs0 hS0
  have hbel := Below.refl w.heap.size w
  go_enter Try.func29, Try.ntmps29
  go_upto_region 5 with (go_at_call 60; refine (PN _).mono ?_; rintro e w3 ⟨rfl, hb⟩; have hbel := hbel.trans (hb.mono hbel.size); clear hb)
  clear PN
  go_loopw [4, 5] (fun y i wr => ∃ (k : Nat) (S : ByteArray), k ≤ n ∧ i = .int .i64 k ∧ y = .string S ∧ Hid ((ms.take k).all mayMsgB = true) ∧ Hid (S.data.toList = P0 ++ (ms.take k).flatMap txItem) ∧ Below w.heap.size w wr) (fun _ i _ => n - (intOf i).toNat)
  case atStart => exact ⟨0, S0, Nat.zero_le _, rfl, rfl, Lib.hid rfl, Lib.hid (by rw [HS0.out]; simp), hbel⟩
  case round =>
    clear hbel
    obtain ⟨k, S, hk, rfl, rfl, HA, HW, hbel⟩ := hrel
    by_cases hlt : k < n
    · have d1 : decide ((k : Int) < (n : Int)) = true := decide_eq_true (by omega)
      have d1n : decide (k < n) = true := decide_eq_true hlt
      have hkl : k < ms.length := by rw [HN.out]; exact hlt
      obtain ⟨b1, o1, rfl, hb1, hg1⟩ := msg_range (hr.below hbel) hkl
      have ok1 := (hok _ (List.getElem_mem hkl)).below hbel
      have hta := all_takeL (p := mayMsgB) hkl
      have hft := flat_takeB (f := txItem) hkl
      have hbd := fun h => all_badL (p := mayMsgB) hkl h
      have hle : S.size ≤ 500000 := by
        have := txItems_le HA.out
        rw [List.length_take] at this
        have : min k ms.length ≤ 64 := by omega
        rw [← str_len, HW.out, List.length_append]
        omega
      obtain ⟨m, hm9⟩ : ∃ m, ms[k] = m := ⟨_, rfl⟩
      rw [hm9] at hg1 ok1 hta hft hbd
      have HTA := Lib.hid hta
      have HFT := Lib.hid hft
      have CE := refEncMsg_any m wr ok1
      clear hm9 hta hft
      have n0 : (0 : Int) ≤ (k : Int) := by omega
      have n1' : (k : Int) < (n : Int) := by omega
      have n2' : ((k : Nat) : Int).toNat = k := by omega
      cases hM : mayMsgB m
      · rw [show encMsg m = .tuple #[.string ⟨#[]⟩, .int .i64 1] by unfold encMsg; rw [hM]; rfl] at CE
        have hE : X = (⟨#[]⟩, 1) := by rw [HE.out, hbd hM]; rfl
        subst hE
        clear hbd
        go_wp2_with (first | (refine wpList_load_mid rfl 34 (.tmp 23) rfl b1 _ rfl m.row.toList _ hg1 Try.underlying34 rfl (msg_info _) ?_; rw [Array.toArray_toList]) | (go_at_call 20; refine CE.mono ?_; rintro e w6 ⟨rfl, hb⟩; have hbel := hbel.trans (hb.mono hbel.size); clear hb))
        go_returns
        exact ⟨rfl, hbel⟩
      · rw [show encMsg m = .tuple #[.string ⟨(msgBy m).toArray⟩, .int .i64 0] by unfold encMsg; rw [hM]; rfl] at CE
        have hml := msgBy_le hM
        have hsz : (⟨(msgBy m).toArray⟩ : ByteArray).size ≤ 1000000 := by rw [bytes_size]; omega
        have HT : Hid (txItem m = putL (((⟨(msgBy m).toArray⟩ : ByteArray).size : Nat) : Int) ++ (⟨(msgBy m).toArray⟩ : ByteArray).data.toList) := Lib.hid rfl
        have hti := txItem_le hM
        obtain ⟨T, hT⟩ : ∃ T : ByteArray, (⟨(msgBy m).toArray⟩ : ByteArray) = T := ⟨_, rfl⟩
        rw [hT] at CE hsz HT
        have PT := fun W => refPutText_any T W hsz
        unfold strV at PT
        rw [← HT.out] at PT
        obtain ⟨U, hU⟩ : ∃ U : ByteArray, (⟨(txItem m).toArray⟩ : ByteArray) = U := ⟨_, rfl⟩
        have hUl : U.data.toList = txItem m := by rw [← hU]
        have hUs : U.size ≤ 10000 := by rw [← str_len, hUl]; omega
        simp only [hU] at PT
        have HUL := Lib.hid hUl
        have hcat : ¬ 9223372036854775807 < S.size + U.size := by omega
        clear hT hml hU hUl hti hbd
        go_wp2_with (first | (refine wpList_load_mid rfl 34 (.tmp 23) rfl b1 _ rfl m.row.toList _ hg1 Try.underlying34 rfl (msg_info _) ?_; rw [Array.toArray_toList]) | (go_at_call 20; refine CE.mono ?_; rintro e w6 ⟨rfl, hb⟩; have hbel := hbel.trans (hb.mono hbel.size); clear hb) | (go_at_call 63; refine (PT _).mono ?_; rintro e w7 ⟨rfl, hb⟩; have hbel := hbel.trans (hb.mono hbel.size); clear hb))
        go_roundw
        case rel => exact ⟨k + 1, S ++ U, by omega, by go_num, rfl, Lib.hid (by rw [HTA.out, HA.out, hM]; rfl), Lib.hid (by rw [HFT.out, str_append, HW.out, HUL.out, List.append_assoc]), hbel⟩
        case measure => (simp [intOf]) <;> omega
    · have d9 : decide ((k : Int) < (n : Int)) = false := decide_eq_false (by omega)
      have d9n : decide (k < n) = false := decide_eq_false hlt
      have hA := HA.out
      have hW := HW.out
      rw [List.take_of_length_le (by rw [HN.out]; omega)] at hA hW
      have hE : X = (S, 0) := by
        rw [HE.out, hA, if_pos rfl, ← hW]
      subst hE
      clear hA hW
      go_wp2
      go_returns
      exact ⟨rfl, hbel⟩
end Go.Proofs.Ythipnkbfdkmhaaa
namespace Go.Proofs.Ythipnkbfdkmhaaa
open Go.RowKit
attribute [local go_sem] strV
set_option linter.unusedVariables false
set_option maxRecDepth 100000 in
set_option maxHeartbeats 12800000 in
theorem refUntx_any (v : ByteArray) (w : World) (hv : v.size ≤ 1000000000) :
    Calls Try.prog 31 #[.string v] w fun e w' => untxPost w v e w' := by
  by_cases h20 : 1048576 < v.size
  · have d20 : decide (1048576 < (v.size : Int)) = true := decide_eq_true (by omega)
    have hD : decTx v = ([], 21) := by unfold decTx; rw [if_pos h20]
    unfold untxPost
    rw [hD]
    clear hD
    go_enter Try.func31, Try.ntmps31
    go_wp2
    go_returns
    exact ⟨none, 0, 0, [], rfl, rfl, rfl, RowAt.nil _ _, (fun m h => by cases h), Nat.le_refl _, Nat.zero_le _, Below.refl _ _⟩
  have d20 : decide (1048576 < (v.size : Int)) = false := decide_eq_false (by omega)
  have C4 := fun b W h => qnumK_all b W v 0 0 0 72057594037927935 h hv
  have hcv := numG_val (s := v) (a := 0) (e := 0) (m := 72057594037927935)
  obtain ⟨⟨Ni, a4, e4⟩, h4⟩ : ∃ x, numG v 0 0 0 72057594037927935 = x := ⟨_, rfl⟩
  rw [h4] at hcv
  simp only at hcv
  obtain ⟨N, rfl⟩ : ∃ m : Nat, Ni = m := ⟨Ni.toNat, by omega⟩
  obtain ⟨⟨es, a5, e5⟩, h5⟩ : ∃ x, listP txP N v a4 e4 = x := ⟨_, rfl⟩
  have hD : decTx v = if 64 < (N : Int) then ([], 22) else if endF v a5 e5 = 0 then (es, 0) else ([], endF v a5 e5) := by
    unfold decTx
    rw [if_neg h20, h4]
    simp only [Int.toNat_natCast, h5]
  simp only [h4] at C4
  have HD := Lib.hid hD
  have H5 := Lib.hid h5
  have HNe : Hid (e4 ≠ 0 → N = 0) := Lib.hid fun q => by have := hcv.2 q; omega
  clear hD h4 h5 hcv
  obtain ⟨i0, hi, hz0', hz1, hz2⟩ := info_parts Try.infoMsg
  have hrw := Nat.le_refl w.heap.size
  have hr0 := heap_push w #[.string v, .int .i64 0, .int .i64 0] 96
  have hb0 : Below w.heap.size w (w.alloc (.cells #[.string v, .int .i64 0, .int .i64 0] 96)) := Below.alloc (Below.refl _ _) (Nat.le_refl _) _
  go_enter Try.func31, Try.ntmps31
  go_upto_region 4 with fail
  refine wp_nameE _ (fun W1 hX => ?_)
  have hR : QAt w.heap.size W1 v 0 0 := by rw [hX]; exact hr0
  have hbel : Below w.heap.size w W1 := by rw [hX]; exact hb0
  clear hX hr0 hb0
  obtain ⟨r, hr⟩ : ∃ r, w.heap.size = r := ⟨_, rfl⟩
  simp only [hr] at hR ⊢
  have hrw : w.heap.size ≤ r := by omega
  obtain ⟨b4, hb4⟩ : ∃ b, (e4 == 0) = b := ⟨_, rfl⟩
  by_cases h64 : 64 < (N : Int)
  · have d64 : decide (64 < (N : Int)) = true := decide_eq_true h64
    have d64n : decide (64 < N) = true := decide_eq_true (by omega)
    have hDv : Hid (decTx v = ([], 22)) := Lib.hid (by rw [HD.out, if_pos h64])
    obtain rfl : e4 = 0 := Classical.byContradiction fun h => by have := HNe.out h; omega
    go_wp2_with (go_at_call 65; refine (C4 _ _ hR).mono ?_; rintro e w4 ⟨rfl, hR, hk⟩; have hbel := hbel.trans (hk.below (by omega) hbel.size); have c2 := hR.c2)
    go_returns
    exact ⟨none, 0, 0, [], by rw [hDv.out]; try rfl, rfl, by rw [hDv.out]; rfl, RowAt.nil _ _, (fun m h => by cases h), Nat.le_refl _, Nat.zero_le _, (by first | exact hbel | (rw [hr]; exact hbel))⟩
  have d64 : decide (64 < (N : Int)) = false := decide_eq_false h64
  have d64n : decide (64 < N) = false := decide_eq_false (by omega)
  have hD := HD.out
  rw [if_neg h64] at hD
  have HD2 := Lib.hid hD
  clear HD
  have hN : N ≤ 64 := by omega
  clear hD
  cases b4
  case false =>
    go_upto_region 9 with (go_at_call 65; refine (C4 _ _ hR).mono ?_; rintro e w4 ⟨rfl, hR, hk⟩; have hbel := hbel.trans (hk.below (by omega) hbel.size); have c2 := hR.c2)
    clear hb4 c2
    obtain ⟨base, hbase⟩ : ∃ b, w4.heap.size = b := ⟨_, rfl⟩
    have hrb : r < base := by rw [← hbase]; exact hR.lt
    go_loopw [6, 7] (fun l i wr => ∃ (k : Nat) (xs : List MsgV) (sv : Value) (ak ek : Int), k ≤ N ∧ xs.length = k ∧ Hid (k < N → ek = 0) ∧ Hid (listP txP N v a4 e4 = (xs.map MsgV.d ++ (listP txP (N - k) v ak ek).1, (listP txP (N - k) v ak ek).2)) ∧ wr.ownsRow base 34 50 sv k (xs.flatMap MsgV.cellsL) ∧ (∀ x ∈ xs, x.ok wr ∧ x.heldM wr base) ∧ QAt r wr v ak ek ∧ base ≤ wr.heap.size ∧ Below w.heap.size w wr ∧ l = sv ∧ i = .int .i64 k) (fun _ i _ => N - (intOf i).toNat)
    case atStart => exact ⟨0, [], .slice none 0 0, a4, e4, Nat.zero_le _, rfl, Lib.hid (fun q => Classical.byContradiction fun h => by have := HNe.out h; omega), Lib.hid (by simp), ⟨rfl, .inl ⟨rfl, rfl⟩⟩, (fun e h => by cases h), hR, by omega, (by first | exact hbel | (rw [hr]; exact hbel)), rfl, rfl⟩
    case round =>
      clear hR hbel
      obtain ⟨k, xs, sv, ak, ek, hk, hxl, hek, HL, hown, hxs, hR, hbw, hbel, rfl, rfl⟩ := hrel
      by_cases hlt : k < N
      · have d1 : decide ((k : Int) < (N : Int)) = true := decide_eq_true (by omega)
        have d1n : decide (k < N) = true := decide_eq_true hlt
        obtain rfl := hek.out hlt
        clear hek
        have c2 := hR.c2
        have CN := qtextK_all r wr v ak 0 1048576 hR hv
        have hsz := textG_size v ak 0 1048576
        obtain ⟨⟨t, a1, e1⟩, h1⟩ : ∃ x, textG v ak 0 1048576 = x := ⟨_, rfl⟩
        have hI : txP v ak 0 = if e1 = 0 then ((decMsg t).1, a1, (decMsg t).2) else (MsgD.zero 0, a1, e1) := by
          unfold txP itemP
          simp only [h1]
        rw [h1] at hsz
        simp only at hsz
        simp only [h1] at CN
        have hstay := fun (n : Nat) (a e : Int) (q : e ≠ 0) => listP_stay (P := txP) (fun s a e q => txP_codec.stay q) n v a e q
        have hst := fun q an en (hq : txP v ak 0 = (q, an, en)) => listP_step (P := txP) hlt hq
        have HST := Lib.hid hst
        have HSTAY := Lib.hid hstay
        have HI := Lib.hid hI
        clear h1 hst hstay hI
        go_upto_region 12 with (go_at_call 68; refine CN.mono ?_; rintro e we ⟨rfl, hR, hk2⟩; have c2 := hR.c2)
        clear CN
        have hown := own_far hown (fun j q1 q2 => hk2.block j q2 (by omega))
        have hxs : ∀ x ∈ xs, x.ok we ∧ x.heldM we base := fun x hx => by
          have g := (hxs x hx).2.same (SameT.kept hk2 hrb) (SameT.kept hk2 hrb)
          exact ⟨(hxs x hx).1.held g, g⟩
        have hbel := hbel.trans (hk2.below (by omega) hbel.size)
        have hbw := Nat.le_trans hbw hk2.size
        clear hk2
        by_cases hE1 : e1 = 0
        · subst hE1
          have hI2 := HI.out
          rw [if_pos rfl] at hI2
          have CD := refDecMsg_any t we (by omega)
          obtain ⟨⟨q, en⟩, hdq⟩ : ∃ x, decMsg t = x := ⟨_, rfl⟩
          rw [hdq] at hI2
          unfold decPost at CD
          simp only [hdq] at CD
          have HST2 := Lib.hid (HST.out _ _ _ hI2)
          clear hI2 hdq HST HI
          go_upto_region 14 with (first | (go_at_call 21; refine CD.mono ?_; rintro e wf ⟨m, rfl, hm, hmh, hmd, hb⟩) | (refine wpList_storeRowTo (Z := m.row) rfl (.tmp 9) (.tmp 51) 34 rfl (by rw [MsgV.row_size]; kernel_rfl) rfl (by rfl) (heap_push _ _ _) (by rw [MsgV.row_size]; rfl) (MsgV.row_one _) ?_))
          clear CD
          have hown := own_kept9 hown hb
          have hxs : ∀ x ∈ xs, x.ok wf ∧ x.heldM wf base := fun x hx => ⟨(hxs x hx).1.below hb, (hxs x hx).2.same (SameT.below hb) (SameT.below hb)⟩
          have hmh := hmh.mono hbw
          have hR := hR.below hb hR.lt
          have hbel := hbel.trans (hb.mono hbel.size)
          have hbw := Nat.le_trans hbw hb.size
          clear hb
          refine wp_nameE _ (fun W6 hX => ?_)
          have hb : Below wf.heap.size wf W6 := by rw [hX]; exact below_setRow (Below.alloc (Below.refl _ _) (Nat.le_refl _) _) (Nat.le_refl _) _
          have hE : W6.heap[wf.heap.size]? = some (.cells m.row 34 (0, 0)) := by rw [hX]; exact setRow_heap _ _ _ _ _ _ (heap_push _ _ _)
          have hown := own_kept9 hown hb
          have hxs : ∀ x ∈ xs, x.ok W6 ∧ x.heldM W6 base := fun x hx => ⟨(hxs x hx).1.below hb, (hxs x hx).2.same (SameT.below hb) (SameT.below hb)⟩
          have hm := hm.below hb
          have hmh := hmh.same (SameT.below hb) (SameT.below hb)
          have hbel := hbel.trans (hb.mono hbel.size)
          have hbw6 := hbw
          have hbw := Nat.le_trans hbw hb.size
          have hR := hR.below hb hR.lt
          clear hX
          obtain ⟨g, hgg⟩ : ∃ g, wf.heap.size = g := ⟨_, rfl⟩
          rw [hgg] at hE
          simp only [hgg]
          clear hgg hb c2
          by_cases he : en = 0
          · subst he
            have hL := HL.out
            rw [HST2.out] at hL
            have HL := Lib.hid hL
            clear hL
            go_upto_region 16 with fail
            iterate 4 go_step
            refine wpList_load_mid rfl 34 (.tmp 9) rfl g 0 rfl m.row.toList _ (rangeAt_row5 hE) Try.underlying34 rfl (msg_info _) ?_
            rw [Array.toArray_toList]
            refine wpList_one rfl (.tmp 57) 48 34 rfl (by rfl) (one_msg _ (MsgV.row_size _) _) ?_
            have hb : Below W6.heap.size W6 (W6.alloc (.cells m.row 34)) := Below.alloc (Below.refl _ _) (Nat.le_refl _) _
            have hg4 := heap_push W6 m.row 34
            obtain ⟨W7, hW7⟩ : ∃ W, W6.alloc (.cells m.row 34) = W := ⟨_, rfl⟩
            rw [hW7] at hb hg4 ⊢
            clear hW7
            have hown := own_kept9 hown hb
            have hxs : ∀ x ∈ xs, x.ok W7 ∧ x.heldM W7 base := fun x hx => ⟨(hxs x hx).1.below hb, (hxs x hx).2.same (SameT.below hb) (SameT.below hb)⟩
            have hm := hm.below hb
            have hmh := hmh.same (SameT.below hb) (SameT.below hb)
            have hbel := hbel.trans (hb.mono hbel.size)
            have hbw := Nat.le_trans hbw hb.size
            have hR := hR.below hb hR.lt
            have hnews : ∀ j u, m.cellsL[j]? = some u → W7.cell? ((⟨W6.heap.size, 0, none⟩ : Addr).add j) = some u := fun j u hj => by
              rw [Addr.add_mid, Nat.zero_add, cell_heap hg4, ← hj]
              unfold MsgV.cellsL
              rw [Array.getElem?_toList]
            simp only [Act.put, List.setIfInBounds_toArray, List.set_cons_succ, List.set_cons_zero]
            refine wpList_append_own _ rfl (.tmp 56) (.tmp 58) 48 rfl base 34 i0 (.agg #[.int .i64 0, .int .i64 0, .int .i64 0, .int .u8 0, .int .u8 0, .int .u8 0, .int .u8 0, .int .u8 0, .int .u8 0, .int .u8 0, .int .u8 0, .int .u8 0, .int .u8 0, .int .u8 0, .int .u8 0, .int .u8 0, .int .u8 0, .int .u8 0, .int .u8 0, .int .u8 0, .int .u8 0, .int .u8 0, .int .u8 0, .int .u8 0, .int .u8 0, .int .u8 0, .int .u8 0, .int .u8 0, .int .u8 0, .int .u8 0, .int .u8 0, .int .u8 0, .int .u8 0, .int .u8 0, .int .u8 0, .string ⟨#[]⟩, .int .i64 0, .string ⟨#[]⟩, .int .i64 0, .int .i64 0, .string ⟨#[]⟩, .int .i64 0, .int .i64 0, .string ⟨#[]⟩, .int .i64 0, .int .i64 0, .int .i64 0, .slice none 0 0, .int .i64 0, .slice none 0 0]) 50 240 Try.underlying48 hi hz0' hz1 hz2 rfl (by decide) _ _ _ rfl hown ⟨W6.heap.size, 0, none⟩ 1 1 m.cellsL rfl (by rw [MsgV.cells_len]) hnews (fun u hu => by have := (Array.all_eq_true_iff_forall_mem.1 (MsgV.row_one m)) u (by unfold MsgV.cellsL at hu; simpa using hu); exact this) (by unfold maxLen; omega) (by omega) hbw ?_
            intro v9 w9 hown9 hgr _
            have hb9 : Below base W7 w9 := below_grown hown hgr hbw
            have hs1 : SameT 23 base W7 w9 := SameT.grown hown hgr (by decide)
            have hs2 : SameT 111 base W7 w9 := SameT.grown hown hgr (by decide)
            clear hgr hnews
            obtain ⟨a9, cap9, hv9, _⟩ := own_slice hown9
            subst hv9
            have hR9 := hR.below hb9 hrb
            simp only [Act.put, List.setIfInBounds_toArray, List.set_cons_succ, List.set_cons_zero]
            go_wp2
            go_roundw
            case rel =>
              refine ⟨k + 1, xs ++ [m], .slice a9 (k + 1) cap9, a1, 0, by omega, by simp [hxl], Lib.hid (fun _ => rfl), Lib.hid (by rw [HL.out, ← hmd]; simp), ?_, fun x hx => ?_, hR9, Nat.le_trans hbw hb9.size, hbel.trans (hb9.mono (by omega)), rfl, by go_num⟩
              · rw [List.flatMap_append, List.flatMap_cons, List.flatMap_nil, List.append_nil]
                exact hown9
              · have key : ∀ y : MsgV, y.ok W7 → y.heldM W7 base → y.ok w9 ∧ y.heldM w9 base := fun y h1 h2 => ⟨h1.held (h2.same hs2 hs1), h2.same hs2 hs1⟩
                rcases List.mem_append.1 hx with q' | q'
                · exact key _ (hxs x q').1 (hxs x q').2
                · rw [List.mem_singleton.1 q']; exact key _ hm hmh
            case measure => (simp [intOf]) <;> omega
          · have e0 : (en == 0) = false := beq_eq_false_iff_ne.2 he
            have h55 : e5 = en := by
              have q := H5.out
              rw [HL.out, HST2.out] at q
              simp only [Prod.mk.injEq] at q
              rw [← q.2.2]
              exact HSTAY.out _ _ _ he
            have hDv : Hid (decTx v = ([], en)) := Lib.hid (by
              rw [HD2.out, h55]
              have : endF v a5 en = en := by unfold endF; rw [if_neg he]
              rw [this, if_neg he])
            clear h55
            go_wp2
            go_returns
            exact ⟨none, 0, 0, [], by rw [hDv.out]; try rfl, rfl, by rw [hDv.out]; rfl, RowAt.nil _ _, (fun m h => by cases h), Nat.le_refl _, Nat.zero_le _, hbel⟩
        · have e0 : (e1 == 0) = false := beq_eq_false_iff_ne.2 hE1
          have hI2 := HI.out
          rw [if_neg hE1] at hI2
          have HST2 := Lib.hid (HST.out _ _ _ hI2)
          have h55 : e5 = e1 := by
            have q := H5.out
            rw [HL.out, HST2.out] at q
            simp only [Prod.mk.injEq] at q
            rw [← q.2.2]
            exact HSTAY.out _ _ _ hE1
          have hDv : Hid (decTx v = ([], e1)) := Lib.hid (by
            rw [HD2.out, h55]
            have : endF v a5 e1 = e1 := by unfold endF; rw [if_neg hE1]
            rw [this, if_neg hE1])
          have CE := qend_any r we v a1 e1 hR
          rw [show endF v a1 e1 = e1 by unfold endF; rw [if_neg hE1]] at CE
          clear h55 hI2 HI HST
          go_wp2_with (go_at_call 70; refine CE.mono ?_; rintro e w5 ⟨rfl, hb⟩; have hbel := hbel.trans (hb.mono hbel.size))
          go_returns
          exact ⟨none, 0, 0, [], by rw [hDv.out]; try rfl, rfl, by rw [hDv.out]; rfl, RowAt.nil _ _, (fun m h => by cases h), Nat.le_refl _, Nat.zero_le _, hbel⟩
      · obtain rfl : k = N := by omega
        have d1 : decide ((k : Int) < (k : Int)) = false := decide_eq_false (by omega)
        have d1n : decide (k < k) = false := decide_eq_false (by omega)
        have q := H5.out
        rw [HL.out, Nat.sub_self] at q
        simp only [listP, List.append_nil, Prod.mk.injEq] at q
        obtain ⟨q1, q2, q3⟩ := q
        subst q2 q3
        obtain ⟨a, cap, hsv, hrow, hkc, hcm, hab⟩ := own_slice hown
        subst hsv
        have CE := qend_any r wr v ak ek hR
        obtain ⟨E9, h9⟩ : ∃ E, endF v ak ek = E := ⟨_, rfl⟩
        have hD := HD2.out
        rw [h9, ← q1] at hD
        rw [h9] at CE
        have HD := Lib.hid hD
        clear hD h9 HD2 H5 HL hown q1
        by_cases hE : E9 = 0
        · subst hE
          have hDv : Hid (decTx v = (xs.map MsgV.d, 0)) := Lib.hid (by rw [HD.out, if_pos rfl])
          go_wp2_with (go_at_call 70; refine CE.mono ?_; rintro e w5 ⟨rfl, hb⟩)
          go_returns
          exact ⟨a, k, cap, xs, by rw [hDv.out]; try rfl, hxl, by rw [hDv.out], hrow.below hb, fun m hm => (hxs m hm).1.below hb, hkc, hcm, hbel.trans (hb.mono hbel.size)⟩
        · have hE0 : (E9 == 0) = false := beq_eq_false_iff_ne.2 hE
          have hDv : Hid (decTx v = ([], E9)) := Lib.hid (by rw [HD.out, if_neg hE])
          go_wp2_with (go_at_call 70; refine CE.mono ?_; rintro e w5 ⟨rfl, hb⟩)
          go_returns
          exact ⟨none, 0, 0, [], by rw [hDv.out]; try rfl, rfl, by rw [hDv.out]; rfl, RowAt.nil _ _, (fun m h => by cases h), Nat.le_refl _, Nat.zero_le _, hbel.trans (hb.mono hbel.size)⟩
  case true =>
    go_upto_region 9 with (go_at_call 65; refine (C4 _ _ hR).mono ?_; rintro e w4 ⟨rfl, hR, hk⟩; have hbel := hbel.trans (hk.below (by omega) hbel.size); have c2 := hR.c2)
    clear hb4 c2
    obtain ⟨base, hbase⟩ : ∃ b, w4.heap.size = b := ⟨_, rfl⟩
    have hrb : r < base := by rw [← hbase]; exact hR.lt
    go_loopw [6, 7] (fun l i wr => ∃ (k : Nat) (xs : List MsgV) (sv : Value) (ak ek : Int), k ≤ N ∧ xs.length = k ∧ Hid (k < N → ek = 0) ∧ Hid (listP txP N v a4 e4 = (xs.map MsgV.d ++ (listP txP (N - k) v ak ek).1, (listP txP (N - k) v ak ek).2)) ∧ wr.ownsRow base 34 50 sv k (xs.flatMap MsgV.cellsL) ∧ (∀ x ∈ xs, x.ok wr ∧ x.heldM wr base) ∧ QAt r wr v ak ek ∧ base ≤ wr.heap.size ∧ Below w.heap.size w wr ∧ l = sv ∧ i = .int .i64 k) (fun _ i _ => N - (intOf i).toNat)
    case atStart => exact ⟨0, [], .slice none 0 0, a4, e4, Nat.zero_le _, rfl, Lib.hid (fun q => Classical.byContradiction fun h => by have := HNe.out h; omega), Lib.hid (by simp), ⟨rfl, .inl ⟨rfl, rfl⟩⟩, (fun e h => by cases h), hR, by omega, (by first | exact hbel | (rw [hr]; exact hbel)), rfl, rfl⟩
    case round =>
      clear hR hbel
      obtain ⟨k, xs, sv, ak, ek, hk, hxl, hek, HL, hown, hxs, hR, hbw, hbel, rfl, rfl⟩ := hrel
      by_cases hlt : k < N
      · have d1 : decide ((k : Int) < (N : Int)) = true := decide_eq_true (by omega)
        have d1n : decide (k < N) = true := decide_eq_true hlt
        obtain rfl := hek.out hlt
        clear hek
        have c2 := hR.c2
        have CN := qtextK_all r wr v ak 0 1048576 hR hv
        have hsz := textG_size v ak 0 1048576
        obtain ⟨⟨t, a1, e1⟩, h1⟩ : ∃ x, textG v ak 0 1048576 = x := ⟨_, rfl⟩
        have hI : txP v ak 0 = if e1 = 0 then ((decMsg t).1, a1, (decMsg t).2) else (MsgD.zero 0, a1, e1) := by
          unfold txP itemP
          simp only [h1]
        rw [h1] at hsz
        simp only at hsz
        simp only [h1] at CN
        have hstay := fun (n : Nat) (a e : Int) (q : e ≠ 0) => listP_stay (P := txP) (fun s a e q => txP_codec.stay q) n v a e q
        have hst := fun q an en (hq : txP v ak 0 = (q, an, en)) => listP_step (P := txP) hlt hq
        have HST := Lib.hid hst
        have HSTAY := Lib.hid hstay
        have HI := Lib.hid hI
        clear h1 hst hstay hI
        go_upto_region 12 with (go_at_call 68; refine CN.mono ?_; rintro e we ⟨rfl, hR, hk2⟩; have c2 := hR.c2)
        clear CN
        have hown := own_far hown (fun j q1 q2 => hk2.block j q2 (by omega))
        have hxs : ∀ x ∈ xs, x.ok we ∧ x.heldM we base := fun x hx => by
          have g := (hxs x hx).2.same (SameT.kept hk2 hrb) (SameT.kept hk2 hrb)
          exact ⟨(hxs x hx).1.held g, g⟩
        have hbel := hbel.trans (hk2.below (by omega) hbel.size)
        have hbw := Nat.le_trans hbw hk2.size
        clear hk2
        by_cases hE1 : e1 = 0
        · subst hE1
          have hI2 := HI.out
          rw [if_pos rfl] at hI2
          have CD := refDecMsg_any t we (by omega)
          obtain ⟨⟨q, en⟩, hdq⟩ : ∃ x, decMsg t = x := ⟨_, rfl⟩
          rw [hdq] at hI2
          unfold decPost at CD
          simp only [hdq] at CD
          have HST2 := Lib.hid (HST.out _ _ _ hI2)
          clear hI2 hdq HST HI
          go_upto_region 14 with (first | (go_at_call 21; refine CD.mono ?_; rintro e wf ⟨m, rfl, hm, hmh, hmd, hb⟩) | (refine wpList_storeRowTo (Z := m.row) rfl (.tmp 9) (.tmp 51) 34 rfl (by rw [MsgV.row_size]; kernel_rfl) rfl (by rfl) (heap_push _ _ _) (by rw [MsgV.row_size]; rfl) (MsgV.row_one _) ?_))
          clear CD
          have hown := own_kept9 hown hb
          have hxs : ∀ x ∈ xs, x.ok wf ∧ x.heldM wf base := fun x hx => ⟨(hxs x hx).1.below hb, (hxs x hx).2.same (SameT.below hb) (SameT.below hb)⟩
          have hmh := hmh.mono hbw
          have hR := hR.below hb hR.lt
          have hbel := hbel.trans (hb.mono hbel.size)
          have hbw := Nat.le_trans hbw hb.size
          clear hb
          refine wp_nameE _ (fun W6 hX => ?_)
          have hb : Below wf.heap.size wf W6 := by rw [hX]; exact below_setRow (Below.alloc (Below.refl _ _) (Nat.le_refl _) _) (Nat.le_refl _) _
          have hE : W6.heap[wf.heap.size]? = some (.cells m.row 34 (0, 0)) := by rw [hX]; exact setRow_heap _ _ _ _ _ _ (heap_push _ _ _)
          have hown := own_kept9 hown hb
          have hxs : ∀ x ∈ xs, x.ok W6 ∧ x.heldM W6 base := fun x hx => ⟨(hxs x hx).1.below hb, (hxs x hx).2.same (SameT.below hb) (SameT.below hb)⟩
          have hm := hm.below hb
          have hmh := hmh.same (SameT.below hb) (SameT.below hb)
          have hbel := hbel.trans (hb.mono hbel.size)
          have hbw6 := hbw
          have hbw := Nat.le_trans hbw hb.size
          have hR := hR.below hb hR.lt
          clear hX
          obtain ⟨g, hgg⟩ : ∃ g, wf.heap.size = g := ⟨_, rfl⟩
          rw [hgg] at hE
          simp only [hgg]
          clear hgg hb c2
          by_cases he : en = 0
          · subst he
            have hL := HL.out
            rw [HST2.out] at hL
            have HL := Lib.hid hL
            clear hL
            go_upto_region 16 with fail
            iterate 4 go_step
            refine wpList_load_mid rfl 34 (.tmp 9) rfl g 0 rfl m.row.toList _ (rangeAt_row5 hE) Try.underlying34 rfl (msg_info _) ?_
            rw [Array.toArray_toList]
            refine wpList_one rfl (.tmp 57) 48 34 rfl (by rfl) (one_msg _ (MsgV.row_size _) _) ?_
            have hb : Below W6.heap.size W6 (W6.alloc (.cells m.row 34)) := Below.alloc (Below.refl _ _) (Nat.le_refl _) _
            have hg4 := heap_push W6 m.row 34
            obtain ⟨W7, hW7⟩ : ∃ W, W6.alloc (.cells m.row 34) = W := ⟨_, rfl⟩
            rw [hW7] at hb hg4 ⊢
            clear hW7
            have hown := own_kept9 hown hb
            have hxs : ∀ x ∈ xs, x.ok W7 ∧ x.heldM W7 base := fun x hx => ⟨(hxs x hx).1.below hb, (hxs x hx).2.same (SameT.below hb) (SameT.below hb)⟩
            have hm := hm.below hb
            have hmh := hmh.same (SameT.below hb) (SameT.below hb)
            have hbel := hbel.trans (hb.mono hbel.size)
            have hbw := Nat.le_trans hbw hb.size
            have hR := hR.below hb hR.lt
            have hnews : ∀ j u, m.cellsL[j]? = some u → W7.cell? ((⟨W6.heap.size, 0, none⟩ : Addr).add j) = some u := fun j u hj => by
              rw [Addr.add_mid, Nat.zero_add, cell_heap hg4, ← hj]
              unfold MsgV.cellsL
              rw [Array.getElem?_toList]
            simp only [Act.put, List.setIfInBounds_toArray, List.set_cons_succ, List.set_cons_zero]
            refine wpList_append_own _ rfl (.tmp 56) (.tmp 58) 48 rfl base 34 i0 (.agg #[.int .i64 0, .int .i64 0, .int .i64 0, .int .u8 0, .int .u8 0, .int .u8 0, .int .u8 0, .int .u8 0, .int .u8 0, .int .u8 0, .int .u8 0, .int .u8 0, .int .u8 0, .int .u8 0, .int .u8 0, .int .u8 0, .int .u8 0, .int .u8 0, .int .u8 0, .int .u8 0, .int .u8 0, .int .u8 0, .int .u8 0, .int .u8 0, .int .u8 0, .int .u8 0, .int .u8 0, .int .u8 0, .int .u8 0, .int .u8 0, .int .u8 0, .int .u8 0, .int .u8 0, .int .u8 0, .int .u8 0, .string ⟨#[]⟩, .int .i64 0, .string ⟨#[]⟩, .int .i64 0, .int .i64 0, .string ⟨#[]⟩, .int .i64 0, .int .i64 0, .string ⟨#[]⟩, .int .i64 0, .int .i64 0, .int .i64 0, .slice none 0 0, .int .i64 0, .slice none 0 0]) 50 240 Try.underlying48 hi hz0' hz1 hz2 rfl (by decide) _ _ _ rfl hown ⟨W6.heap.size, 0, none⟩ 1 1 m.cellsL rfl (by rw [MsgV.cells_len]) hnews (fun u hu => by have := (Array.all_eq_true_iff_forall_mem.1 (MsgV.row_one m)) u (by unfold MsgV.cellsL at hu; simpa using hu); exact this) (by unfold maxLen; omega) (by omega) hbw ?_
            intro v9 w9 hown9 hgr _
            have hb9 : Below base W7 w9 := below_grown hown hgr hbw
            have hs1 : SameT 23 base W7 w9 := SameT.grown hown hgr (by decide)
            have hs2 : SameT 111 base W7 w9 := SameT.grown hown hgr (by decide)
            clear hgr hnews
            obtain ⟨a9, cap9, hv9, _⟩ := own_slice hown9
            subst hv9
            have hR9 := hR.below hb9 hrb
            simp only [Act.put, List.setIfInBounds_toArray, List.set_cons_succ, List.set_cons_zero]
            go_wp2
            go_roundw
            case rel =>
              refine ⟨k + 1, xs ++ [m], .slice a9 (k + 1) cap9, a1, 0, by omega, by simp [hxl], Lib.hid (fun _ => rfl), Lib.hid (by rw [HL.out, ← hmd]; simp), ?_, fun x hx => ?_, hR9, Nat.le_trans hbw hb9.size, hbel.trans (hb9.mono (by omega)), rfl, by go_num⟩
              · rw [List.flatMap_append, List.flatMap_cons, List.flatMap_nil, List.append_nil]
                exact hown9
              · have key : ∀ y : MsgV, y.ok W7 → y.heldM W7 base → y.ok w9 ∧ y.heldM w9 base := fun y h1 h2 => ⟨h1.held (h2.same hs2 hs1), h2.same hs2 hs1⟩
                rcases List.mem_append.1 hx with q' | q'
                · exact key _ (hxs x q').1 (hxs x q').2
                · rw [List.mem_singleton.1 q']; exact key _ hm hmh
            case measure => (simp [intOf]) <;> omega
          · have e0 : (en == 0) = false := beq_eq_false_iff_ne.2 he
            have h55 : e5 = en := by
              have q := H5.out
              rw [HL.out, HST2.out] at q
              simp only [Prod.mk.injEq] at q
              rw [← q.2.2]
              exact HSTAY.out _ _ _ he
            have hDv : Hid (decTx v = ([], en)) := Lib.hid (by
              rw [HD2.out, h55]
              have : endF v a5 en = en := by unfold endF; rw [if_neg he]
              rw [this, if_neg he])
            clear h55
            go_wp2
            go_returns
            exact ⟨none, 0, 0, [], by rw [hDv.out]; try rfl, rfl, by rw [hDv.out]; rfl, RowAt.nil _ _, (fun m h => by cases h), Nat.le_refl _, Nat.zero_le _, hbel⟩
        · have e0 : (e1 == 0) = false := beq_eq_false_iff_ne.2 hE1
          have hI2 := HI.out
          rw [if_neg hE1] at hI2
          have HST2 := Lib.hid (HST.out _ _ _ hI2)
          have h55 : e5 = e1 := by
            have q := H5.out
            rw [HL.out, HST2.out] at q
            simp only [Prod.mk.injEq] at q
            rw [← q.2.2]
            exact HSTAY.out _ _ _ hE1
          have hDv : Hid (decTx v = ([], e1)) := Lib.hid (by
            rw [HD2.out, h55]
            have : endF v a5 e1 = e1 := by unfold endF; rw [if_neg hE1]
            rw [this, if_neg hE1])
          have CE := qend_any r we v a1 e1 hR
          rw [show endF v a1 e1 = e1 by unfold endF; rw [if_neg hE1]] at CE
          clear h55 hI2 HI HST
          go_wp2_with (go_at_call 70; refine CE.mono ?_; rintro e w5 ⟨rfl, hb⟩; have hbel := hbel.trans (hb.mono hbel.size))
          go_returns
          exact ⟨none, 0, 0, [], by rw [hDv.out]; try rfl, rfl, by rw [hDv.out]; rfl, RowAt.nil _ _, (fun m h => by cases h), Nat.le_refl _, Nat.zero_le _, hbel⟩
      · obtain rfl : k = N := by omega
        have d1 : decide ((k : Int) < (k : Int)) = false := decide_eq_false (by omega)
        have d1n : decide (k < k) = false := decide_eq_false (by omega)
        have q := H5.out
        rw [HL.out, Nat.sub_self] at q
        simp only [listP, List.append_nil, Prod.mk.injEq] at q
        obtain ⟨q1, q2, q3⟩ := q
        subst q2 q3
        obtain ⟨a, cap, hsv, hrow, hkc, hcm, hab⟩ := own_slice hown
        subst hsv
        have CE := qend_any r wr v ak ek hR
        obtain ⟨E9, h9⟩ : ∃ E, endF v ak ek = E := ⟨_, rfl⟩
        have hD := HD2.out
        rw [h9, ← q1] at hD
        rw [h9] at CE
        have HD := Lib.hid hD
        clear hD h9 HD2 H5 HL hown q1
        by_cases hE : E9 = 0
        · subst hE
          have hDv : Hid (decTx v = (xs.map MsgV.d, 0)) := Lib.hid (by rw [HD.out, if_pos rfl])
          go_wp2_with (go_at_call 70; refine CE.mono ?_; rintro e w5 ⟨rfl, hb⟩)
          go_returns
          exact ⟨a, k, cap, xs, by rw [hDv.out]; try rfl, hxl, by rw [hDv.out], hrow.below hb, fun m hm => (hxs m hm).1.below hb, hkc, hcm, hbel.trans (hb.mono hbel.size)⟩
        · have hE0 : (E9 == 0) = false := beq_eq_false_iff_ne.2 hE
          have hDv : Hid (decTx v = ([], E9)) := Lib.hid (by rw [HD.out, if_neg hE])
          go_wp2_with (go_at_call 70; refine CE.mono ?_; rintro e w5 ⟨rfl, hb⟩)
          go_returns
          exact ⟨none, 0, 0, [], by rw [hDv.out]; try rfl, rfl, by rw [hDv.out]; rfl, RowAt.nil _ _, (fun m h => by cases h), Nat.le_refl _, Nat.zero_le _, hbel.trans (hb.mono hbel.size)⟩
end Go.Proofs.Ythipnkbfdkmhaaa
