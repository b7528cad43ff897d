/- The messages of a transaction. -/
import Derived.Test.YthipnkbfdkmhaaaTx1
import Derived.Deep.MidRow
import Derived.LoopTactic
import Derived.BigFrame
import Derived.WalkKit
import Derived.ProofKit
import Derived.Handy
import Derived.Below
import Derived.Lib.Hide
import Derived.IntWalk
import Derived.Outline
import Derived.WalkLawsBesides
import Derived.WalkSpells
namespace Go.Proofs.Ythipnkbfdkmhaaa
open Go.RowKit
attribute [local go_sem] strV
set_option linter.unusedVariables false
theorem Try.infoMsg : (Try.prog.info? 34).map (fun i => (i.zero, i.size, i.bytes)) = some (some (.agg #[.int .i64 0, .int .i64 0, .int .i64 0, .int .u8 0, .int .u8 0, .int .u8 0, .int .u8 0, .int .u8 0, .int .u8 0, .int .u8 0, .int .u8 0, .int .u8 0, .int .u8 0, .int .u8 0, .int .u8 0, .int .u8 0, .int .u8 0, .int .u8 0, .int .u8 0, .int .u8 0, .int .u8 0, .int .u8 0, .int .u8 0, .int .u8 0, .int .u8 0, .int .u8 0, .int .u8 0, .int .u8 0, .int .u8 0, .int .u8 0, .int .u8 0, .int .u8 0, .int .u8 0, .int .u8 0, .int .u8 0, .string ⟨#[]⟩, .int .i64 0, .string ⟨#[]⟩, .int .i64 0, .int .i64 0, .string ⟨#[]⟩, .int .i64 0, .int .i64 0, .string ⟨#[]⟩, .int .i64 0, .int .i64 0, .int .i64 0, .slice none 0 0, .int .i64 0, .slice none 0 0]), 50, 240) := by kernel_rfl
theorem one_msg (R : Array Value) (hR : R.size = 50) (W : World) : (Instr.buildSlice 48 1 #[(0, .agg R)]).run Try.prog W = .ok (.slice (some ⟨W.heap.size, 0, none⟩) 1 1) (W.alloc (.cells R 34)) := by
  have h1 := fun Z hZ => fold_atN R Z hR hZ
  simp [go_sem, hR, h1]
theorem numG_val {s : ByteArray} {a e m : Int} : 0 ≤ (numG s a e 0 m).1 ∧ ((numG s a e 0 m).2.2 ≠ 0 → (numG s a e 0 m).1 = 0) := by
  unfold numG
  by_cases he : e = 0
  · rw [if_pos he]
    unfold numF
    simp only
    by_cases hr : (nextS s.data.toList a).2.2 = 0
    · rw [if_pos hr]
      by_cases hv : (nextS s.data.toList a).1 < 0 ∨ m < (nextS s.data.toList a).1
      · rw [if_pos hv]; exact ⟨Int.le_refl _, fun _ => rfl⟩
      · rw [if_neg hv]; exact ⟨by simp only; omega, fun h => absurd rfl h⟩
    · rw [if_neg hr]; exact ⟨Int.le_refl _, fun _ => rfl⟩
  · rw [if_neg he]; exact ⟨Int.le_refl _, fun _ => rfl⟩
/-- Behind the reading of a transaction. -/
def untxPost (w : World) (v : ByteArray) (e : Ending) (w' : World) : Prop :=
  ∃ (a : Option Addr) (n cap : Nat) (ms : List MsgV), e = .returned (.tuple #[.slice a n cap, .int .i64 (decTx v).2]) ∧ ms.length = n ∧ ms.map MsgV.d = (decTx v).1 ∧ RowAt w' a (ms.flatMap MsgV.cellsL) ∧ (∀ m ∈ ms, m.ok w') ∧ n ≤ cap ∧ cap ≤ maxLen ∧ Below w.heap.size w w'
set_option maxRecDepth 100000 in
set_option maxHeartbeats 12800000 in
theorem msgUntx_any (v : ByteArray) (w : World) (hv : v.size ≤ 1000000000) :
    Calls Try.prog 30 #[.string v] w fun e w' => untxPost w v e w' := by
  by_cases h20 : 1048576 < v.size
  · have d20 : decide (1048576 < (v.size : Int)) = true := decide_eq_true (by omega)
    have hD : decTx v = ([], 21) := by unfold decTx; rw [if_pos h20]
    unfold untxPost
    rw [hD]
    clear hD
    go_enter Try.func30, Try.ntmps30
    go_wp2
    go_returns
    exact ⟨none, 0, 0, [], rfl, rfl, rfl, RowAt.nil _ _, (fun m h => by cases h), Nat.le_refl _, Nat.zero_le _, Below.refl _ _⟩
  have d20 : decide (1048576 < (v.size : Int)) = false := decide_eq_false (by omega)
  have C4 := fun b W h => rnum_all b W v 0 0 0 72057594037927935 h hv
  have hcv := numG_val (s := v) (a := 0) (e := 0) (m := 72057594037927935)
  obtain ⟨⟨Ni, a4, e4⟩, h4⟩ : ∃ x, numG v 0 0 0 72057594037927935 = x := ⟨_, rfl⟩
  rw [h4] at hcv
  simp only at hcv
  obtain ⟨N, rfl⟩ : ∃ m : Nat, Ni = m := ⟨Ni.toNat, by omega⟩
  obtain ⟨⟨es, a5, e5⟩, h5⟩ : ∃ x, listP txP N v a4 e4 = x := ⟨_, rfl⟩
  have hD : decTx v = if 64 < (N : Int) then ([], 22) else if endF v a5 e5 = 0 then (es, 0) else ([], endF v a5 e5) := by
    unfold decTx
    rw [if_neg h20, h4]
    simp only [Int.toNat_natCast, h5]
  simp only [h4] at C4
  have HD := Lib.hid hD
  have H5 := Lib.hid h5
  have hNe : e4 ≠ 0 → N = 0 := fun q => by have := hcv.2 q; omega
  clear hD h4 h5 hcv
  obtain ⟨i0, hi, hz0', hz1, hz2⟩ := info_parts Try.infoMsg
  go_enter Try.func30, Try.ntmps30
  go_upto_region 4 with (go_at_call 56; refine (rof_any v _).mono ?_; rintro e wb ⟨rfl, hR, hbel⟩)
  obtain ⟨r, hr⟩ : ∃ r, w.heap.size = r := ⟨_, rfl⟩
  simp only [hr] at hR ⊢
  have hrw : w.heap.size ≤ r := by omega
  by_cases h64 : 64 < (N : Int)
  · have d64 : decide (64 < (N : Int)) = true := decide_eq_true h64
    have d64n : decide (64 < N) = true := decide_eq_true (by omega)
    have hDv : Hid (decTx v = ([], 22)) := Lib.hid (by rw [HD.out, if_pos h64])
    go_wp2_with (go_at_call 78; refine (C4 _ _ hR).mono ?_; rintro e w4 ⟨rfl, hR4, hk⟩; have hbel := hbel.trans (hk.below (by omega) hbel.size))
    go_returns
    exact ⟨none, 0, 0, [], by rw [hDv.out]; try rfl, rfl, by rw [hDv.out]; rfl, RowAt.nil _ _, (fun m h => by cases h), Nat.le_refl _, Nat.zero_le _, by first | exact hbel | (rw [hr]; exact hbel)⟩
  have d64 : decide (64 < (N : Int)) = false := decide_eq_false h64
  have d64n : decide (64 < N) = false := decide_eq_false (by omega)
  have hD := HD.out
  rw [if_neg h64] at hD
  have HD2 := Lib.hid hD
  clear HD
  have hN : N ≤ 64 := by omega
  clear hD
  go_upto_region 9 with (go_at_call 78; refine (C4 _ _ hR).mono ?_; rintro e w4 ⟨rfl, hR, hk⟩; have hbel := hbel.trans (hk.below (by omega) hbel.size))
  obtain ⟨base, hbase⟩ : ∃ b, w4.heap.size = b := ⟨_, rfl⟩
  have hrb : r < base := by rw [← hbase]; exact hR.lt
  go_loopw [6, 20] (fun l i wr => ∃ (k : Nat) (xs : List MsgV) (sv : Value) (ak ek : Int), k ≤ N ∧ xs.length = k ∧ (k < N → ek = 0) ∧ Hid (listP txP N v a4 e4 = (xs.map MsgV.d ++ (listP txP (N - k) v ak ek).1, (listP txP (N - k) v ak ek).2)) ∧ wr.ownsRow base 34 50 sv k (xs.flatMap MsgV.cellsL) ∧ (∀ x ∈ xs, x.ok wr ∧ x.heldM wr base) ∧ RAt r wr v ak ek ∧ base ≤ wr.heap.size ∧ Below w.heap.size w wr ∧ l = sv ∧ i = .int .i64 k) (fun _ i _ => N - (intOf i).toNat)
  case atStart => exact ⟨0, [], .slice none 0 0, a4, e4, Nat.zero_le _, rfl, (fun q => Classical.byContradiction fun h => by have := hNe h; omega), Lib.hid (by simp), ⟨rfl, .inl ⟨rfl, rfl⟩⟩, (fun e h => by cases h), hR, by omega, (by first | exact hbel | (rw [hr]; exact hbel)), rfl, rfl⟩
  case round =>
    clear hR hbel
    obtain ⟨k, xs, sv, ak, ek, hk, hxl, hek, HL, hown, hxs, hR, hbw, hbel, rfl, rfl⟩ := hrel
    by_cases hlt : k < N
    · have d1 : decide ((k : Int) < (N : Int)) = true := decide_eq_true (by omega)
      have d1n : decide (k < N) = true := decide_eq_true hlt
      obtain rfl := hek hlt
      have CN := mnext_any r wr v ak hR hv
      have hstay := fun (n : Nat) (a e : Int) (q : e ≠ 0) => listP_stay (P := txP) (fun s a e q => txP_codec.stay q) n v a e q
      obtain ⟨⟨q, an, en⟩, hI⟩ : ∃ x, txP v ak 0 = x := ⟨_, rfl⟩
      have hst := listP_step (P := txP) hlt hI
      unfold nextPost at CN
      simp only [hI] at CN
      have HST := Lib.hid hst
      clear hI hst
      go_upto_region 11 with (first | (go_at_call 79; refine CN.mono ?_; rintro e we ⟨m, rfl, hm, hmh, hmd, hR0, hk2⟩) | (refine wpList_storeRowTo (Z := m.row) rfl (.tmp 7) (.tmp 25) 34 rfl (by rw [MsgV.row_size]; kernel_rfl) rfl (by rfl) (heap_push _ _ _) (by rw [MsgV.row_size]; rfl) (MsgV.row_one _) ?_))
      have hown := own_far hown (fun j q1 q2 => hk2.block j q2 (by omega))
      have hxs : ∀ x ∈ xs, x.ok we ∧ x.heldM we base := fun x hx => by
        have g := (hxs x hx).2.same (SameT.kept hk2 hrb) (SameT.kept hk2 hrb)
        exact ⟨(hxs x hx).1.held g, g⟩
      have hmh := hmh.mono hbw
      have hbel := hbel.trans (hk2.below (by omega) hbel.size)
      have hbw := Nat.le_trans hbw hk2.size
      refine wp_nameE _ (fun W6 hX => ?_)
      have hb : Below we.heap.size we W6 := by rw [hX]; exact below_setRow (Below.alloc (Below.refl _ _) (Nat.le_refl _) _) (Nat.le_refl _) _
      have hE : W6.heap[we.heap.size]? = some (.cells m.row 34 (0, 0)) := by rw [hX]; exact setRow_heap _ _ _ _ _ _ (heap_push _ _ _)
      have hown := own_kept9 hown hb
      have hxs : ∀ x ∈ xs, x.ok W6 ∧ x.heldM W6 base := fun x hx => ⟨(hxs x hx).1.below hb, (hxs x hx).2.same (SameT.below hb) (SameT.below hb)⟩
      have hm := hm.below hb
      have hmh := hmh.same (SameT.below hb) (SameT.below hb)
      have hbel := hbel.trans (hb.mono hbel.size)
      have hbw6 := hbw
      have hbw := Nat.le_trans hbw hb.size
      have hR0 := fun q => (hR0 q).below hb (hR0 q).lt
      clear hX CN hR hk2
      obtain ⟨g, hgg⟩ : ∃ g, we.heap.size = g := ⟨_, rfl⟩
      rw [hgg] at hE
      simp only [hgg]
      clear hgg hb
      by_cases he : en = 0
      · subst he
        have hR := hR0 rfl
        have hL := HL.out
        rw [HST.out] at hL
        have HL := Lib.hid hL
        clear hL
        go_upto_region 13 with fail
        go_step
        go_step
        go_step
        go_step
        refine wpList_load_mid rfl 34 (.tmp 7) rfl g 0 rfl m.row.toList _ (rangeAt_row5 hE) Try.underlying34 rfl (msg_info _) ?_
        rw [Array.toArray_toList]
        refine wpList_one rfl (.tmp 31) 48 34 rfl (by rfl) (one_msg _ (MsgV.row_size _) _) ?_
        have hb : Below W6.heap.size W6 (W6.alloc (.cells m.row 34)) := Below.alloc (Below.refl _ _) (Nat.le_refl _) _
        have hg4 := heap_push W6 m.row 34
        obtain ⟨W7, hW7⟩ : ∃ W, W6.alloc (.cells m.row 34) = W := ⟨_, rfl⟩
        rw [hW7] at hb hg4 ⊢
        clear hW7
        have hown := own_kept9 hown hb
        have hxs : ∀ x ∈ xs, x.ok W7 ∧ x.heldM W7 base := fun x hx => ⟨(hxs x hx).1.below hb, (hxs x hx).2.same (SameT.below hb) (SameT.below hb)⟩
        have hm := hm.below hb
        have hmh := hmh.same (SameT.below hb) (SameT.below hb)
        have hbel := hbel.trans (hb.mono hbel.size)
        have hbw := Nat.le_trans hbw hb.size
        have hR := hR.below hb hR.lt
        have hnews : ∀ j u, m.cellsL[j]? = some u → W7.cell? ((⟨W6.heap.size, 0, none⟩ : Addr).add j) = some u := fun j u hj => by
          rw [Addr.add_mid, Nat.zero_add, cell_heap hg4, ← hj]
          unfold MsgV.cellsL
          rw [Array.getElem?_toList]
        simp only [Act.put, List.setIfInBounds_toArray, List.set_cons_succ, List.set_cons_zero]
        refine wpList_append_own _ rfl (.tmp 30) (.tmp 32) 48 rfl base 34 i0 (.agg #[.int .i64 0, .int .i64 0, .int .i64 0, .int .u8 0, .int .u8 0, .int .u8 0, .int .u8 0, .int .u8 0, .int .u8 0, .int .u8 0, .int .u8 0, .int .u8 0, .int .u8 0, .int .u8 0, .int .u8 0, .int .u8 0, .int .u8 0, .int .u8 0, .int .u8 0, .int .u8 0, .int .u8 0, .int .u8 0, .int .u8 0, .int .u8 0, .int .u8 0, .int .u8 0, .int .u8 0, .int .u8 0, .int .u8 0, .int .u8 0, .int .u8 0, .int .u8 0, .int .u8 0, .int .u8 0, .int .u8 0, .string ⟨#[]⟩, .int .i64 0, .string ⟨#[]⟩, .int .i64 0, .int .i64 0, .string ⟨#[]⟩, .int .i64 0, .int .i64 0, .string ⟨#[]⟩, .int .i64 0, .int .i64 0, .int .i64 0, .slice none 0 0, .int .i64 0, .slice none 0 0]) 50 240 Try.underlying48 hi hz0' hz1 hz2 rfl (by decide) _ _ _ rfl hown ⟨W6.heap.size, 0, none⟩ 1 1 m.cellsL rfl (by rw [MsgV.cells_len]) hnews (fun u hu => by have := (Array.all_eq_true_iff_forall_mem.1 (MsgV.row_one m)) u (by unfold MsgV.cellsL at hu; simpa using hu); exact this) (by unfold maxLen; omega) (by omega) hbw ?_
        intro v9 w9 hown9 hgr _
        have hb9 : Below base W7 w9 := below_grown hown hgr hbw
        have hs1 : SameT 23 base W7 w9 := SameT.grown hown hgr (by decide)
        have hs2 : SameT 111 base W7 w9 := SameT.grown hown hgr (by decide)
        clear hgr hnews
        obtain ⟨a9, cap9, hv9, _⟩ := own_slice hown9
        subst hv9
        have hR9 := hR.below hb9 hrb
        simp only [Act.put, List.setIfInBounds_toArray, List.set_cons_succ, List.set_cons_zero]
        go_wp2
        go_roundw
        case rel =>
          refine ⟨k + 1, xs ++ [m], .slice a9 (k + 1) cap9, an, 0, by omega, by simp [hxl], fun _ => rfl, Lib.hid (by rw [HL.out, ← hmd]; simp), ?_, fun x hx => ?_, hR9, Nat.le_trans hbw hb9.size, hbel.trans (hb9.mono (by omega)), rfl, by go_num⟩
          · rw [List.flatMap_append, List.flatMap_cons, List.flatMap_nil, List.append_nil]
            exact hown9
          · have key : ∀ y : MsgV, y.ok W7 → y.heldM W7 base → y.ok w9 ∧ y.heldM w9 base := fun y h1 h2 => ⟨h1.held (h2.same hs2 hs1), h2.same hs2 hs1⟩
            rcases List.mem_append.1 hx with q' | q'
            · exact key _ (hxs x q').1 (hxs x q').2
            · rw [List.mem_singleton.1 q']; exact key _ hm hmh
        case measure => (simp [intOf]) <;> omega
      · have e0 : (en == 0) = false := beq_eq_false_iff_ne.2 he
        have h55 : e5 = en := by
          have q := H5.out
          rw [HL.out, HST.out] at q
          simp only [Prod.mk.injEq] at q
          rw [← q.2.2]
          exact hstay _ _ _ he
        have hDv : Hid (decTx v = ([], en)) := Lib.hid (by
          rw [HD2.out, h55]
          have : endF v a5 en = en := by unfold endF; rw [if_neg he]
          rw [this, if_neg he])
        clear h55 hR0
        go_wp2
        go_returns
        exact ⟨none, 0, 0, [], by rw [hDv.out]; try rfl, rfl, by rw [hDv.out]; rfl, RowAt.nil _ _, (fun m h => by cases h), Nat.le_refl _, Nat.zero_le _, hbel⟩
    · obtain rfl : k = N := by omega
      have d1 : decide ((k : Int) < (k : Int)) = false := decide_eq_false (by omega)
      have d1n : decide (k < k) = false := decide_eq_false (by omega)
      have q := H5.out
      rw [HL.out, Nat.sub_self] at q
      simp only [listP, List.append_nil, Prod.mk.injEq] at q
      obtain ⟨q1, q2, q3⟩ := q
      subst q2 q3
      obtain ⟨a, cap, hsv, hrow, hkc, hcm, hab⟩ := own_slice hown
      subst hsv
      have CE := rend_any r wr v ak ek hR
      obtain ⟨E9, h9⟩ : ∃ E, endF v ak ek = E := ⟨_, rfl⟩
      have hD := HD2.out
      rw [h9, ← q1] at hD
      rw [h9] at CE
      have HD := Lib.hid hD
      clear hD h9 HD2 H5 HL hown q1
      by_cases hE : E9 = 0
      · subst hE
        have hDv : Hid (decTx v = (xs.map MsgV.d, 0)) := Lib.hid (by rw [HD.out, if_pos rfl])
        go_wp2_with (go_at_call 58; refine CE.mono ?_; rintro e w5 ⟨rfl, hb⟩)
        go_returns
        exact ⟨a, k, cap, xs, by rw [hDv.out]; try rfl, hxl, by rw [hDv.out], hrow.below hb, fun m hm => (hxs m hm).1.below hb, hkc, hcm, hbel.trans (hb.mono hbel.size)⟩
      · have hE0 : (E9 == 0) = false := beq_eq_false_iff_ne.2 hE
        have hDv : Hid (decTx v = ([], E9)) := Lib.hid (by rw [HD.out, if_neg hE])
        go_wp2_with (go_at_call 58; refine CE.mono ?_; rintro e w5 ⟨rfl, hb⟩)
        go_returns
        exact ⟨none, 0, 0, [], by rw [hDv.out]; try rfl, rfl, by rw [hDv.out]; rfl, RowAt.nil _ _, (fun m h => by cases h), Nat.le_refl _, Nat.zero_le _, hbel.trans (hb.mono hbel.size)⟩
end Go.Proofs.Ythipnkbfdkmhaaa
