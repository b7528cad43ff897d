/- Blocks out of bytes: Decode. -/
import Derived.Test.YtcbacchelabljaaBlkD
import Derived.WalkKit
import Derived.ProofKit
import Derived.Handy
import Derived.Below
import Derived.Lib.Hide
import Derived.IntWalk
import Derived.Outline
import Derived.WalkLawsBesides
import Derived.WalkSpells
namespace Go.Proofs.Ytcbacchelabljaa
open Go.RowKit
attribute [local go_sem] strV
set_option linter.unusedVariables false
theorem countG_val {s : ByteArray} {a e m : Int} (hm : 0 ≤ m) : 0 ≤ (countG s a e m).1 ∧ (countG s a e m).1 ≤ m ∧ ((countG s a e m).2.2 ≠ 0 → (countG s a e m).1 = 0) := by
  unfold countG
  by_cases he : e = 0
  · rw [if_pos he]
    obtain ⟨v, n, er, hx⟩ : ∃ v n er, nextS s.data.toList a = (v, n, er) := ⟨_, _, _, rfl⟩
    unfold countF
    rw [hx]
    simp only
    by_cases hr : er = 0
    · subst hr
      simp only [if_pos]
      obtain ⟨i, k, y, q1, q2, q3, _⟩ := next_ok hx
      by_cases hv : m < v
      · rw [if_pos hv]; exact ⟨Int.le_refl _, hm, fun _ => rfl⟩
      · rw [if_neg hv]; exact ⟨by simp only; omega, by simp only; omega, fun h => absurd rfl h⟩
    · rw [if_neg hr]; exact ⟨Int.le_refl _, hm, fun _ => rfl⟩
  · rw [if_neg he]; exact ⟨Int.le_refl _, hm, fun _ => rfl⟩
theorem own_slice {w : World} {base : Nat} {e : TypeId} {size n : Nat} {v : Value} {xs : List Value} (h : w.ownsRow base e size v n xs) :
    ∃ a cap, v = .slice a n cap ∧ RowAt w a xs ∧ n ≤ cap ∧ cap ≤ maxLen ∧ ∀ b off sp, a = some ⟨b, off, sp⟩ → base ≤ b := by
  obtain ⟨a, cap, hv, hr, _⟩ := RowAt.own h
  obtain ⟨h1, h2⟩ := h
  refine ⟨a, cap, hv, hr, ?_⟩
  rcases h2 with ⟨q1, q2⟩ | ⟨g, cap', cur, q1, q4, _, q2, q3, _⟩
  · rw [q1] at hv
    simp only [Value.slice.injEq] at hv
    obtain ⟨r0, r1, r2⟩ := hv
    refine ⟨by omega, by rw [← r2]; exact Nat.zero_le _, fun b off sp hb => ?_⟩
    rw [← r0] at hb; cases hb
  · rw [q1] at hv
    simp only [Value.slice.injEq] at hv
    obtain ⟨r0, _, r2⟩ := hv
    refine ⟨by omega, by omega, fun b off sp hb => ?_⟩
    rw [← r0] at hb
    simp only [Option.some.injEq, Addr.mk.injEq] at hb
    omega
theorem RowAt.setRow9 {w : World} {a : Option Addr} {vs : List Value} {g : Nat} (h : RowAt w a vs) (ha : ∀ b off sp, a = some ⟨b, off, sp⟩ → b ≠ g) (cs : Array Value) : RowAt (w.setRow g cs) a vs := by
  rcases h with h | ⟨b, off, hb, hlt, hc⟩
  · exact .inl h
  · refine .inr ⟨b, off, hb, by simpa [World.setRow] using hlt, fun j hj => ?_⟩
    rw [← hc j hj]
    unfold World.cell?
    rw [setRow_other _ _ _ _ (ha _ _ _ hb)]
theorem own_kept9 {w w' : World} {base : Nat} {e : TypeId} {size n : Nat} {v : Value} {xs : List Value} (h : w.ownsRow base e size v n xs) (hb : Below w.heap.size w w') : w'.ownsRow base e size v n xs := own_far h (fun j _ q => hb.block j q)
theorem listP_step {α : Type} {P : ByteArray → Int → Int → α × Int × Int} {n k : Nat} {s : ByteArray} {a e : Int} {x : α} {a1 e1 : Int} (h : k < n) (hx : P s a e = (x, a1, e1)) :
    listP P (n - k) s a e = (x :: (listP P (n - (k + 1)) s a1 e1).1, (listP P (n - (k + 1)) s a1 e1).2.1, (listP P (n - (k + 1)) s a1 e1).2.2) := by
  rw [show n - k = (n - (k + 1)) + 1 by omega]
  show (_, _, _) = _
  rw [hx]
set_option maxRecDepth 100000 in
set_option maxHeartbeats 25600000 in
theorem decodeBlk_any (v : ByteArray) (w : World) (hv : v.size ≤ 1000000) :
    Calls Try.prog 11 #[.string v] w fun e w' => ∃ a cap, e = .returned (.tuple #[.agg #[.string (decBlk v).1.ch, .int .i64 (decBlk v).1.ht, .int .i64 (decBlk v).1.tm, .slice a (decBlk v).1.evs.length cap], .int .i64 (decBlk v).2]) ∧ RowAt w' a ((decBlk v).1.evs.flatMap Ev.cells) ∧ (decBlk v).1.evs.length ≤ cap ∧ cap ≤ maxLen ∧ (∀ e ∈ (decBlk v).1.evs, e.small) ∧ Below w.heap.size w w' := by
  have hvs : v.size ≤ 1000000000 := by omega
  have hvm : v.size ≤ maxLen := by unfold maxLen; omega
  have CH := fun b W h => head_any b W v 0 0 h hvs
  have hcs := textG_size v 0 0 12
  obtain ⟨⟨c, a1, e1⟩, h1⟩ : ∃ x, textG v 0 0 12 = x := ⟨_, rfl⟩
  obtain ⟨⟨h, a2, e2⟩, h2⟩ : ∃ x, numG v a1 e1 1 1099511627776 = x := ⟨_, rfl⟩
  obtain ⟨⟨t, a3, e3⟩, h3⟩ : ∃ x, numG v a2 e2 0 1099511627776 = x := ⟨_, rfl⟩
  have C3 := fun b W h => rnum_all b W v a2 e2 0 1099511627776 h hvs
  have C4 := fun b W h => rcount_all b W v a3 e3 1073741824 h hvs
  have hcv := countG_val (s := v) (a := a3) (e := e3) (m := 1073741824) (by decide)
  obtain ⟨⟨Ni, a4, e4⟩, h4⟩ : ∃ x, countG v a3 e3 1073741824 = x := ⟨_, rfl⟩
  rw [h4] at hcv
  simp only at hcv
  obtain ⟨N, rfl⟩ : ∃ m : Nat, Ni = m := ⟨Ni.toNat, by omega⟩
  obtain ⟨⟨es, a5, e5⟩, h5⟩ : ∃ x, listP evItem N v a4 e4 = x := ⟨_, rfl⟩
  have hD : decBlk v = if endF v a5 e5 = 0 then (bif mayBlk ⟨c, h, t, es⟩ then (⟨c, h, t, es⟩, 0) else (Blk.zero, 1)) else (Blk.zero, endF v a5 e5) := by
    unfold decBlk decP blkP mapP blP seqP tP nP evsP mkBlk
    simp only [h1, h2, h3, h4, Int.toNat_natCast, h5]
  have hH : headG v 0 0 = (c, h, a2, e2) := by unfold headG; simp only [h1, h2]
  rw [h1] at hcs
  simp only [hH] at CH
  simp only [h3] at C3
  simp only [h4] at C4
  simp only at hcs
  have HD := Lib.hid hD
  have H5 := Lib.hid h5
  have hN : N ≤ 1073741824 := by omega
  have hNe : e4 ≠ 0 → N = 0 := fun q => by have := hcv.2.2 q; omega
  clear hD h1 h2 h3 h4 h5 hH hcv
  obtain ⟨i0, hi, hz0', hz1, hz2⟩ := info_parts Try.infoE
  have hz0 := heap_push w #[.string ⟨#[]⟩, .int .i64 0, .int .i64 0, .slice none 0 0] 24
  have hbA : Below w.heap.size w (w.alloc (.cells #[.string ⟨#[]⟩, .int .i64 0, .int .i64 0, .slice none 0 0] 24)) := Below.alloc (Below.refl _ _) (Nat.le_refl _) _
  go_enter Try.func11, Try.ntmps11
  go_upto_region 1 with fail
  refine wp_nameE _ (fun W1 hX => ?_)
  have hZ : W1.heap[w.heap.size]? = some (.cells #[.string ⟨#[]⟩, .int .i64 0, .int .i64 0, .slice none 0 0] 24 (0, 0)) := by rw [hX]; exact hz0
  have hbel : Below w.heap.size w W1 := by rw [hX]; exact hbA
  clear hX hz0 hbA
  have hzl : w.heap.size < W1.heap.size := (Array.getElem?_eq_some_iff.1 hZ).1
  go_upto_region 2 with (go_at_call 29; refine (rof_any v _).mono ?_; rintro e wb ⟨rfl, hR, hb⟩)
  obtain ⟨r, hr⟩ : ∃ r, W1.heap.size = r := ⟨_, rfl⟩
  have hZ := cells_of hZ hb hzl
  have hbel := hbel.trans (hb.mono hbel.size)
  simp only [hr] at hR hzl ⊢
  have hzr : w.heap.size ≠ r := by omega
  clear hb hr
  go_upto_region 3 with (first | (go_at_call 30; refine (CH _ _ hR).mono ?_; rintro e w2 ⟨rfl, hR, hk⟩; have hZ := hk.row5 hZ hzr; have hbel := hbel.trans (hk.below (by omega) hbel.size)) | (refine wpList_storeRowTo rfl (.tmp 5) (.tmp 12) 24 rfl (by kernel_rfl) rfl (by rfl) (heap_push _ _ _) rfl (row_one4 _ _ _ _ _ _) ?_))
  refine wp_nameE _ (fun W3 hX => ?_)
  have hb : Below w2.heap.size w2 W3 := by rw [hX]; first | exact below_setRow (Below.alloc (Below.refl _ _) (Nat.le_refl _) _) (Nat.le_refl _) _ | exact Below.alloc (Below.refl _ _) (Nat.le_refl _) _
  have hG : W3.heap[w2.heap.size]? = some (.cells #[.string c, .int .i64 h, .int .i64 0, .slice none 0 0] 24 (0, 0)) := by rw [hX]; first | exact setRow_heap _ _ _ _ _ _ (heap_push _ _ _) | exact heap_push _ _ _
  have hrl := hR.lt
  have hZ := cells_of hZ hb (by omega)
  have hR := hR.below hb hrl
  have hbel := hbel.trans (hb.mono hbel.size)
  clear hX hb
  obtain ⟨g, hgg⟩ : ∃ g, w2.heap.size = g := ⟨_, rfl⟩
  simp only [hgg] at hG hrl ⊢
  have hgr : g ≠ r := by omega
  have hgz : g ≠ w.heap.size := by omega
  have hwg : w.heap.size ≤ g := by omega
  clear hgg
  have qk := cell_heap hG 2; have fk := frozen_heap hG 2
  go_upto_region 4 with (go_at_call 31; refine (C3 _ _ hR).mono ?_; rintro e w3 ⟨rfl, hR, hk⟩; have hZ := hk.row5 hZ hzr; have hG := hk.row5 hG hgr; have hbel := hbel.trans (hk.below (by omega) hbel.size); have qk := cell_heap hG 2; have fk := frozen_heap hG 2)
  refine wp_nameE _ (fun W4 hX => ?_)
  have hR : RAt r W4 v a3 e3 := by rw [hX]; exact hR.put hgr _
  have hG : W4.heap[g]? = some (.cells #[.string c, .int .i64 h, .int .i64 t, .slice none 0 0] 24 (0, 0)) := by rw [hX]; exact row_put5 hG
  have hZ : W4.heap[w.heap.size]? = some (.cells #[.string ⟨#[]⟩, .int .i64 0, .int .i64 0, .slice none 0 0] 24 (0, 0)) := by rw [hX]; exact row_oth hZ hgz
  have hbel : Below w.heap.size w W4 := by rw [hX]; exact hbel.setCell (p := ⟨g, 2, none⟩) hwg _
  clear hX qk fk
  go_upto_region 5 with (go_at_call 32; refine (C4 _ _ hR).mono ?_; rintro e w4 ⟨rfl, hR, hk⟩; have hZ := hk.row5 hZ hzr; have hG := hk.row5 hG hgr; have hbel := hbel.trans (hk.below (by omega) hbel.size))
  have hgl : g < w4.heap.size := (Array.getElem?_eq_some_iff.1 hG).1
  obtain ⟨base, hbase⟩ : ∃ b, w4.heap.size = b := ⟨_, rfl⟩
  have hgb : g < base := by omega
  have hrb : r < base := by rw [← hbase]; exact hR.lt
  go_loopw [18] (fun i wr => ∃ (k : Nat) (xs : List Ev) (sv : Value) (ak ek : Int), k ≤ N ∧ xs.length = k ∧ (∀ e ∈ xs, e.small) ∧ (k < N → ek = 0) ∧ Hid (listP evItem N v a4 e4 = (xs ++ (listP evItem (N - k) v ak ek).1, (listP evItem (N - k) v ak ek).2)) ∧ wr.heap[g]? = some (.cells #[.string c, .int .i64 h, .int .i64 t, sv] 24 (0, 0)) ∧ wr.ownsRow base 43 13 sv k (xs.flatMap Ev.cells) ∧ RAt r wr v ak ek ∧ wr.heap[w.heap.size]? = some (.cells #[.string ⟨#[]⟩, .int .i64 0, .int .i64 0, .slice none 0 0] 24 (0, 0)) ∧ base ≤ wr.heap.size ∧ Below w.heap.size w wr ∧ i = .int .i64 k) (fun i _ => N - (intOf i).toNat)
  case atStart => exact ⟨0, [], .slice none 0 0, a4, e4, Nat.zero_le _, rfl, (fun e h => by cases h), (fun q => Classical.byContradiction fun h => by have := hNe h; omega), Lib.hid (by simp), hG, ⟨rfl, .inl ⟨rfl, rfl⟩⟩, hR, hZ, by omega, hbel, rfl⟩
  case round =>
    clear hG hR hZ hbel
    obtain ⟨k, xs, sv, ak, ek, hk, hxl, hxs, hek, HL, hG, hown, hR, hZ, hbw, hbel, rfl⟩ := hrel
    by_cases hlt : k < N
    · have d1 : decide ((k : Int) < (N : Int)) = true := decide_eq_true (by omega)
      have d1n : decide (k < N) = true := decide_eq_true hlt
      obtain rfl := hek hlt
      have CN := bnext_any r wr v ak hR hvs
      have hsm := evItem_small hvm ak 0
      have hstay := fun (n : Nat) (a e : Int) (q : e ≠ 0) => listP_stay (P := evItem) (fun s a e q => evItem_codec.stay q) n v a e q
      obtain ⟨⟨⟨kd, sp, sc, dp, dc, sq, da, th, ta, ack, ep, ec, eh⟩, an, en⟩, hI⟩ : ∃ x, evItem v ak 0 = x := ⟨_, rfl⟩
      have hst := listP_step (P := evItem) hlt hI
      simp only [hI, Ev.row] at CN
      rw [hI] at hsm
      simp only at hsm
      have HST := Lib.hid hst
      clear hI hst
      go_upto_region 7 with (first | (go_at_call 33; refine CN.mono ?_; rintro e we ⟨rfl, hR0, hRt, hk2⟩) | (refine wpList_storeRowTo rfl (.tmp 6) (.tmp 23) 43 rfl (by kernel_rfl) rfl (by rfl) (heap_push _ _ _) rfl (Ev.row_one _ _ _ _ _ _ _ _ _ _ _ _ _) ?_))
      have hZ := hk2.row5 hZ hzr
      have hG := hk2.row5 hG hgr
      have hown := own_far hown (fun j q1 q2 => hk2.block j q2 (by omega))
      have hbel := hbel.trans (hk2.below (by omega) hbel.size)
      have hbw := Nat.le_trans hbw hk2.size
      refine wp_nameE _ (fun W6 hX => ?_)
      have hb : Below we.heap.size we W6 := by rw [hX]; first | exact below_setRow (Below.alloc (Below.refl _ _) (Nat.le_refl _) _) (Nat.le_refl _) _ | exact Below.alloc (Below.refl _ _) (Nat.le_refl _) _
      have hE : W6.heap[we.heap.size]? = some (.cells #[.int .i64 kd, .string sp, .int .i64 sc, .string dp, .int .i64 dc, .int .i64 sq, .string da, .int .i64 th, .int .i64 ta, .string ack, .string ep, .int .i64 ec, .int .i64 eh] 43 (0, 0)) := by rw [hX]; first | exact setRow_heap _ _ _ _ _ _ (heap_push _ _ _) | exact heap_push _ _ _
      have hZ := cells_of hZ hb (by omega)
      have hG := cells_of hG hb (by omega)
      have hown := own_kept9 hown hb
      have hbel := hbel.trans (hb.mono hbel.size)
      have hbw := Nat.le_trans hbw hb.size
      have hR0 := fun q => (hR0 q).below hb (hR0 q).lt
      clear hX CN hR hRt hk2
      by_cases he : en = 0
      · subst he
        have hR := hR0 rfl
        have q0 := cell_heap hE 0; have q1 := cell_heap hE 1; have q2 := cell_heap hE 2; have q3 := cell_heap hE 3; have q4 := cell_heap hE 4; have q5 := cell_heap hE 5; have q6 := cell_heap hE 6; have q7 := cell_heap hE 7; have q8 := cell_heap hE 8; have q9 := cell_heap hE 9; have q10 := cell_heap hE 10; have q11 := cell_heap hE 11; have q12 := cell_heap hE 12
        have qk := cell_heap hG 3; have fk := frozen_heap hG 3
        have hL := HL.out
        rw [HST.out] at hL
        have HL := Lib.hid hL
        clear hL hb
        have hk30 : k + 1 ≤ 1073741824 := by omega
        go_wp2_with (at_builtin; refine wpList_pushN rfl (.tmp 30) (.tmp 32) 22 rfl 43 i0 (.agg #[.int .i64 0, .string ⟨#[]⟩, .int .i64 0, .string ⟨#[]⟩, .int .i64 0, .int .i64 0, .string ⟨#[]⟩, .int .i64 0, .int .i64 0, .string ⟨#[]⟩, .string ⟨#[]⟩, .int .i64 0, .int .i64 0]) 13 144 Try.underlying22 hi hz0' hz1 hz2 rfl (by decide) hown rfl [.int .i64 kd, .string sp, .int .i64 sc, .string dp, .int .i64 dc, .int .i64 sq, .string da, .int .i64 th, .int .i64 ta, .string ack, .string ep, .int .i64 ec, .int .i64 eh] rfl rfl (by rfl) (by unfold maxLen; omega) (by omega) hbw ?_)
        intro v9 w9 hown9 hb9
        obtain ⟨a9, cap9, hv9, _⟩ := own_slice hown9
        subst hv9
        have hG9 := cells_of hG hb9 hgb
        have hZ9 := cells_of hZ hb9 (by omega)
        have hR9 := hR.below hb9 hrb
        have qk := cell_heap hG9 3; have fk := frozen_heap hG9 3
        go_wp2
        go_roundw
        case rel =>
          refine ⟨k + 1, xs ++ [⟨kd, sp, sc, dp, dc, sq, da, th, ta, ack, ep, ec, eh⟩], .slice a9 (k + 1) cap9, an, 0, by omega, by simp [hxl], fun e he => ?_, fun _ => rfl, Lib.hid (by rw [HL.out]; simp), row_put5 hG9, ?_, hR9.put hgr _, row_oth hZ9 hgz, by rw [World.size_setCell]; exact Nat.le_trans hbw hb9.size, (hbel.trans (hb9.mono (by omega))).setCell (p := ⟨g, 3, none⟩) hwg _, by go_num⟩
          · rcases List.mem_append.1 he with q | q
            · exact hxs e q
            · rw [List.mem_singleton.1 q]; exact hsm
          · have := own_far (w' := w9.setCell ⟨g, 3, none⟩ (.slice a9 (k + 1) cap9)) hown9 (fun j q1 q2 => row_oth' w9 g 3 j _ (by omega))
            rw [List.flatMap_append, List.flatMap_cons, List.flatMap_nil, List.append_nil]
            exact this
        case measure => (simp [intOf]) <;> omega
      · have e0 : (en == 0) = false := beq_eq_false_iff_ne.2 he
        have h55 : e5 = en := by
          have q := H5.out
          rw [HL.out, HST.out] at q
          simp only [Prod.mk.injEq] at q
          rw [← q.2.2]
          exact hstay _ _ _ he
        have hDv : Hid (decBlk v = (Blk.zero, en)) := Lib.hid (by
          rw [HD.out, h55]
          have : endF v a5 en = en := by unfold endF; rw [if_neg he]
          rw [this, if_neg he])
        clear h55 hR0
        go_wp2_with (refine wpList_storeRowTo (Z := #[.string ⟨#[]⟩, .int .i64 0, .int .i64 0, .slice none 0 0]) rfl (.tmp 2) (.tmp 27) 24 rfl (by kernel_rfl) rfl (by rfl) hZ rfl (row_one4 _ _ _ _ _ _) ?_)
        have hZ : (World.setRow _ w.heap.size #[.string ⟨#[]⟩, .int .i64 0, .int .i64 0, .slice none 0 0]).heap[w.heap.size]? = some (.cells #[.string ⟨#[]⟩, .int .i64 0, .int .i64 0, .slice none 0 0] 24 (0, 0)) := setRow_heap _ _ _ _ _ _ hZ
        have hrd := run_loadVar_mid (P := Try.prog) _ w.heap.size 0 24 (#[.string ⟨#[]⟩, .int .i64 0, .int .i64 0, .slice none 0 0] : Array Value).toList _ (rangeAt_row5 hZ) Try.underlying24 rfl (by kernel_rfl)
        refine bodyPost_ret (v := .tuple #[.agg #[.string ⟨#[]⟩, .int .i64 0, .int .i64 0, .slice none 0 0], .int .i64 en]) ?_ rfl ?_
        · simp [results, Try.results11, asAddr, hrd]
          try rfl
        exact ⟨none, 0, by rw [hDv.out]; rfl, by rw [hDv.out]; exact RowAt.nil _ _, by rw [hDv.out]; exact Nat.le_refl _, Nat.zero_le _, (by rw [hDv.out]; intro e q; cases q), below_setRow hbel (Nat.le_refl _) _⟩
    · obtain rfl : k = N := by omega
      have d1 : decide ((k : Int) < (k : Int)) = false := decide_eq_false (by omega)
      have d1n : decide (k < k) = false := decide_eq_false (by omega)
      have q := H5.out
      rw [HL.out, Nat.sub_self] at q
      simp only [listP, List.append_nil, Prod.mk.injEq] at q
      obtain ⟨q1, q2, q3⟩ := q
      subst q1 q2 q3
      obtain ⟨a, cap, hsv, hrow, hkc, hcm, hab⟩ := own_slice hown
      subst hsv
      have CE := rend_any r wr v ak ek hR
      have CM := fun W h' => mayBlk_any c h t a k cap xs W (by omega) h' hxl hkc hcm hxs
      obtain ⟨E9, h9⟩ : ∃ E, endF v ak ek = E := ⟨_, rfl⟩
      have hD := HD.out
      rw [h9] at hD CE
      have HD := Lib.hid hD
      have hzl9 : w.heap.size < wr.heap.size := (Array.getElem?_eq_some_iff.1 hZ).1
      have hgl9 : g < wr.heap.size := (Array.getElem?_eq_some_iff.1 hG).1
      clear hD h9 H5 HL hown
      by_cases hE : E9 = 0
      · subst hE
        cases hM : mayBlk ⟨c, h, t, xs⟩
        · simp only [hM] at CM
          have hDv : Hid (decBlk v = (Blk.zero, 1)) := Lib.hid (by rw [HD.out, if_pos rfl, hM]; rfl)
          go_wp2_with (first | (go_at_call 34; refine CE.mono ?_; rintro e w5 ⟨rfl, hb⟩; have hG := cells_of hG hb hgl9; have hZ := cells_of hZ hb hzl9; have hrow := hrow.below hb; have hgl9 := Nat.lt_of_lt_of_le hgl9 hb.size; have hzl9 := Nat.lt_of_lt_of_le hzl9 hb.size; have hbel := hbel.trans (hb.mono hbel.size); have q0 := cell_heap hG 0; have q1 := cell_heap hG 1; have q2 := cell_heap hG 2; have q3 := cell_heap hG 3; clear hb) | (go_at_call 15; refine (CM _ hrow).mono ?_; rintro e w6 ⟨rfl, hb⟩; have hG := cells_of hG hb hgl9; have hZ := cells_of hZ hb hzl9; have hrow := hrow.below hb; have hgl9 := Nat.lt_of_lt_of_le hgl9 hb.size; have hzl9 := Nat.lt_of_lt_of_le hzl9 hb.size; have hbel := hbel.trans (hb.mono hbel.size); have q0 := cell_heap hG 0; have q1 := cell_heap hG 1; have q2 := cell_heap hG 2; have q3 := cell_heap hG 3; clear hb) | (refine wpList_storeRowTo (Z := #[.string ⟨#[]⟩, .int .i64 0, .int .i64 0, .slice none 0 0]) rfl (.tmp 2) (.tmp 45) 24 rfl (by kernel_rfl) rfl (by rfl) hZ rfl (row_one4 _ _ _ _ _ _) ?_))
          have hZ : (World.setRow _ w.heap.size #[.string ⟨#[]⟩, .int .i64 0, .int .i64 0, .slice none 0 0]).heap[w.heap.size]? = some (.cells #[.string ⟨#[]⟩, .int .i64 0, .int .i64 0, .slice none 0 0] 24 (0, 0)) := setRow_heap _ _ _ _ _ _ hZ
          have hrd := run_loadVar_mid (P := Try.prog) _ w.heap.size 0 24 (#[.string ⟨#[]⟩, .int .i64 0, .int .i64 0, .slice none 0 0] : Array Value).toList _ (rangeAt_row5 hZ) Try.underlying24 rfl (by kernel_rfl)
          refine bodyPost_ret (v := .tuple #[.agg #[.string ⟨#[]⟩, .int .i64 0, .int .i64 0, .slice none 0 0], .int .i64 1]) ?_ rfl ?_
          · simp [results, Try.results11, asAddr, hrd]
            try rfl
          exact ⟨none, 0, by rw [hDv.out]; rfl, by rw [hDv.out]; exact RowAt.nil _ _, by rw [hDv.out]; exact Nat.le_refl _, Nat.zero_le _, (by rw [hDv.out]; intro e q; cases q), below_setRow hbel (Nat.le_refl _) _⟩
        · simp only [hM] at CM
          have hDv : Hid (decBlk v = (⟨c, h, t, xs⟩, 0)) := Lib.hid (by rw [HD.out, if_pos rfl, hM]; rfl)
          go_wp2_with (first | (go_at_call 34; refine CE.mono ?_; rintro e w5 ⟨rfl, hb⟩; have hG := cells_of hG hb hgl9; have hZ := cells_of hZ hb hzl9; have hrow := hrow.below hb; have hgl9 := Nat.lt_of_lt_of_le hgl9 hb.size; have hzl9 := Nat.lt_of_lt_of_le hzl9 hb.size; have hbel := hbel.trans (hb.mono hbel.size); have q0 := cell_heap hG 0; have q1 := cell_heap hG 1; have q2 := cell_heap hG 2; have q3 := cell_heap hG 3; clear hb) | (go_at_call 15; refine (CM _ hrow).mono ?_; rintro e w6 ⟨rfl, hb⟩; have hG := cells_of hG hb hgl9; have hZ := cells_of hZ hb hzl9; have hrow := hrow.below hb; have hgl9 := Nat.lt_of_lt_of_le hgl9 hb.size; have hzl9 := Nat.lt_of_lt_of_le hzl9 hb.size; have hbel := hbel.trans (hb.mono hbel.size); have q0 := cell_heap hG 0; have q1 := cell_heap hG 1; have q2 := cell_heap hG 2; have q3 := cell_heap hG 3; clear hb) | (refine wpList_storeRowTo (Z := #[.string c, .int .i64 h, .int .i64 t, .slice a k cap]) rfl (.tmp 2) (.tmp 46) 24 rfl (by kernel_rfl) rfl (by rfl) hZ rfl (row_one4 _ _ _ _ _ _) ?_))
          have hZ : (World.setRow _ w.heap.size #[.string c, .int .i64 h, .int .i64 t, .slice a k cap]).heap[w.heap.size]? = some (.cells #[.string c, .int .i64 h, .int .i64 t, .slice a k cap] 24 (0, 0)) := setRow_heap _ _ _ _ _ _ hZ
          have hrd := run_loadVar_mid (P := Try.prog) _ w.heap.size 0 24 (#[.string c, .int .i64 h, .int .i64 t, .slice a k cap] : Array Value).toList _ (rangeAt_row5 hZ) Try.underlying24 rfl (by kernel_rfl)
          refine bodyPost_ret (v := .tuple #[.agg #[.string c, .int .i64 h, .int .i64 t, .slice a k cap], .int .i64 0]) ?_ rfl ?_
          · simp [results, Try.results11, asAddr, hrd]
            try rfl
          exact ⟨a, cap, by rw [hDv.out]; simp only [hxl], by rw [hDv.out]; exact hrow.setRow9 (fun b' off sp hb' => by have := hab b' off sp hb'; omega) _, by rw [hDv.out]; simp only [hxl]; exact hkc, hcm, by rw [hDv.out]; exact hxs, below_setRow hbel (Nat.le_refl _) _⟩
      · have hE0 : (E9 == 0) = false := beq_eq_false_iff_ne.2 hE
        have hDv : Hid (decBlk v = (Blk.zero, E9)) := Lib.hid (by rw [HD.out, if_neg hE])
        go_wp2_with (first | (go_at_call 34; refine CE.mono ?_; rintro e w5 ⟨rfl, hb⟩; have hG := cells_of hG hb hgl9; have hZ := cells_of hZ hb hzl9; have hrow := hrow.below hb; have hgl9 := Nat.lt_of_lt_of_le hgl9 hb.size; have hzl9 := Nat.lt_of_lt_of_le hzl9 hb.size; have hbel := hbel.trans (hb.mono hbel.size); have q0 := cell_heap hG 0; have q1 := cell_heap hG 1; have q2 := cell_heap hG 2; have q3 := cell_heap hG 3; clear hb) | (go_at_call 15; refine (CM _ hrow).mono ?_; rintro e w6 ⟨rfl, hb⟩; have hG := cells_of hG hb hgl9; have hZ := cells_of hZ hb hzl9; have hrow := hrow.below hb; have hgl9 := Nat.lt_of_lt_of_le hgl9 hb.size; have hzl9 := Nat.lt_of_lt_of_le hzl9 hb.size; have hbel := hbel.trans (hb.mono hbel.size); have q0 := cell_heap hG 0; have q1 := cell_heap hG 1; have q2 := cell_heap hG 2; have q3 := cell_heap hG 3; clear hb) | (refine wpList_storeRowTo (Z := #[.string ⟨#[]⟩, .int .i64 0, .int .i64 0, .slice none 0 0]) rfl (.tmp 2) (.tmp 40) 24 rfl (by kernel_rfl) rfl (by rfl) hZ rfl (row_one4 _ _ _ _ _ _) ?_))
        have hZ : (World.setRow _ w.heap.size #[.string ⟨#[]⟩, .int .i64 0, .int .i64 0, .slice none 0 0]).heap[w.heap.size]? = some (.cells #[.string ⟨#[]⟩, .int .i64 0, .int .i64 0, .slice none 0 0] 24 (0, 0)) := setRow_heap _ _ _ _ _ _ hZ
        have hrd := run_loadVar_mid (P := Try.prog) _ w.heap.size 0 24 (#[.string ⟨#[]⟩, .int .i64 0, .int .i64 0, .slice none 0 0] : Array Value).toList _ (rangeAt_row5 hZ) Try.underlying24 rfl (by kernel_rfl)
        refine bodyPost_ret (v := .tuple #[.agg #[.string ⟨#[]⟩, .int .i64 0, .int .i64 0, .slice none 0 0], .int .i64 E9]) ?_ rfl ?_
        · simp [results, Try.results11, asAddr, hrd]
          try rfl
        exact ⟨none, 0, by rw [hDv.out]; rfl, by rw [hDv.out]; exact RowAt.nil _ _, by rw [hDv.out]; exact Nat.le_refl _, Nat.zero_le _, (by rw [hDv.out]; intro e q; cases q), below_setRow hbel (Nat.le_refl _) _⟩
end Go.Proofs.Ytcbacchelabljaa
