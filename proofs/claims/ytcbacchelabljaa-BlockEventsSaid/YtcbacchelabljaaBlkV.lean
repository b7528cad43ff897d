/- BlockEvents, walked. -/
import Derived.Test.YtcbacchelabljaaRefEv
import Derived.Deep.Upon
import Derived.WalkKit
import Derived.ProofKit
import Derived.Handy
import Derived.Below
import Derived.Lib.Hide
import Derived.IntWalk
import Derived.Outline
import Derived.WalkLawsBesides
import Derived.WalkSpells
namespace Go.Proofs.Ytcbacchelabljaa
open Go.RowKit
attribute [local go_sem] strV
set_option linter.unusedVariables false

theorem below_setCells {B g : Nat} {w0 : World} (hg : B ≤ g) : ∀ (vs : List Value) (o : Nat) (w : World), Below B w0 w → Below B w0 (w.setCells g o vs)
  | [], _, _, h => h
  | v :: r, o, w, h => below_setCells hg r (o + 1) _ (h.setCell (p := ⟨g, o, none⟩) hg v)
theorem size_setCells {g : Nat} : ∀ (vs : List Value) (o : Nat) (w : World), (w.setCells g o vs).heap.size = w.heap.size
  | [], _, _ => rfl
  | v :: r, o, w => by
    show ((w.setCell ⟨g, o, none⟩ v).setCells g (o + 1) r).heap.size = _
    rw [size_setCells r (o + 1), World.size_setCell]
theorem row_new (w : World) (cur : Array Value) (t : TypeId) : RowAt (w.alloc (.cells cur t)) (some ⟨w.heap.size, 0, none⟩) cur.toList :=
  .inr ⟨_, 0, rfl, by simp, fun j hj => by
    rw [Nat.zero_add, cell_heap (heap_push w cur t) j]
    simp⟩
theorem evs_set {w : World} {g k : Nat} {es : List Ev} {x : Ev} (hk : k < es.length) (hr : RowAt w (some ⟨g, 0, none⟩) (es.flatMap Ev.cells)) (ht : w.there g (k * 13) 13) : RowAt (w.setCells g (k * 13) x.cells) (some ⟨g, 0, none⟩) ((es.set k x).flatMap Ev.cells) := by
  rcases hr with hr | ⟨b, off, hb, hlt, hc⟩
  · have := flat_length Ev.cells 13 Ev.cells_len es
    rw [hr, List.length_nil] at this; omega
  · simp only [Option.some.injEq, Addr.mk.injEq, and_true] at hb
    obtain ⟨rfl, rfl⟩ := hb
    refine .inr ⟨g, 0, rfl, by rw [size_setCells]; exact hlt, fun j hj => ?_⟩
    rw [flat_length Ev.cells 13 Ev.cells_len, List.length_set] at hj
    rw [flat_length Ev.cells 13 Ev.cells_len] at hc
    obtain ⟨q, r, rfl, hr⟩ : ∃ q r, j = q * 13 + r ∧ r < 13 := ⟨j / 13, j % 13, by omega, by omega⟩
    have hq : q < es.length := by omega
    rw [flat_get Ev.cells 13 Ev.cells_len _ q r (by rw [List.length_set]; exact hq) hr]
    by_cases hqk : q = k
    · subst hqk
      rw [List.getElem_set_self]
      have hx : r < x.cells.length := hr
      have := World.rangeAt_setCells_same w g (q * 13) x.cells ht r x.cells[r] (List.getElem?_eq_getElem hx)
      rw [Nat.zero_add, this, List.getElem?_eq_getElem hx]
    · rw [List.getElem_set_ne (by omega)]
      rw [World.cell?_setCells_out g x.cells _ w _ (fun _ _ => by
        show 0 + (q * 13 + r) < k * 13 ∨ k * 13 + x.cells.length ≤ 0 + (q * 13 + r)
        rw [Ev.cells_len]
        rcases Nat.lt_or_ge q k with h | h <;> omega)]
      rw [hc _ (by omega), flat_get Ev.cells 13 Ev.cells_len _ q r hq hr]
theorem evs_set' {w : World} {g k : Nat} {es : List Ev} {x : Ev} {us : List Value} (hus : us = x.cells) (hk : k < es.length) (hr : RowAt w (some ⟨g, 0, none⟩) (es.flatMap Ev.cells)) (ht : w.there g (k * 13) 13) : RowAt (w.setCells g (k * 13) us) (some ⟨g, 0, none⟩) ((es.set k x).flatMap Ev.cells) := by
  subst hus
  exact evs_set hk hr ht
theorem Ev.cells_one {es : List Ev} : ∀ u ∈ es.flatMap Ev.cells, u.oneCell' = true := fun u hu => by
  obtain ⟨x, _, hx⟩ := List.mem_flatMap.1 hu
  obtain ⟨kd, sp, sc, dp, dc, sq, da, th, ta, ack, ep, ec, eh⟩ := x
  exact (Array.all_eq_true_iff_forall_mem.1 (Ev.row_one kd sp sc dp dc sq da th ta ack ep ec eh)) u (by simpa [Ev.cells, Ev.row] using hx)
theorem encBlk_inj {a b : Blk} (ha : mayBlk a = true) (hb : mayBlk b = true) (h : encBlk a = encBlk b) : a = b := by
  have h1 := decBlk_enc ha (v := ⟨(encBlk a).toArray⟩) (by simp)
  have h2 := decBlk_enc hb (v := ⟨(encBlk a).toArray⟩) (by rw [h])
  rw [h1] at h2
  exact (Prod.mk.inj h2).1
theorem ba_ext {x y : ByteArray} (h : x.data.toList = y.data.toList) : x = y := by
  apply ByteArray.ext; apply Array.ext'; exact h
theorem ev_set_iff {es : List Ev} {k : Nat} (hk : k < es.length) {x : Ev} : es.set k x = es ↔ x = es[k] := by
  constructor
  · intro h
    have : (es.set k x)[k]'(by simpa using hk) = es[k] := by simp only [h]
    rw [List.getElem_set_self] at this; exact this
  · rintro rfl; exact List.set_getElem_self hk
theorem evs_same {ch : ByteArray} {ht tm : Int} {es : List Ev} {k : Nat} {x y : Ev} {S T : ByteArray} (hk : k < es.length) (hy : es[k] = y) (h1 : mayBlk ⟨ch, ht, tm, es⟩ = true) (h2 : mayBlk ⟨ch, ht, tm, es.set k x⟩ = true) (hS : S.data.toList = encBlk ⟨ch, ht, tm, es⟩) (hT : T.data.toList = encBlk ⟨ch, ht, tm, es.set k x⟩) :
    (S.toList == T.toList) = evB x y ∧ sameBlk ⟨ch, ht, tm, es⟩ ⟨ch, ht, tm, es.set k x⟩ = evB x y := by
  have key : (es.set k x = es) ↔ evB x y = true := by rw [ev_set_iff hk, evB_iff, hy]
  cases h : evB x y
  · have hne : es.set k x ≠ es := fun e => by rw [key.1 e] at h; cases h
    constructor
    · rw [beq_eq_false_iff_ne]
      intro e
      have : S = T := ba_eq'.1 e
      subst this
      have := encBlk_inj h1 h2 (hS.symm.trans hT)
      simp only [Blk.mk.injEq, true_and] at this
      exact hne this.symm
    · cases h9 : sameBlk ⟨ch, ht, tm, es⟩ ⟨ch, ht, tm, es.set k x⟩
      · rfl
      · have := sameBlk_iff.1 h9
        simp only [Blk.mk.injEq, true_and] at this
        exact absurd this.symm hne
  · have he := key.2 h
    rw [he] at hT ⊢
    exact ⟨ba_eq.2 (ba_ext (hS.trans hT.symm)), sameBlk_iff.2 rfl⟩
set_option maxRecDepth 100000 in
set_option maxHeartbeats 4000000 in
theorem walkBlockEvents (ch : ByteArray) (ht tm : Int) (a : Option Addr) (n cap : Nat) (es : List Ev) (i : Int) (kd : Int) (sp : ByteArray) (sc : Int) (dp : ByteArray) (dc : Int) (sq : Int) (da : ByteArray) (th : Int) (ta : Int) (ack : ByteArray) (ep : ByteArray) (ec : Int) (eh : Int) (w : World) (hch : ch.size ≤ maxLen) (hr : RowAt w a (es.flatMap Ev.cells)) (hn : es.length = n) (hcap : n ≤ cap) (hcm : cap ≤ maxLen) (hq : ∀ e ∈ es, e.small) (s1 : sp.size ≤ maxLen) (s2 : dp.size ≤ maxLen) (s3 : ep.size ≤ maxLen) :
    Calls Try.prog 6 #[.agg #[.string ch, .int .i64 ht, .int .i64 tm, .slice a n cap], .int .i64 i, .agg #[.int .i64 kd, .string sp, .int .i64 sc, .string dp, .int .i64 dc, .int .i64 sq, .string da, .int .i64 th, .int .i64 ta, .string ack, .string ep, .int .i64 ec, .int .i64 eh]] w fun e w' => e = .returned (.bool true) ∧ Below w.heap.size w w' := by
  have hg0 := al2_0 w (.cells #[.string ch, .int .i64 ht, .int .i64 tm, .slice a n cap] 24) (.cells #[.int .i64 kd, .string sp, .int .i64 sc, .string dp, .int .i64 dc, .int .i64 sq, .string da, .int .i64 th, .int .i64 ta, .string ack, .string ep, .int .i64 ec, .int .i64 eh] 43)
  have hx0 := al2_1 w (.cells #[.string ch, .int .i64 ht, .int .i64 tm, .slice a n cap] 24) (.cells #[.int .i64 kd, .string sp, .int .i64 sc, .string dp, .int .i64 dc, .int .i64 sq, .string da, .int .i64 th, .int .i64 ta, .string ack, .string ep, .int .i64 ec, .int .i64 eh] 43)
  have hbA := al2_below w (.cells #[.string ch, .int .i64 ht, .int .i64 tm, .slice a n cap] 24) (.cells #[.int .i64 kd, .string sp, .int .i64 sc, .string dp, .int .i64 dc, .int .i64 sq, .string da, .int .i64 th, .int .i64 ta, .string ack, .string ep, .int .i64 ec, .int .i64 eh] 43)
  have CL := fun W h => lightBlk_any ch ht tm a n cap es W h hn
  have CM := fun W h => mayBlk_any ch ht tm a n cap es W hch h hn hcap hcm hq
  have CX := fun (W : World) => (lightL_any (some ⟨W.heap.size, 0, none⟩) 1 1 [⟨kd, sp, sc, dp, dc, sq, da, th, ta, ack, ep, ec, eh⟩] (W.alloc (.cells #[.int .i64 kd, .string sp, .int .i64 sc, .string dp, .int .i64 dc, .int .i64 sq, .string da, .int .i64 th, .int .i64 ta, .string ack, .string ep, .int .i64 ec, .int .i64 eh] 43)) (row_new W #[.int .i64 kd, .string sp, .int .i64 sc, .string dp, .int .i64 dc, .int .i64 sq, .string da, .int .i64 th, .int .i64 ta, .string ack, .string ep, .int .i64 ec, .int .i64 eh] 43) rfl).mono (fun e w' (h : e = .returned (.bool (lightL [⟨kd, sp, sc, dp, dc, sq, da, th, ta, ack, ep, ec, eh⟩])) ∧ Below _ _ w') => (⟨h.1, (Below.alloc (Below.refl _ _) (Nat.le_refl _) _).trans (h.2.mono (by simp))⟩ : e = .returned (.bool (lightL [⟨kd, sp, sc, dp, dc, sq, da, th, ta, ack, ep, ec, eh⟩])) ∧ Below W.heap.size W w'))
  have CY := fun W => refMayEv_any kd sp sc dp dc sq da th ta ack ep ec eh W s1 s2 s3
  obtain ⟨lb, hlb⟩ : ∃ b, lightBlk ch es = b := ⟨_, rfl⟩
  obtain ⟨mb, hmb⟩ : ∃ b, mayBlk ⟨ch, ht, tm, es⟩ = b := ⟨_, rfl⟩
  obtain ⟨lx, hlx⟩ : ∃ b, lightL [⟨kd, sp, sc, dp, dc, sq, da, th, ta, ack, ep, ec, eh⟩] = b := ⟨_, rfl⟩
  obtain ⟨mx, hmx⟩ : ∃ b, mayEv ⟨kd, sp, sc, dp, dc, sq, da, th, ta, ack, ep, ec, eh⟩ = b := ⟨_, rfl⟩
  simp only [hlb] at CL
  simp only [hmb] at CM
  simp only [hlx] at CX
  simp only [hmx] at CY
  have HLX := Lib.hid hlx
  clear hlx
  go_enter Try.func6, Try.ntmps6
  go_upto_region 1 with fail
  refine wp_nameE _ (fun W1 hX => ?_)
  have hg : W1.heap[w.heap.size]? = some (.cells #[.string ch, .int .i64 ht, .int .i64 tm, .slice a n cap] 24 (0, 0)) := by rw [hX]; exact hg0
  have hx : W1.heap[w.heap.size + 1]? = some (.cells #[.int .i64 kd, .string sp, .int .i64 sc, .string dp, .int .i64 dc, .int .i64 sq, .string da, .int .i64 th, .int .i64 ta, .string ack, .string ep, .int .i64 ec, .int .i64 eh] 43 (0, 0)) := by rw [hX]; exact hx0
  have hbel : Below w.heap.size w W1 := by rw [hX]; exact hbA
  clear hX hg0 hx0 hbA
  have hgl : w.heap.size < W1.heap.size := (Array.getElem?_eq_some_iff.1 hg).1
  have hxl : w.heap.size + 1 < W1.heap.size := (Array.getElem?_eq_some_iff.1 hx).1
  have q0 := cell_heap hg 0; have q1 := cell_heap hg 1; have q2 := cell_heap hg 2; have q3 := cell_heap hg 3
  have r0 := cell_heap hx 0; have r1 := cell_heap hx 1; have r2 := cell_heap hx 2; have r3 := cell_heap hx 3; have r4 := cell_heap hx 4; have r5 := cell_heap hx 5; have r6 := cell_heap hx 6; have r7 := cell_heap hx 7; have r8 := cell_heap hx 8; have r9 := cell_heap hx 9; have r10 := cell_heap hx 10; have r11 := cell_heap hx 11; have r12 := cell_heap hx 12
  cases lb
  · go_wp2_with (first | (go_at_call 7; refine (first10_any _).mono ?_; rintro e w9 ⟨rfl, hb⟩; have hg := cells_of hg hb hgl; have hx := cells_of hx hb hxl; have hgl := Nat.lt_of_lt_of_le hgl hb.size; have hxl := Nat.lt_of_lt_of_le hxl hb.size; have hbel := hbel.trans (hb.mono hbel.size); have q0 := cell_heap hg 0; have q1 := cell_heap hg 1; have q2 := cell_heap hg 2; have q3 := cell_heap hg 3; have r0 := cell_heap hx 0; have r1 := cell_heap hx 1; have r2 := cell_heap hx 2; have r3 := cell_heap hx 3; have r4 := cell_heap hx 4; have r5 := cell_heap hx 5; have r6 := cell_heap hx 6; have r7 := cell_heap hx 7; have r8 := cell_heap hx 8; have r9 := cell_heap hx 9; have r10 := cell_heap hx 10; have r11 := cell_heap hx 11; have r12 := cell_heap hx 12; clear hb) | (go_at_call 8; refine (CL _ (hr.below hbel)).mono ?_; rintro e w9 ⟨rfl, hb⟩; have hg := cells_of hg hb hgl; have hx := cells_of hx hb hxl; have hgl := Nat.lt_of_lt_of_le hgl hb.size; have hxl := Nat.lt_of_lt_of_le hxl hb.size; have hbel := hbel.trans (hb.mono hbel.size); have q0 := cell_heap hg 0; have q1 := cell_heap hg 1; have q2 := cell_heap hg 2; have q3 := cell_heap hg 3; have r0 := cell_heap hx 0; have r1 := cell_heap hx 1; have r2 := cell_heap hx 2; have r3 := cell_heap hx 3; have r4 := cell_heap hx 4; have r5 := cell_heap hx 5; have r6 := cell_heap hx 6; have r7 := cell_heap hx 7; have r8 := cell_heap hx 8; have r9 := cell_heap hx 9; have r10 := cell_heap hx 10; have r11 := cell_heap hx 11; have r12 := cell_heap hx 12; clear hb))
    go_ret
    exact ⟨rfl, hbel⟩
  cases mb
  · go_wp2_with (first | (go_at_call 7; refine (first10_any _).mono ?_; rintro e w9 ⟨rfl, hb⟩; have hg := cells_of hg hb hgl; have hx := cells_of hx hb hxl; have hgl := Nat.lt_of_lt_of_le hgl hb.size; have hxl := Nat.lt_of_lt_of_le hxl hb.size; have hbel := hbel.trans (hb.mono hbel.size); have q0 := cell_heap hg 0; have q1 := cell_heap hg 1; have q2 := cell_heap hg 2; have q3 := cell_heap hg 3; have r0 := cell_heap hx 0; have r1 := cell_heap hx 1; have r2 := cell_heap hx 2; have r3 := cell_heap hx 3; have r4 := cell_heap hx 4; have r5 := cell_heap hx 5; have r6 := cell_heap hx 6; have r7 := cell_heap hx 7; have r8 := cell_heap hx 8; have r9 := cell_heap hx 9; have r10 := cell_heap hx 10; have r11 := cell_heap hx 11; have r12 := cell_heap hx 12; clear hb) | (go_at_call 8; refine (CL _ (hr.below hbel)).mono ?_; rintro e w9 ⟨rfl, hb⟩; have hg := cells_of hg hb hgl; have hx := cells_of hx hb hxl; have hgl := Nat.lt_of_lt_of_le hgl hb.size; have hxl := Nat.lt_of_lt_of_le hxl hb.size; have hbel := hbel.trans (hb.mono hbel.size); have q0 := cell_heap hg 0; have q1 := cell_heap hg 1; have q2 := cell_heap hg 2; have q3 := cell_heap hg 3; have r0 := cell_heap hx 0; have r1 := cell_heap hx 1; have r2 := cell_heap hx 2; have r3 := cell_heap hx 3; have r4 := cell_heap hx 4; have r5 := cell_heap hx 5; have r6 := cell_heap hx 6; have r7 := cell_heap hx 7; have r8 := cell_heap hx 8; have r9 := cell_heap hx 9; have r10 := cell_heap hx 10; have r11 := cell_heap hx 11; have r12 := cell_heap hx 12; clear hb) | (go_at_call 15; refine (CM _ (hr.below hbel)).mono ?_; rintro e w9 ⟨rfl, hb⟩; have hg := cells_of hg hb hgl; have hx := cells_of hx hb hxl; have hgl := Nat.lt_of_lt_of_le hgl hb.size; have hxl := Nat.lt_of_lt_of_le hxl hb.size; have hbel := hbel.trans (hb.mono hbel.size); have q0 := cell_heap hg 0; have q1 := cell_heap hg 1; have q2 := cell_heap hg 2; have q3 := cell_heap hg 3; have r0 := cell_heap hx 0; have r1 := cell_heap hx 1; have r2 := cell_heap hx 2; have r3 := cell_heap hx 3; have r4 := cell_heap hx 4; have r5 := cell_heap hx 5; have r6 := cell_heap hx 6; have r7 := cell_heap hx 7; have r8 := cell_heap hx 8; have r9 := cell_heap hx 9; have r10 := cell_heap hx 10; have r11 := cell_heap hx 11; have r12 := cell_heap hx 12; clear hb))
    go_ret
    exact ⟨rfl, hbel⟩
  by_cases c3 : i < 0
  · have d3 : decide (i < 0) = true := decide_eq_true c3
    go_wp2_with (first | (go_at_call 7; refine (first10_any _).mono ?_; rintro e w9 ⟨rfl, hb⟩; have hg := cells_of hg hb hgl; have hx := cells_of hx hb hxl; have hgl := Nat.lt_of_lt_of_le hgl hb.size; have hxl := Nat.lt_of_lt_of_le hxl hb.size; have hbel := hbel.trans (hb.mono hbel.size); have q0 := cell_heap hg 0; have q1 := cell_heap hg 1; have q2 := cell_heap hg 2; have q3 := cell_heap hg 3; have r0 := cell_heap hx 0; have r1 := cell_heap hx 1; have r2 := cell_heap hx 2; have r3 := cell_heap hx 3; have r4 := cell_heap hx 4; have r5 := cell_heap hx 5; have r6 := cell_heap hx 6; have r7 := cell_heap hx 7; have r8 := cell_heap hx 8; have r9 := cell_heap hx 9; have r10 := cell_heap hx 10; have r11 := cell_heap hx 11; have r12 := cell_heap hx 12; clear hb) | (go_at_call 8; refine (CL _ (hr.below hbel)).mono ?_; rintro e w9 ⟨rfl, hb⟩; have hg := cells_of hg hb hgl; have hx := cells_of hx hb hxl; have hgl := Nat.lt_of_lt_of_le hgl hb.size; have hxl := Nat.lt_of_lt_of_le hxl hb.size; have hbel := hbel.trans (hb.mono hbel.size); have q0 := cell_heap hg 0; have q1 := cell_heap hg 1; have q2 := cell_heap hg 2; have q3 := cell_heap hg 3; have r0 := cell_heap hx 0; have r1 := cell_heap hx 1; have r2 := cell_heap hx 2; have r3 := cell_heap hx 3; have r4 := cell_heap hx 4; have r5 := cell_heap hx 5; have r6 := cell_heap hx 6; have r7 := cell_heap hx 7; have r8 := cell_heap hx 8; have r9 := cell_heap hx 9; have r10 := cell_heap hx 10; have r11 := cell_heap hx 11; have r12 := cell_heap hx 12; clear hb) | (go_at_call 15; refine (CM _ (hr.below hbel)).mono ?_; rintro e w9 ⟨rfl, hb⟩; have hg := cells_of hg hb hgl; have hx := cells_of hx hb hxl; have hgl := Nat.lt_of_lt_of_le hgl hb.size; have hxl := Nat.lt_of_lt_of_le hxl hb.size; have hbel := hbel.trans (hb.mono hbel.size); have q0 := cell_heap hg 0; have q1 := cell_heap hg 1; have q2 := cell_heap hg 2; have q3 := cell_heap hg 3; have r0 := cell_heap hx 0; have r1 := cell_heap hx 1; have r2 := cell_heap hx 2; have r3 := cell_heap hx 3; have r4 := cell_heap hx 4; have r5 := cell_heap hx 5; have r6 := cell_heap hx 6; have r7 := cell_heap hx 7; have r8 := cell_heap hx 8; have r9 := cell_heap hx 9; have r10 := cell_heap hx 10; have r11 := cell_heap hx 11; have r12 := cell_heap hx 12; clear hb))
    go_ret
    exact ⟨rfl, hbel⟩
  obtain ⟨k, rfl⟩ : ∃ k : Nat, i = k := ⟨i.toNat, by omega⟩
  have d3 : decide ((k : Int) < 0) = false := decide_eq_false (by omega)
  clear c3
  by_cases c4 : n ≤ k
  · have d4 : decide ((n : Int) ≤ (k : Int)) = true := decide_eq_true (by omega)
    have d4n : decide (n ≤ k) = true := decide_eq_true c4
    go_wp2_with (first | (go_at_call 7; refine (first10_any _).mono ?_; rintro e w9 ⟨rfl, hb⟩; have hg := cells_of hg hb hgl; have hx := cells_of hx hb hxl; have hgl := Nat.lt_of_lt_of_le hgl hb.size; have hxl := Nat.lt_of_lt_of_le hxl hb.size; have hbel := hbel.trans (hb.mono hbel.size); have q0 := cell_heap hg 0; have q1 := cell_heap hg 1; have q2 := cell_heap hg 2; have q3 := cell_heap hg 3; have r0 := cell_heap hx 0; have r1 := cell_heap hx 1; have r2 := cell_heap hx 2; have r3 := cell_heap hx 3; have r4 := cell_heap hx 4; have r5 := cell_heap hx 5; have r6 := cell_heap hx 6; have r7 := cell_heap hx 7; have r8 := cell_heap hx 8; have r9 := cell_heap hx 9; have r10 := cell_heap hx 10; have r11 := cell_heap hx 11; have r12 := cell_heap hx 12; clear hb) | (go_at_call 8; refine (CL _ (hr.below hbel)).mono ?_; rintro e w9 ⟨rfl, hb⟩; have hg := cells_of hg hb hgl; have hx := cells_of hx hb hxl; have hgl := Nat.lt_of_lt_of_le hgl hb.size; have hxl := Nat.lt_of_lt_of_le hxl hb.size; have hbel := hbel.trans (hb.mono hbel.size); have q0 := cell_heap hg 0; have q1 := cell_heap hg 1; have q2 := cell_heap hg 2; have q3 := cell_heap hg 3; have r0 := cell_heap hx 0; have r1 := cell_heap hx 1; have r2 := cell_heap hx 2; have r3 := cell_heap hx 3; have r4 := cell_heap hx 4; have r5 := cell_heap hx 5; have r6 := cell_heap hx 6; have r7 := cell_heap hx 7; have r8 := cell_heap hx 8; have r9 := cell_heap hx 9; have r10 := cell_heap hx 10; have r11 := cell_heap hx 11; have r12 := cell_heap hx 12; clear hb) | (go_at_call 15; refine (CM _ (hr.below hbel)).mono ?_; rintro e w9 ⟨rfl, hb⟩; have hg := cells_of hg hb hgl; have hx := cells_of hx hb hxl; have hgl := Nat.lt_of_lt_of_le hgl hb.size; have hxl := Nat.lt_of_lt_of_le hxl hb.size; have hbel := hbel.trans (hb.mono hbel.size); have q0 := cell_heap hg 0; have q1 := cell_heap hg 1; have q2 := cell_heap hg 2; have q3 := cell_heap hg 3; have r0 := cell_heap hx 0; have r1 := cell_heap hx 1; have r2 := cell_heap hx 2; have r3 := cell_heap hx 3; have r4 := cell_heap hx 4; have r5 := cell_heap hx 5; have r6 := cell_heap hx 6; have r7 := cell_heap hx 7; have r8 := cell_heap hx 8; have r9 := cell_heap hx 9; have r10 := cell_heap hx 10; have r11 := cell_heap hx 11; have r12 := cell_heap hx 12; clear hb))
    go_ret
    exact ⟨rfl, hbel⟩
  have d4 : decide ((n : Int) ≤ (k : Int)) = false := decide_eq_false (by omega)
  have d4n : decide (n ≤ k) = false := decide_eq_false c4
  cases lx
  · go_wp2_with (first | (go_at_call 7; refine (first10_any _).mono ?_; rintro e w9 ⟨rfl, hb⟩; have hg := cells_of hg hb hgl; have hx := cells_of hx hb hxl; have hgl := Nat.lt_of_lt_of_le hgl hb.size; have hxl := Nat.lt_of_lt_of_le hxl hb.size; have hbel := hbel.trans (hb.mono hbel.size); have q0 := cell_heap hg 0; have q1 := cell_heap hg 1; have q2 := cell_heap hg 2; have q3 := cell_heap hg 3; have r0 := cell_heap hx 0; have r1 := cell_heap hx 1; have r2 := cell_heap hx 2; have r3 := cell_heap hx 3; have r4 := cell_heap hx 4; have r5 := cell_heap hx 5; have r6 := cell_heap hx 6; have r7 := cell_heap hx 7; have r8 := cell_heap hx 8; have r9 := cell_heap hx 9; have r10 := cell_heap hx 10; have r11 := cell_heap hx 11; have r12 := cell_heap hx 12; clear hb) | (go_at_call 8; refine (CL _ (hr.below hbel)).mono ?_; rintro e w9 ⟨rfl, hb⟩; have hg := cells_of hg hb hgl; have hx := cells_of hx hb hxl; have hgl := Nat.lt_of_lt_of_le hgl hb.size; have hxl := Nat.lt_of_lt_of_le hxl hb.size; have hbel := hbel.trans (hb.mono hbel.size); have q0 := cell_heap hg 0; have q1 := cell_heap hg 1; have q2 := cell_heap hg 2; have q3 := cell_heap hg 3; have r0 := cell_heap hx 0; have r1 := cell_heap hx 1; have r2 := cell_heap hx 2; have r3 := cell_heap hx 3; have r4 := cell_heap hx 4; have r5 := cell_heap hx 5; have r6 := cell_heap hx 6; have r7 := cell_heap hx 7; have r8 := cell_heap hx 8; have r9 := cell_heap hx 9; have r10 := cell_heap hx 10; have r11 := cell_heap hx 11; have r12 := cell_heap hx 12; clear hb) | (go_at_call 15; refine (CM _ (hr.below hbel)).mono ?_; rintro e w9 ⟨rfl, hb⟩; have hg := cells_of hg hb hgl; have hx := cells_of hx hb hxl; have hgl := Nat.lt_of_lt_of_le hgl hb.size; have hxl := Nat.lt_of_lt_of_le hxl hb.size; have hbel := hbel.trans (hb.mono hbel.size); have q0 := cell_heap hg 0; have q1 := cell_heap hg 1; have q2 := cell_heap hg 2; have q3 := cell_heap hg 3; have r0 := cell_heap hx 0; have r1 := cell_heap hx 1; have r2 := cell_heap hx 2; have r3 := cell_heap hx 3; have r4 := cell_heap hx 4; have r5 := cell_heap hx 5; have r6 := cell_heap hx 6; have r7 := cell_heap hx 7; have r8 := cell_heap hx 8; have r9 := cell_heap hx 9; have r10 := cell_heap hx 10; have r11 := cell_heap hx 11; have r12 := cell_heap hx 12; clear hb) | (go_at_call 19; refine (CX _).mono ?_; rintro e w9 ⟨rfl, hb⟩; have hg := cells_of hg hb hgl; have hx := cells_of hx hb hxl; have hgl := Nat.lt_of_lt_of_le hgl hb.size; have hxl := Nat.lt_of_lt_of_le hxl hb.size; have hbel := hbel.trans (hb.mono hbel.size); have q0 := cell_heap hg 0; have q1 := cell_heap hg 1; have q2 := cell_heap hg 2; have q3 := cell_heap hg 3; have r0 := cell_heap hx 0; have r1 := cell_heap hx 1; have r2 := cell_heap hx 2; have r3 := cell_heap hx 3; have r4 := cell_heap hx 4; have r5 := cell_heap hx 5; have r6 := cell_heap hx 6; have r7 := cell_heap hx 7; have r8 := cell_heap hx 8; have r9 := cell_heap hx 9; have r10 := cell_heap hx 10; have r11 := cell_heap hx 11; have r12 := cell_heap hx 12; clear hb))
    go_ret
    exact ⟨rfl, hbel⟩
  cases mx
  · go_wp2_with (first | (go_at_call 7; refine (first10_any _).mono ?_; rintro e w9 ⟨rfl, hb⟩; have hg := cells_of hg hb hgl; have hx := cells_of hx hb hxl; have hgl := Nat.lt_of_lt_of_le hgl hb.size; have hxl := Nat.lt_of_lt_of_le hxl hb.size; have hbel := hbel.trans (hb.mono hbel.size); have q0 := cell_heap hg 0; have q1 := cell_heap hg 1; have q2 := cell_heap hg 2; have q3 := cell_heap hg 3; have r0 := cell_heap hx 0; have r1 := cell_heap hx 1; have r2 := cell_heap hx 2; have r3 := cell_heap hx 3; have r4 := cell_heap hx 4; have r5 := cell_heap hx 5; have r6 := cell_heap hx 6; have r7 := cell_heap hx 7; have r8 := cell_heap hx 8; have r9 := cell_heap hx 9; have r10 := cell_heap hx 10; have r11 := cell_heap hx 11; have r12 := cell_heap hx 12; clear hb) | (go_at_call 8; refine (CL _ (hr.below hbel)).mono ?_; rintro e w9 ⟨rfl, hb⟩; have hg := cells_of hg hb hgl; have hx := cells_of hx hb hxl; have hgl := Nat.lt_of_lt_of_le hgl hb.size; have hxl := Nat.lt_of_lt_of_le hxl hb.size; have hbel := hbel.trans (hb.mono hbel.size); have q0 := cell_heap hg 0; have q1 := cell_heap hg 1; have q2 := cell_heap hg 2; have q3 := cell_heap hg 3; have r0 := cell_heap hx 0; have r1 := cell_heap hx 1; have r2 := cell_heap hx 2; have r3 := cell_heap hx 3; have r4 := cell_heap hx 4; have r5 := cell_heap hx 5; have r6 := cell_heap hx 6; have r7 := cell_heap hx 7; have r8 := cell_heap hx 8; have r9 := cell_heap hx 9; have r10 := cell_heap hx 10; have r11 := cell_heap hx 11; have r12 := cell_heap hx 12; clear hb) | (go_at_call 15; refine (CM _ (hr.below hbel)).mono ?_; rintro e w9 ⟨rfl, hb⟩; have hg := cells_of hg hb hgl; have hx := cells_of hx hb hxl; have hgl := Nat.lt_of_lt_of_le hgl hb.size; have hxl := Nat.lt_of_lt_of_le hxl hb.size; have hbel := hbel.trans (hb.mono hbel.size); have q0 := cell_heap hg 0; have q1 := cell_heap hg 1; have q2 := cell_heap hg 2; have q3 := cell_heap hg 3; have r0 := cell_heap hx 0; have r1 := cell_heap hx 1; have r2 := cell_heap hx 2; have r3 := cell_heap hx 3; have r4 := cell_heap hx 4; have r5 := cell_heap hx 5; have r6 := cell_heap hx 6; have r7 := cell_heap hx 7; have r8 := cell_heap hx 8; have r9 := cell_heap hx 9; have r10 := cell_heap hx 10; have r11 := cell_heap hx 11; have r12 := cell_heap hx 12; clear hb) | (go_at_call 19; refine (CX _).mono ?_; rintro e w9 ⟨rfl, hb⟩; have hg := cells_of hg hb hgl; have hx := cells_of hx hb hxl; have hgl := Nat.lt_of_lt_of_le hgl hb.size; have hxl := Nat.lt_of_lt_of_le hxl hb.size; have hbel := hbel.trans (hb.mono hbel.size); have q0 := cell_heap hg 0; have q1 := cell_heap hg 1; have q2 := cell_heap hg 2; have q3 := cell_heap hg 3; have r0 := cell_heap hx 0; have r1 := cell_heap hx 1; have r2 := cell_heap hx 2; have r3 := cell_heap hx 3; have r4 := cell_heap hx 4; have r5 := cell_heap hx 5; have r6 := cell_heap hx 6; have r7 := cell_heap hx 7; have r8 := cell_heap hx 8; have r9 := cell_heap hx 9; have r10 := cell_heap hx 10; have r11 := cell_heap hx 11; have r12 := cell_heap hx 12; clear hb) | (go_at_call 20; refine (CY _).mono ?_; rintro e wm ⟨rfl, hb⟩; have hg := cells_of hg hb hgl; have hx := cells_of hx hb hxl; have hgl := Nat.lt_of_lt_of_le hgl hb.size; have hxl := Nat.lt_of_lt_of_le hxl hb.size; have hbel := hbel.trans (hb.mono hbel.size); have q0 := cell_heap hg 0; have q1 := cell_heap hg 1; have q2 := cell_heap hg 2; have q3 := cell_heap hg 3; have r0 := cell_heap hx 0; have r1 := cell_heap hx 1; have r2 := cell_heap hx 2; have r3 := cell_heap hx 3; have r4 := cell_heap hx 4; have r5 := cell_heap hx 5; have r6 := cell_heap hx 6; have r7 := cell_heap hx 7; have r8 := cell_heap hx 8; have r9 := cell_heap hx 9; have r10 := cell_heap hx 10; have r11 := cell_heap hx 11; have r12 := cell_heap hx 12; clear hb))
    go_ret
    exact ⟨rfl, hbel⟩
  have h60 : es.length ≤ 60 := by
    unfold lightBlk lightL at hlb
    simp only [Bool.and_eq_true, decide_eq_true_eq] at hlb
    exact hlb.2.1
  have hkl : k < es.length := by omega
  have hxs : Ev.small ⟨kd, sp, sc, dp, dc, sq, da, th, ta, ack, ep, ec, eh⟩ := ⟨s1, s2, s3⟩
  have hmc : mayBlk ⟨ch, ht, tm, es.set k ⟨kd, sp, sc, dp, dc, sq, da, th, ta, ack, ep, ec, eh⟩⟩ = true := by
    unfold mayBlk at hmb ⊢
    simp only [Bool.and_eq_true, decide_eq_true_eq, List.all_eq_true, List.length_set] at hmb ⊢
    refine ⟨hmb.1, fun y hy => ?_⟩
    rcases List.mem_or_eq_of_mem_set hy with h | h
    · exact hmb.2 y h
    · rw [h]; exact hmx
  have hqs : ∀ e ∈ es.set k ⟨kd, sp, sc, dp, dc, sq, da, th, ta, ack, ep, ec, eh⟩, e.small := fun y hy => by
    rcases List.mem_or_eq_of_mem_set hy with h | h
    · exact hq y h
    · rw [h]; exact hxs
  have hlen1 := encBlk_len (b := ⟨ch, ht, tm, es⟩) hmb h60
  have hlen2 := encBlk_len (b := ⟨ch, ht, tm, es.set k ⟨kd, sp, sc, dp, dc, sq, da, th, ta, ack, ep, ec, eh⟩⟩) hmc (by simpa using h60)
  obtain ⟨b0, off0, rfl, hb0, hc0⟩ : ∃ b off, a = some ⟨b, off, none⟩ ∧ b < w.heap.size ∧ ∀ j, j < (es.flatMap Ev.cells).length → w.cell? ⟨b, off + j, none⟩ = (es.flatMap Ev.cells)[j]? := by
    rcases hr with hr | h
    · have := flat_length Ev.cells 13 Ev.cells_len es
      rw [hr, List.length_nil] at this; omega
    · exact h
  obtain ⟨i0, hi, hz0', hz1, hz2⟩ := info_parts Try.infoE
  have hfl : (es.flatMap Ev.cells).length = n * 13 := by rw [flat_length Ev.cells 13 Ev.cells_len, hn]
  have HMB := Lib.hid hmb
  have HMC := Lib.hid hmc
  have HMX := Lib.hid hmx
  clear hmb hmc hmx hlb
  go_upto_region 5 with (first | (go_at_call 7; refine (first10_any _).mono ?_; rintro e w9 ⟨rfl, hb⟩; have hg := cells_of hg hb hgl; have hx := cells_of hx hb hxl; have hgl := Nat.lt_of_lt_of_le hgl hb.size; have hxl := Nat.lt_of_lt_of_le hxl hb.size; have hbel := hbel.trans (hb.mono hbel.size); have q0 := cell_heap hg 0; have q1 := cell_heap hg 1; have q2 := cell_heap hg 2; have q3 := cell_heap hg 3; have r0 := cell_heap hx 0; have r1 := cell_heap hx 1; have r2 := cell_heap hx 2; have r3 := cell_heap hx 3; have r4 := cell_heap hx 4; have r5 := cell_heap hx 5; have r6 := cell_heap hx 6; have r7 := cell_heap hx 7; have r8 := cell_heap hx 8; have r9 := cell_heap hx 9; have r10 := cell_heap hx 10; have r11 := cell_heap hx 11; have r12 := cell_heap hx 12; clear hb) | (go_at_call 8; refine (CL _ (hr.below hbel)).mono ?_; rintro e w9 ⟨rfl, hb⟩; have hg := cells_of hg hb hgl; have hx := cells_of hx hb hxl; have hgl := Nat.lt_of_lt_of_le hgl hb.size; have hxl := Nat.lt_of_lt_of_le hxl hb.size; have hbel := hbel.trans (hb.mono hbel.size); have q0 := cell_heap hg 0; have q1 := cell_heap hg 1; have q2 := cell_heap hg 2; have q3 := cell_heap hg 3; have r0 := cell_heap hx 0; have r1 := cell_heap hx 1; have r2 := cell_heap hx 2; have r3 := cell_heap hx 3; have r4 := cell_heap hx 4; have r5 := cell_heap hx 5; have r6 := cell_heap hx 6; have r7 := cell_heap hx 7; have r8 := cell_heap hx 8; have r9 := cell_heap hx 9; have r10 := cell_heap hx 10; have r11 := cell_heap hx 11; have r12 := cell_heap hx 12; clear hb) | (go_at_call 15; refine (CM _ (hr.below hbel)).mono ?_; rintro e w9 ⟨rfl, hb⟩; have hg := cells_of hg hb hgl; have hx := cells_of hx hb hxl; have hgl := Nat.lt_of_lt_of_le hgl hb.size; have hxl := Nat.lt_of_lt_of_le hxl hb.size; have hbel := hbel.trans (hb.mono hbel.size); have q0 := cell_heap hg 0; have q1 := cell_heap hg 1; have q2 := cell_heap hg 2; have q3 := cell_heap hg 3; have r0 := cell_heap hx 0; have r1 := cell_heap hx 1; have r2 := cell_heap hx 2; have r3 := cell_heap hx 3; have r4 := cell_heap hx 4; have r5 := cell_heap hx 5; have r6 := cell_heap hx 6; have r7 := cell_heap hx 7; have r8 := cell_heap hx 8; have r9 := cell_heap hx 9; have r10 := cell_heap hx 10; have r11 := cell_heap hx 11; have r12 := cell_heap hx 12; clear hb) | (go_at_call 19; refine (CX _).mono ?_; rintro e w9 ⟨rfl, hb⟩; have hg := cells_of hg hb hgl; have hx := cells_of hx hb hxl; have hgl := Nat.lt_of_lt_of_le hgl hb.size; have hxl := Nat.lt_of_lt_of_le hxl hb.size; have hbel := hbel.trans (hb.mono hbel.size); have q0 := cell_heap hg 0; have q1 := cell_heap hg 1; have q2 := cell_heap hg 2; have q3 := cell_heap hg 3; have r0 := cell_heap hx 0; have r1 := cell_heap hx 1; have r2 := cell_heap hx 2; have r3 := cell_heap hx 3; have r4 := cell_heap hx 4; have r5 := cell_heap hx 5; have r6 := cell_heap hx 6; have r7 := cell_heap hx 7; have r8 := cell_heap hx 8; have r9 := cell_heap hx 9; have r10 := cell_heap hx 10; have r11 := cell_heap hx 11; have r12 := cell_heap hx 12; clear hb) | (go_at_call 20; refine (CY _).mono ?_; rintro e wm ⟨rfl, hb⟩; have hg := cells_of hg hb hgl; have hx := cells_of hx hb hxl; have hgl := Nat.lt_of_lt_of_le hgl hb.size; have hxl := Nat.lt_of_lt_of_le hxl hb.size; have hbel := hbel.trans (hb.mono hbel.size); have q0 := cell_heap hg 0; have q1 := cell_heap hg 1; have q2 := cell_heap hg 2; have q3 := cell_heap hg 3; have r0 := cell_heap hx 0; have r1 := cell_heap hx 1; have r2 := cell_heap hx 2; have r3 := cell_heap hx 3; have r4 := cell_heap hx 4; have r5 := cell_heap hx 5; have r6 := cell_heap hx 6; have r7 := cell_heap hx 7; have r8 := cell_heap hx 8; have r9 := cell_heap hx 9; have r10 := cell_heap hx 10; have r11 := cell_heap hx 11; have r12 := cell_heap hx 12; clear hb))
  have hba : Below wm.heap.size wm (wm.alloc (.cells #[.string ch, .int .i64 ht, .int .i64 tm, .slice (some ⟨b0, off0, none⟩) n cap] 24)) := Below.alloc (Below.refl _ _) (Nat.le_refl _) _
  go_upto_region 6 with (refine wpList_storeRowTo rfl (.tmp 7) (.tmp 47) 24 rfl (by kernel_rfl) rfl (by rfl) (heap_push _ _ _) rfl (row_one4 _ _ _ _ _ _) ?_)
  refine wp_nameE _ (fun W5 hX => ?_)
  have hb : Below wm.heap.size wm W5 := by rw [hX]; first | exact below_setRow (Below.alloc (Below.refl _ _) (Nat.le_refl _) _) (Nat.le_refl _) _ | exact Below.alloc (Below.refl _ _) (Nat.le_refl _) _
  have hc : W5.heap[wm.heap.size]? = some (.cells #[.string ch, .int .i64 ht, .int .i64 tm, .slice (some ⟨b0, off0, none⟩) n cap] 24 (0, 0)) := by rw [hX]; first | exact setRow_heap _ _ _ _ _ _ (heap_push _ _ _) | exact heap_push _ _ _
  clear hX hba
  have hg := cells_of hg hb hgl; have hx := cells_of hx hb hxl; have hgl := Nat.lt_of_lt_of_le hgl hb.size; have hxl := Nat.lt_of_lt_of_le hxl hb.size; have hbel := hbel.trans (hb.mono hbel.size); have q0 := cell_heap hg 0; have q1 := cell_heap hg 1; have q2 := cell_heap hg 2; have q3 := cell_heap hg 3; have r0 := cell_heap hx 0; have r1 := cell_heap hx 1; have r2 := cell_heap hx 2; have r3 := cell_heap hx 3; have r4 := cell_heap hx 4; have r5 := cell_heap hx 5; have r6 := cell_heap hx 6; have r7 := cell_heap hx 7; have r8 := cell_heap hx 8; have r9 := cell_heap hx 9; have r10 := cell_heap hx 10; have r11 := cell_heap hx 11; have r12 := cell_heap hx 12; clear hb
  obtain ⟨c, hcc⟩ : ∃ c, wm.heap.size = c := ⟨_, rfl⟩
  rw [hcc] at hc
  simp only [hcc]
  have hwc : w.heap.size + 1 < c := by omega
  clear hcc
  have hcl : c < W5.heap.size := (Array.getElem?_eq_some_iff.1 hc).1
  have hnews : ∀ j u, (es.flatMap Ev.cells)[j]? = some u → W5.cell? ((⟨b0, off0, none⟩ : Addr).add j) = some u := fun j u hj => by
    rw [Addr.add_mid, hbel.cell (p := ⟨b0, off0 + j, none⟩) hb0, hc0 j (List.getElem?_eq_some_iff.1 hj).1, hj]
  obtain ⟨B5, hB5⟩ : ∃ B, W5.heap.size = B := ⟨_, rfl⟩
  go_upto_region 7 with (at_builtin; refine wpList_append_own _ rfl (.const (.slice none 0 0)) (.tmp 49) 22 rfl B5 43 i0 (.agg #[.int .i64 0, .string ⟨#[]⟩, .int .i64 0, .string ⟨#[]⟩, .int .i64 0, .int .i64 0, .string ⟨#[]⟩, .int .i64 0, .int .i64 0, .string ⟨#[]⟩, .string ⟨#[]⟩, .int .i64 0, .int .i64 0]) 13 144 Try.underlying22 hi hz0' hz1 hz2 rfl (by decide) (.slice none 0 0) 0 [] rfl ⟨rfl, .inl ⟨rfl, rfl⟩⟩ ⟨b0, off0, none⟩ n cap (es.flatMap Ev.cells) rfl hfl hnews Ev.cells_one (by unfold maxLen at hcm ⊢; omega) (by omega) (by omega) ?_)
  intro v9 w9 hown hgr _
  have hb9 : Below W5.heap.size W5 w9 := below_grown (base := W5.heap.size) (v := .slice none 0 0) (e := 43) (size := 13) (n := 0) (xs := []) ⟨rfl, .inl ⟨rfl, rfl⟩⟩ hgr (Nat.le_refl _)
  rw [hB5] at hb9
  obtain ⟨hxl9, hown2⟩ := hown
  rcases hown2 with ⟨_, h0⟩ | ⟨g, cap9, cur, rfl, hBg, hcur, hnc, hcm9, hcs, htk⟩
  · exact absurd h0 (by omega)
  have hnc : n ≤ cap9 := by omega
  have htk : cur.toList.take (n * 13) = es.flatMap Ev.cells := by simpa using htk
  try simp only [Nat.zero_add]
  have hgw : w.heap.size + 1 < g := by omega
  have hgc : g ≠ c := by omega
  have hc9 := cells_of hc hb9 (by omega)
  have hg := cells_of hg hb9 (by omega)
  have hx := cells_of hx hb9 (by omega)
  have hbel := hbel.trans (hb9.mono (by omega))
  have hg9 := hcur
  have qk := cell_heap hc9 3; have fk := frozen_heap hc9 3
  go_upto_region 7 with fail
  refine wp_nameE _ (fun W6 hX => ?_)
  have hc : W6.heap[c]? = some (.cells #[.string ch, .int .i64 ht, .int .i64 tm, .slice (some ⟨g, 0, none⟩) n cap9] 24 (0, 0)) := by rw [hX]; exact row_put5 hc9
  have hg : W6.heap[w.heap.size]? = some (.cells #[.string ch, .int .i64 ht, .int .i64 tm, .slice (some ⟨b0, off0, none⟩) n cap] 24 (0, 0)) := by rw [hX]; exact row_oth hg (by omega)
  have hx : W6.heap[w.heap.size + 1]? = some (.cells #[.int .i64 kd, .string sp, .int .i64 sc, .string dp, .int .i64 dc, .int .i64 sq, .string da, .int .i64 th, .int .i64 ta, .string ack, .string ep, .int .i64 ec, .int .i64 eh] 43 (0, 0)) := by rw [hX]; exact row_oth hx (by omega)
  have hG : W6.heap[g]? = some (.cells cur 43 (0, 0)) := by rw [hX]; exact row_oth hg9 (by omega)
  have hbel : Below w.heap.size w W6 := by rw [hX]; exact hbel.setCell (p := ⟨c, 3, none⟩) (by show w.heap.size ≤ c; omega) _
  clear hX qk fk hc9 hcur hg9 hb9
  have hR6 : RowAt W6 (some ⟨g, 0, none⟩) (es.flatMap Ev.cells) := .inr ⟨g, 0, rfl, (Array.getElem?_eq_some_iff.1 hG).1, fun j hj => by
    rw [Nat.zero_add, cell_heap hG j, ← htk, List.getElem?_take, if_pos (by rw [hfl] at hj; exact hj)]; simp⟩
  have hth : W6.there g (k * 13) 13 := fun j hj => by
    refine ⟨?_, frozen_heap hG _⟩
    rw [cell_heap hG]
    have : k * 13 + j < cur.size := by rw [hcs]; have : k + 1 ≤ cap9 := by omega
                                       have := Nat.mul_le_mul_right 13 this; omega
    rw [Array.getElem?_eq_getElem this]; rfl
  have q0 := cell_heap hg 0; have q1 := cell_heap hg 1; have q2 := cell_heap hg 2; have q3 := cell_heap hg 3; have r0 := cell_heap hx 0; have r1 := cell_heap hx 1; have r2 := cell_heap hx 2; have r3 := cell_heap hx 3; have r4 := cell_heap hx 4; have r5 := cell_heap hx 5; have r6 := cell_heap hx 6; have r7 := cell_heap hx 7; have r8 := cell_heap hx 8; have r9 := cell_heap hx 9; have r10 := cell_heap hx 10; have r11 := cell_heap hx 11; have r12 := cell_heap hx 12; have p3 := cell_heap hc 3
  have n0 : (0 : Int) ≤ (k : Int) := by omega
  have n1' : (k : Int) < (n : Int) := by omega
  have n2' : ((k : Nat) : Int).toNat = k := by omega
  go_upto_region 8 with (refine wpList_store_mid rfl 43 (.tmp 56) (.tmp 55) rfl g (k * 13) #[.int .i64 kd, .string sp, .int .i64 sc, .string dp, .int .i64 dc, .int .i64 sq, .string da, .int .i64 th, .int .i64 ta, .string ack, .string ep, .int .i64 ec, .int .i64 eh] rfl rfl hth (by kernel_rfl) (Ev.row_one _ _ _ _ _ _ _ _ _ _ _ _ _) ?_)
  refine wp_nameE _ (fun W7 hX => ?_)
  have hRc : RowAt W7 (some ⟨g, 0, none⟩) ((es.set k ⟨kd, sp, sc, dp, dc, sq, da, th, ta, ack, ep, ec, eh⟩).flatMap Ev.cells) := by rw [hX]; exact evs_set' rfl hkl hR6 hth
  have hoth : ∀ j, j < W6.heap.size → j ≠ g → W7.heap[j]? = W6.heap[j]? := fun j h1 h2 => by rw [hX]; exact World.heap_setCells_other _ _ _ _ h1 h2
  have hsz : W7.heap.size = W6.heap.size := by rw [hX]; exact size_setCells _ _ _
  have hbel : Below w.heap.size w W7 := by rw [hX]; exact below_setCells (by omega) _ _ _ hbel
  have hg := (hoth _ (Array.getElem?_eq_some_iff.1 hg).1 (by omega)).trans hg
  have hx := (hoth _ (Array.getElem?_eq_some_iff.1 hx).1 (by omega)).trans hx
  have hc := (hoth _ (Array.getElem?_eq_some_iff.1 hc).1 (by omega)).trans hc
  clear hX hoth hR6 hth hG htk hcs hfl hnews hi hz0' hz1 hz2 p3
  have hgl : w.heap.size < W7.heap.size := (Array.getElem?_eq_some_iff.1 hg).1
  have hxl : w.heap.size + 1 < W7.heap.size := (Array.getElem?_eq_some_iff.1 hx).1
  have hcl : c < W7.heap.size := (Array.getElem?_eq_some_iff.1 hc).1
  have q0 := cell_heap hg 0; have q1 := cell_heap hg 1; have q2 := cell_heap hg 2; have q3 := cell_heap hg 3; have r0 := cell_heap hx 0; have r1 := cell_heap hx 1; have r2 := cell_heap hx 2; have r3 := cell_heap hx 3; have r4 := cell_heap hx 4; have r5 := cell_heap hx 5; have r6 := cell_heap hx 6; have r7 := cell_heap hx 7; have r8 := cell_heap hx 8; have r9 := cell_heap hx 9; have r10 := cell_heap hx 10; have r11 := cell_heap hx 11; have r12 := cell_heap hx 12; have p0 := cell_heap hc 0; have p1 := cell_heap hc 1; have p2 := cell_heap hc 2; have p3 := cell_heap hc 3
  have CE1 := fun W h => encodeBlk_any ch ht tm (some ⟨b0, off0, none⟩) n cap es W hch h hn hcap hcm hq (fun _ => by omega)
  have CE2 := fun W h => encodeBlk_any ch ht tm (some ⟨g, 0, none⟩) n cap9 (es.set k ⟨kd, sp, sc, dp, dc, sq, da, th, ta, ack, ep, ec, eh⟩) W hch h (by simpa using hn) hnc hcm9 hqs (fun _ => by omega)
  have CS := fun W h1 h2 => blkSameG_any ch ht tm (some ⟨b0, off0, none⟩) n cap es ch ht tm (some ⟨g, 0, none⟩) n cap9 (es.set k ⟨kd, sp, sc, dp, dc, sq, da, th, ta, ack, ep, ec, eh⟩) W h1 h2 hn (by simpa using hn) (by unfold maxLen at hcm ⊢; omega) (by unfold maxLen at hcm ⊢; omega)
  rw [show encBk ⟨ch, ht, tm, es⟩ = .tuple #[.string ⟨(encBlk ⟨ch, ht, tm, es⟩).toArray⟩, .int .i64 0] by unfold encBk; rw [HMB.out]; rfl] at CE1
  rw [show encBk ⟨ch, ht, tm, es.set k ⟨kd, sp, sc, dp, dc, sq, da, th, ta, ack, ep, ec, eh⟩⟩ = .tuple #[.string ⟨(encBlk ⟨ch, ht, tm, es.set k ⟨kd, sp, sc, dp, dc, sq, da, th, ta, ack, ep, ec, eh⟩⟩).toArray⟩, .int .i64 0] by unfold encBk; rw [HMC.out]; rfl] at CE2
  obtain ⟨S, hS⟩ : ∃ S : ByteArray, (⟨(encBlk ⟨ch, ht, tm, es⟩).toArray⟩ : ByteArray) = S := ⟨_, rfl⟩
  obtain ⟨T, hT⟩ : ∃ S : ByteArray, (⟨(encBlk ⟨ch, ht, tm, es.set k ⟨kd, sp, sc, dp, dc, sq, da, th, ta, ack, ep, ec, eh⟩⟩).toArray⟩ : ByteArray) = S := ⟨_, rfl⟩
  have hSl : S.data.toList = encBlk ⟨ch, ht, tm, es⟩ := by rw [← hS]
  have hTl : T.data.toList = encBlk ⟨ch, ht, tm, es.set k ⟨kd, sp, sc, dp, dc, sq, da, th, ta, ack, ep, ec, eh⟩⟩ := by rw [← hT]
  have hTs : T.size ≤ 100000 := by rw [← str_len, hTl]; exact hlen2
  have CD := fun W => decodeBlk_any T W (by omega)
  simp only [decBlk_enc HMC.out hTl, List.length_set, hn] at CD
  simp only [hS] at CE1
  simp only [hT] at CE2
  obtain ⟨⟨kd2, sp2, sc2, dp2, dc2, sq2, da2, th2, ta2, ack2, ep2, ec2, eh2⟩, hy⟩ : ∃ y, es[k] = y := ⟨_, rfl⟩
  obtain ⟨hst, hsm⟩ := evs_same hkl hy HMB.out HMC.out hSl hTl
  obtain ⟨q, hq9⟩ : ∃ q, evB ⟨kd, sp, sc, dp, dc, sq, da, th, ta, ack, ep, ec, eh⟩ ⟨kd2, sp2, sc2, dp2, dc2, sq2, da2, th2, ta2, ack2, ep2, ec2, eh2⟩ = q := ⟨_, rfl⟩
  rw [hq9] at hst hsm
  simp only [hsm] at CS
  have hEQ2 := run_equal_ev kd kd2 sp sp2 sc sc2 dp dp2 dc dc2 sq sq2 da da2 th th2 ta ta2 ack ack2 ep ep2 ec ec2 eh eh2
  rw [hq9] at hEQ2
  have hEQ := run_equal_ev kd kd sp sp sc sc dp dp dc dc sq sq da da th th ta ta ack ack ep ep ec ec eh eh
  rw [(evB_iff _ _).2 rfl] at hEQ
  have HY := Lib.hid hy
  have hget : (es.set k ⟨kd, sp, sc, dp, dc, sq, da, th, ta, ack, ep, ec, eh⟩)[k]'(by simpa using hkl) = ⟨kd, sp, sc, dp, dc, sq, da, th, ta, ack, ep, ec, eh⟩ := List.getElem_set_self _
  have HGET := Lib.hid hget
  clear hS hT hSl hTl hsm hq9 hlen1 hlen2 HMB HMC HMX hy hget hqs hq h60 HLX
  go_upto_region 10 with (go_at_call 9; first | ((with_reducible refine (CE1 _ (hr.below hbel)).mono ?_); rintro e w9 ⟨rfl, hb⟩; have hRc := hRc.below hb; have hg := cells_of hg hb hgl; have hx := cells_of hx hb hxl; have hc := cells_of hc hb hcl; have hgl := Nat.lt_of_lt_of_le hgl hb.size; have hxl := Nat.lt_of_lt_of_le hxl hb.size; have hcl := Nat.lt_of_lt_of_le hcl hb.size; have hbel := hbel.trans (hb.mono hbel.size); have q0 := cell_heap hg 0; have q1 := cell_heap hg 1; have q2 := cell_heap hg 2; have q3 := cell_heap hg 3; have r0 := cell_heap hx 0; have r1 := cell_heap hx 1; have r2 := cell_heap hx 2; have r3 := cell_heap hx 3; have r4 := cell_heap hx 4; have r5 := cell_heap hx 5; have r6 := cell_heap hx 6; have r7 := cell_heap hx 7; have r8 := cell_heap hx 8; have r9 := cell_heap hx 9; have r10 := cell_heap hx 10; have r11 := cell_heap hx 11; have r12 := cell_heap hx 12; have p0 := cell_heap hc 0; have p1 := cell_heap hc 1; have p2 := cell_heap hc 2; have p3 := cell_heap hc 3; clear hb) | ((with_reducible refine (CE2 _ hRc).mono ?_); rintro e w9 ⟨rfl, hb⟩; have hRc := hRc.below hb; have hg := cells_of hg hb hgl; have hx := cells_of hx hb hxl; have hc := cells_of hc hb hcl; have hgl := Nat.lt_of_lt_of_le hgl hb.size; have hxl := Nat.lt_of_lt_of_le hxl hb.size; have hcl := Nat.lt_of_lt_of_le hcl hb.size; have hbel := hbel.trans (hb.mono hbel.size); have q0 := cell_heap hg 0; have q1 := cell_heap hg 1; have q2 := cell_heap hg 2; have q3 := cell_heap hg 3; have r0 := cell_heap hx 0; have r1 := cell_heap hx 1; have r2 := cell_heap hx 2; have r3 := cell_heap hx 3; have r4 := cell_heap hx 4; have r5 := cell_heap hx 5; have r6 := cell_heap hx 6; have r7 := cell_heap hx 7; have r8 := cell_heap hx 8; have r9 := cell_heap hx 9; have r10 := cell_heap hx 10; have r11 := cell_heap hx 11; have r12 := cell_heap hx 12; have p0 := cell_heap hc 0; have p1 := cell_heap hc 1; have p2 := cell_heap hc 2; have p3 := cell_heap hc 3; clear hb))
  go_upto_region 11 with (first | (go_at_call 11; refine (CD _).mono ?_; rintro e wx ⟨ax, cx, rfl, hrx, hxc, hxm, hxq, hb⟩; have hRc := hRc.below hb; have hg := cells_of hg hb hgl; have hx := cells_of hx hb hxl; have hc := cells_of hc hb hcl; have hgl := Nat.lt_of_lt_of_le hgl hb.size; have hxl := Nat.lt_of_lt_of_le hxl hb.size; have hcl := Nat.lt_of_lt_of_le hcl hb.size; have hbel := hbel.trans (hb.mono hbel.size); have q0 := cell_heap hg 0; have q1 := cell_heap hg 1; have q2 := cell_heap hg 2; have q3 := cell_heap hg 3; have r0 := cell_heap hx 0; have r1 := cell_heap hx 1; have r2 := cell_heap hx 2; have r3 := cell_heap hx 3; have r4 := cell_heap hx 4; have r5 := cell_heap hx 5; have r6 := cell_heap hx 6; have r7 := cell_heap hx 7; have r8 := cell_heap hx 8; have r9 := cell_heap hx 9; have r10 := cell_heap hx 10; have r11 := cell_heap hx 11; have r12 := cell_heap hx 12; have p0 := cell_heap hc 0; have p1 := cell_heap hc 1; have p2 := cell_heap hc 2; have p3 := cell_heap hc 3; clear hb) | (refine wpList_storeRowTo (Z := #[.string ch, .int .i64 ht, .int .i64 tm, .slice ax n cx]) rfl (.tmp 12) (.tmp 70) 24 rfl (by kernel_rfl) rfl (by rfl) (heap_push _ _ _) rfl (row_one4 _ _ _ _ _ _) ?_))
  refine wp_nameE _ (fun W10 hX => ?_)
  have hb : Below wx.heap.size wx W10 := by rw [hX]; first | exact below_setRow (Below.alloc (Below.refl _ _) (Nat.le_refl _) _) (Nat.le_refl _) _ | exact Below.alloc (Below.refl _ _) (Nat.le_refl _) _
  have hd : W10.heap[wx.heap.size]? = some (.cells #[.string ch, .int .i64 ht, .int .i64 tm, .slice ax n cx] 24 (0, 0)) := by rw [hX]; first | exact setRow_heap _ _ _ _ _ _ (heap_push _ _ _) | exact heap_push _ _ _
  have hdl : wx.heap.size < W10.heap.size := (Array.getElem?_eq_some_iff.1 hd).1
  clear hX CD CE1 CE2 hxc hxm hxq
  have hrx := hrx.below hb
  have hRc := hRc.below hb
  have hg := cells_of hg hb hgl; have hx := cells_of hx hb hxl; have hc := cells_of hc hb hcl; have hgl := Nat.lt_of_lt_of_le hgl hb.size; have hxl := Nat.lt_of_lt_of_le hxl hb.size; have hcl := Nat.lt_of_lt_of_le hcl hb.size; have hbel := hbel.trans (hb.mono hbel.size); have q0 := cell_heap hg 0; have q1 := cell_heap hg 1; have q2 := cell_heap hg 2; have q3 := cell_heap hg 3; have r0 := cell_heap hx 0; have r1 := cell_heap hx 1; have r2 := cell_heap hx 2; have r3 := cell_heap hx 3; have r4 := cell_heap hx 4; have r5 := cell_heap hx 5; have r6 := cell_heap hx 6; have r7 := cell_heap hx 7; have r8 := cell_heap hx 8; have r9 := cell_heap hx 9; have r10 := cell_heap hx 10; have r11 := cell_heap hx 11; have r12 := cell_heap hx 12; have p0 := cell_heap hc 0; have p1 := cell_heap hc 1; have p2 := cell_heap hc 2; have p3 := cell_heap hc 3
  have d0 := cell_heap hd 0; have d1 := cell_heap hd 1; have d2 := cell_heap hd 2; have d3 := cell_heap hd 3
  obtain ⟨bx, ox, rfl, hbx, hgx⟩ := ev_range hrx (k := k) (by simpa using hkl)
  rw [HGET.out] at hgx
  have l1 := fun m => load_ev hgx hbx m
  simp only [Ev.row] at l1
  have e9 : ((n : Int) != (n : Int)) = false := by simp
  have e9n : (n != n) = false := by simp
  have n0 : (0 : Int) ≤ (k : Int) := by omega
  have n1' : (k : Int) < (n : Int) := by omega
  have n2' : ((k : Nat) : Int).toNat = k := by omega
  have hcb := (beyond_cells (W := W10)).1
  have hfb := (beyond_cells (W := W10)).2
  clear hgx
  refine wp_region_below (by kernel_rfl) (by kernel_rfl) ?_
  repeat (first | (go_big_quiet_want; refine qload9 (v := .agg #[.int .i64 kd, .string sp, .int .i64 sc, .string dp, .int .i64 dc, .int .i64 sq, .string da, .int .i64 th, .int .i64 ta, .string ack, .string ep, .int .i64 ec, .int .i64 eh]) 43 (.tmp 95) rfl (by rfl) (by rintro _ ⟨m, rfl⟩; exact l1 m) ?_; simp only [Act.put, List.setIfInBounds_toArray, List.set_cons_succ, List.set_cons_zero]; go_big_quiet_on) | (go_big_quiet_step (fail)))
  intro w11 hw11
  have hb := beyond_below hw11
  have hRc := hRc.below hb
  clear hcb hfb hw11 l1 hEQ hrx hbx
  have hg := cells_of hg hb hgl; have hx := cells_of hx hb hxl; have hc := cells_of hc hb hcl; have hd := cells_of hd hb hdl; have hgl := Nat.lt_of_lt_of_le hgl hb.size; have hxl := Nat.lt_of_lt_of_le hxl hb.size; have hcl := Nat.lt_of_lt_of_le hcl hb.size; have hdl := Nat.lt_of_lt_of_le hdl hb.size; have hbel := hbel.trans (hb.mono hbel.size); have q0 := cell_heap hg 0; have q1 := cell_heap hg 1; have q2 := cell_heap hg 2; have q3 := cell_heap hg 3; have r0 := cell_heap hx 0; have r1 := cell_heap hx 1; have r2 := cell_heap hx 2; have r3 := cell_heap hx 3; have r4 := cell_heap hx 4; have r5 := cell_heap hx 5; have r6 := cell_heap hx 6; have r7 := cell_heap hx 7; have r8 := cell_heap hx 8; have r9 := cell_heap hx 9; have r10 := cell_heap hx 10; have r11 := cell_heap hx 11; have r12 := cell_heap hx 12; have p0 := cell_heap hc 0; have p1 := cell_heap hc 1; have p2 := cell_heap hc 2; have p3 := cell_heap hc 3; have d0 := cell_heap hd 0; have d1 := cell_heap hd 1; have d2 := cell_heap hd 2; have d3 := cell_heap hd 3; clear hb
  go_upto_region 13 with fail
  obtain ⟨b2, o2, he2, hb2, hg2⟩ := ev_range (hr.below hbel) hkl
  simp only [Option.some.injEq, Addr.mk.injEq, and_true] at he2
  obtain ⟨rfl, rfl⟩ := he2
  rw [HY.out] at hg2
  have l2 := fun m => load_ev hg2 hb2 m
  simp only [Ev.row] at l2
  have CS := fun (m : Beyond w11) => CS m.x (hr.below (hbel.trans (m.h.mono hbel.size))) (hRc.below m.h)
  have hcb := (beyond_cells (W := w11)).1
  have hfb := (beyond_cells (W := w11)).2
  clear hg2
  cases q
  all_goals
    refine wp_region_below (by kernel_rfl) (by kernel_rfl) ?_
    repeat (first | (go_big_quiet_want; refine qload9 (v := .agg #[.int .i64 kd2, .string sp2, .int .i64 sc2, .string dp2, .int .i64 dc2, .int .i64 sq2, .string da2, .int .i64 th2, .int .i64 ta2, .string ack2, .string ep2, .int .i64 ec2, .int .i64 eh2]) 43 (.tmp 107) rfl (by rfl) (by rintro _ ⟨m, rfl⟩; exact l2 m) ?_; simp only [Act.put, List.setIfInBounds_toArray, List.set_cons_succ, List.set_cons_zero]; go_big_quiet_on) | (go_big_quiet_step (((go_at_call 17; exact quiet_below (CS _))))))
    intro w13 hw13
    have hb13 := beyond_below hw13
    go_wp2
    go_ret
    exact ⟨rfl, hbel.trans (hb13.mono hbel.size)⟩
end Go.Proofs.Ytcbacchelabljaa
