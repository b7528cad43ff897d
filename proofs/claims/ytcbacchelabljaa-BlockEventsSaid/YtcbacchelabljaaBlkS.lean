/- Blocks that are the same; BlockBack, walked. -/
import Derived.Test.YtcbacchelabljaaBlkX
import Derived.WalkKit
import Derived.ProofKit
import Derived.Handy
import Derived.Below
import Derived.Lib.Hide
import Derived.IntWalk
import Derived.Outline
import Derived.WalkLawsBesides
import Derived.WalkSpells
namespace Go.Proofs.Ytcbacchelabljaa
open Go.RowKit
attribute [local go_sem] strV
set_option linter.unusedVariables false
theorem qload9 {P : Program} {o : Oper} {a : Act} {C : World → Prop} {K : Act → Prop} {v : Value} (t : TypeId) (p : Operand) {ad : Value} (hop : o.op = Op.load t p) (hp : a.eval p = ad)
    (hl : ∀ w, C w → (Instr.loadAt t ad).run P w = .ok v w) (h : K (a.put o.dst v)) : o.quiet P a C K := by
  refine ⟨v, fun w hw => ?_, h⟩
  unfold Oper.quietAt
  have := hl w hw
  simp [execOp, hop, hp, this, Result.andThen, Oper.quietUpon]
  try exact hw
theorem load_ev {W : World} {b off : Nat} {e : Ev} (hg : W.rangeAt b off e.cells) (hb : b < W.heap.size) (n : Beyond W) :
    (Instr.loadAt 43 (.pointer (some ⟨b, off, none⟩))).run Try.prog n.x = .ok (.agg e.row) n.x := by
  have hg2 : n.x.rangeAt b off e.cells := fun j v hv => by rw [n.h.cell (p := ⟨b, off + j, none⟩) hb]; exact hg j v hv
  exact run_loadAt_mid (P := Try.prog) n.x b off 43 e.cells _ hg2 Try.underlying43 rfl (by rw [Ev.cells_len]; kernel_rfl)
set_option maxRecDepth 100000 in
set_option maxHeartbeats 6400000 in
theorem evsSame_any (a1 a2 : Option Addr) (n c1 c2 : Nat) (es : List Ev) (w : World) (h1 : RowAt w a1 (es.flatMap Ev.cells)) (h2 : RowAt w a2 (es.flatMap Ev.cells)) (hn : es.length = n) (hnm : n ≤ maxLen) :
    Calls Try.prog 44 #[.slice a1 n c1, .slice a2 n c2] w fun e w' => e = .returned (.bool true) ∧ Below w.heap.size w w' := by
  have HN := Lib.hid hn
  clear hn
  unfold maxLen at hnm
  have e0 : ((n : Int) != (n : Int)) = false := by simp
  have e0n : (n != n) = false := by simp
  go_enter Try.func44, Try.ntmps44
  go_upto_region 4 with fail
  go_loopw [13] (fun i wr => ∃ k : Nat, k ≤ n ∧ i = .int .i64 k ∧ Below w.heap.size w wr) (fun i _ => n - (intOf i).toNat)
  case atStart => exact ⟨0, Nat.zero_le _, rfl, Below.refl _ _⟩
  case round =>
    obtain ⟨k, hk, rfl, hbel⟩ := hrel
    by_cases hlt : k < n
    · have d1 : decide ((k : Int) < (n : Int)) = true := decide_eq_true (by omega)
      have d1n : decide (k < n) = true := decide_eq_true hlt
      have hkl : k < es.length := by rw [HN.out]; exact hlt
      obtain ⟨b1, o1, rfl, hb1, hg1⟩ := ev_range (h1.below hbel) hkl
      obtain ⟨b2, o2, rfl, hb2, hg2⟩ := ev_range (h2.below hbel) hkl
      obtain ⟨⟨kd, sp, sc, dp, dc, sq, da, th, ta, ack, ep, ec, eh⟩, hp⟩ : ∃ p, es[k] = p := ⟨_, rfl⟩
      rw [hp] at hg1 hg2
      have l1 := fun m => load_ev hg1 hb1 m
      have l2 := fun m => load_ev hg2 hb2 m
      simp only [Ev.row] at l1 l2
      have hEQ := run_equal_ev kd kd sp sp sc sc dp dp dc dc sq sq da da th th ta ta ack ack ep ep ec ec eh eh
      rw [(evB_iff _ _).2 rfl] at hEQ
      have n0 : (0 : Int) ≤ (k : Int) := by omega
      have n1 : (k : Int) < (n : Int) := by omega
      have n2 : ((k : Nat) : Int).toNat = k := by omega
      clear hp hg1 hg2
      go_upto_region 6 with fail
      refine wp_region_below (by kernel_rfl) (by kernel_rfl) ?_
      repeat (first | (go_big_quiet_want; refine qload9 (v := .agg #[.int .i64 kd, .string sp, .int .i64 sc, .string dp, .int .i64 dc, .int .i64 sq, .string da, .int .i64 th, .int .i64 ta, .string ack, .string ep, .int .i64 ec, .int .i64 eh]) 43 (.tmp 18) rfl (by rfl) (by rintro _ ⟨m, rfl⟩; exact l1 m) ?_; simp only [Act.put, List.setIfInBounds_toArray, List.set_cons_succ, List.set_cons_zero]; go_big_quiet_on) | (go_big_quiet_want; refine qload9 (v := .agg #[.int .i64 kd, .string sp, .int .i64 sc, .string dp, .int .i64 dc, .int .i64 sq, .string da, .int .i64 th, .int .i64 ta, .string ack, .string ep, .int .i64 ec, .int .i64 eh]) 43 (.tmp 22) rfl (by rfl) (by rintro _ ⟨m, rfl⟩; exact l2 m) ?_; simp only [Act.put, List.setIfInBounds_toArray, List.set_cons_succ, List.set_cons_zero]; go_big_quiet_on) | (go_big_quiet_step (fail)))
      intro w9 hw9
      have hb9 := beyond_below hw9
      go_wp2
      go_roundw
      case rel => exact ⟨k + 1, by omega, by go_num, hbel.trans (hb9.mono hbel.size)⟩
      case measure => (simp [intOf]) <;> omega
    · have d1 : decide ((k : Int) < (n : Int)) = false := decide_eq_false (by omega)
      have d1n : decide (k < n) = false := decide_eq_false hlt
      go_wp2
      go_ret
      exact ⟨rfl, hbel⟩
theorem al2_0 (w : World) (a b : Obj) : ((w.alloc a).alloc b).heap[w.heap.size]? = some a := by
  show ((w.heap.push _).push _)[w.heap.size]? = _
  rw [Array.getElem?_push_lt (by simp), ← Array.getElem?_eq_getElem (by simp), Array.getElem?_push_size]
theorem al2_1 (w : World) (a b : Obj) : ((w.alloc a).alloc b).heap[w.heap.size + 1]? = some b := by
  show ((w.heap.push _).push _)[w.heap.size + 1]? = _
  rw [show w.heap.size + 1 = (w.heap.push a).size by simp, Array.getElem?_push_size]
theorem al2_below (w : World) (a b : Obj) : Below w.heap.size w ((w.alloc a).alloc b) := Below.alloc (Below.alloc (Below.refl _ _) (Nat.le_refl _) _) (by simp) _
set_option maxRecDepth 100000 in
set_option maxHeartbeats 6400000 in
theorem blkSame_any (ch : ByteArray) (ht tm : Int) (a1 a2 : Option Addr) (n c1 c2 : Nat) (es : List Ev) (w : World) (h1 : RowAt w a1 (es.flatMap Ev.cells)) (h2 : RowAt w a2 (es.flatMap Ev.cells)) (hn : es.length = n) (hnm : n ≤ maxLen) :
    Calls Try.prog 17 #[.agg #[.string ch, .int .i64 ht, .int .i64 tm, .slice a1 n c1], .agg #[.string ch, .int .i64 ht, .int .i64 tm, .slice a2 n c2]] w fun e w' => e = .returned (.bool true) ∧ Below w.heap.size w w' := by
  have hg0 := al2_0 w (.cells #[.string ch, .int .i64 ht, .int .i64 tm, .slice a1 n c1] 24) (.cells #[.string ch, .int .i64 ht, .int .i64 tm, .slice a2 n c2] 24)
  have hh0 := al2_1 w (.cells #[.string ch, .int .i64 ht, .int .i64 tm, .slice a1 n c1] 24) (.cells #[.string ch, .int .i64 ht, .int .i64 tm, .slice a2 n c2] 24)
  have hbA := al2_below w (.cells #[.string ch, .int .i64 ht, .int .i64 tm, .slice a1 n c1] 24) (.cells #[.string ch, .int .i64 ht, .int .i64 tm, .slice a2 n c2] 24)
  have CE := fun W (hb : Below w.heap.size w W) => evsSame_any a1 a2 n c1 c2 es W (h1.below hb) (h2.below hb) hn hnm
  go_enter Try.func17, Try.ntmps17
  go_upto_region 1 with fail
  refine wp_nameE _ (fun W1 hX => ?_)
  have hg : W1.heap[w.heap.size]? = some (.cells #[.string ch, .int .i64 ht, .int .i64 tm, .slice a1 n c1] 24 (0, 0)) := by rw [hX]; exact hg0
  have hh : W1.heap[w.heap.size + 1]? = some (.cells #[.string ch, .int .i64 ht, .int .i64 tm, .slice a2 n c2] 24 (0, 0)) := by rw [hX]; exact hh0
  have hbel : Below w.heap.size w W1 := by rw [hX]; exact hbA
  clear hX hg0 hh0 hbA
  have q0 := cell_heap hg 0; have q1 := cell_heap hg 1; have q2 := cell_heap hg 2; have q3 := cell_heap hg 3
  have r0 := cell_heap hh 0; have r1 := cell_heap hh 1; have r2 := cell_heap hh 2; have r3 := cell_heap hh 3
  go_wp2_with (go_at_call 44; refine (CE _ hbel).mono ?_; rintro e w2 ⟨rfl, hb⟩; have hbel := hbel.trans (hb.mono hbel.size))
  go_ret
  exact ⟨rfl, hbel⟩
theorem decBlk_err {v : ByteArray} (h : (decBlk v).2 ≠ 0) : (decBlk v).1 = Blk.zero := decP_err h
set_option maxRecDepth 100000 in
set_option maxHeartbeats 25600000 in
theorem walkBlockBack (ch : ByteArray) (ht tm : Int) (a : Option Addr) (n cap : Nat) (es : List Ev) (v : ByteArray) (cut : Int) (w : World) (hch : ch.size ≤ maxLen) (hr : RowAt w a (es.flatMap Ev.cells)) (hn : es.length = n) (hcap : n ≤ cap) (hcm : cap ≤ maxLen) (hq : ∀ e ∈ es, e.small) (hvm : v.size ≤ maxLen) :
    Calls Try.prog 4 #[.agg #[.string ch, .int .i64 ht, .int .i64 tm, .slice a n cap], .string v, .int .i64 cut] w fun e w' => e = .returned (.bool true) ∧ Below w.heap.size w w' := by
  have hg0 := heap_push w #[.string ch, .int .i64 ht, .int .i64 tm, .slice a n cap] 24
  have hbA : Below w.heap.size w (w.alloc (.cells #[.string ch, .int .i64 ht, .int .i64 tm, .slice a n cap] 24)) := Below.alloc (Below.refl _ _) (Nat.le_refl _) _
  have CL := fun W h => lightBlk_any ch ht tm a n cap es W h hn
  have CM := fun W h => mayBlk_any ch ht tm a n cap es W hch h hn hcap hcm hq
  obtain ⟨lb, hlb⟩ : ∃ b, lightBlk ch es = b := ⟨_, rfl⟩
  obtain ⟨mb, hmb⟩ : ∃ b, mayBlk ⟨ch, ht, tm, es⟩ = b := ⟨_, rfl⟩
  simp only [hlb] at CL
  simp only [hmb] at CM
  go_enter Try.func4, Try.ntmps4
  go_upto_region 1 with fail
  refine wp_nameE _ (fun W1 hX => ?_)
  have hg : W1.heap[w.heap.size]? = some (.cells #[.string ch, .int .i64 ht, .int .i64 tm, .slice a n cap] 24 (0, 0)) := by rw [hX]; exact hg0
  have hbel : Below w.heap.size w W1 := by rw [hX]; exact hbA
  clear hX hg0 hbA
  have hgl : w.heap.size < W1.heap.size := (Array.getElem?_eq_some_iff.1 hg).1
  have q0 := cell_heap hg 0; have q1 := cell_heap hg 1; have q2 := cell_heap hg 2; have q3 := cell_heap hg 3
  cases lb
  · go_wp2_with (first | (go_at_call 7; refine (first10_any _).mono ?_; rintro e w9 ⟨rfl, hb⟩; have hg := cells_of hg hb hgl; have hgl := Nat.lt_of_lt_of_le hgl hb.size; have hbel := hbel.trans (hb.mono hbel.size); have q0 := cell_heap hg 0; have q1 := cell_heap hg 1; have q2 := cell_heap hg 2; have q3 := cell_heap hg 3; clear hb) | (go_at_call 8; refine (CL _ (hr.below hbel)).mono ?_; rintro e w9 ⟨rfl, hb⟩; have hg := cells_of hg hb hgl; have hgl := Nat.lt_of_lt_of_le hgl hb.size; have hbel := hbel.trans (hb.mono hbel.size); have q0 := cell_heap hg 0; have q1 := cell_heap hg 1; have q2 := cell_heap hg 2; have q3 := cell_heap hg 3; clear hb))
    go_ret
    exact ⟨rfl, hbel⟩
  by_cases c2 : 8000 < v.size
  · have d2 : decide (8000 < (v.size : Int)) = true := decide_eq_true (by omega)
    go_wp2_with (first | (go_at_call 7; refine (first10_any _).mono ?_; rintro e w9 ⟨rfl, hb⟩; have hg := cells_of hg hb hgl; have hgl := Nat.lt_of_lt_of_le hgl hb.size; have hbel := hbel.trans (hb.mono hbel.size); have q0 := cell_heap hg 0; have q1 := cell_heap hg 1; have q2 := cell_heap hg 2; have q3 := cell_heap hg 3; clear hb) | (go_at_call 8; refine (CL _ (hr.below hbel)).mono ?_; rintro e w9 ⟨rfl, hb⟩; have hg := cells_of hg hb hgl; have hgl := Nat.lt_of_lt_of_le hgl hb.size; have hbel := hbel.trans (hb.mono hbel.size); have q0 := cell_heap hg 0; have q1 := cell_heap hg 1; have q2 := cell_heap hg 2; have q3 := cell_heap hg 3; clear hb))
    go_ret
    exact ⟨rfl, hbel⟩
  have d2 : decide (8000 < (v.size : Int)) = false := decide_eq_false (by omega)
  have h60 : es.length ≤ 60 := by
    unfold lightBlk lightL at hlb
    simp only [Bool.and_eq_true, decide_eq_true_eq] at hlb
    exact hlb.2.1
  have CE := fun W h => encodeBlk_any ch ht tm a n cap es W hch h hn hcap hcm hq (fun q => by have := encBlk_len (b := ⟨ch, ht, tm, es⟩) q h60; omega)
  clear hlb
  cases mb
  · rw [show encBk ⟨ch, ht, tm, es⟩ = .tuple #[.string ⟨#[]⟩, .int .i64 1] by unfold encBk; rw [hmb]; rfl] at CE
    clear hmb
    go_upto_region 17 with (first | (go_at_call 7; refine (first10_any _).mono ?_; rintro e w9 ⟨rfl, hb⟩; have hg := cells_of hg hb hgl; have hgl := Nat.lt_of_lt_of_le hgl hb.size; have hbel := hbel.trans (hb.mono hbel.size); have q0 := cell_heap hg 0; have q1 := cell_heap hg 1; have q2 := cell_heap hg 2; have q3 := cell_heap hg 3; clear hb) | (go_at_call 8; refine (CL _ (hr.below hbel)).mono ?_; rintro e w9 ⟨rfl, hb⟩; have hg := cells_of hg hb hgl; have hgl := Nat.lt_of_lt_of_le hgl hb.size; have hbel := hbel.trans (hb.mono hbel.size); have q0 := cell_heap hg 0; have q1 := cell_heap hg 1; have q2 := cell_heap hg 2; have q3 := cell_heap hg 3; clear hb) | (go_at_call 15; refine (CM _ (hr.below hbel)).mono ?_; rintro e w9 ⟨rfl, hb⟩; have hg := cells_of hg hb hgl; have hgl := Nat.lt_of_lt_of_le hgl hb.size; have hbel := hbel.trans (hb.mono hbel.size); have q0 := cell_heap hg 0; have q1 := cell_heap hg 1; have q2 := cell_heap hg 2; have q3 := cell_heap hg 3; clear hb) | (go_at_call 9; refine (CE _ (hr.below hbel)).mono ?_; rintro e w9 ⟨rfl, hb⟩; have hg := cells_of hg hb hgl; have hgl := Nat.lt_of_lt_of_le hgl hb.size; have hbel := hbel.trans (hb.mono hbel.size); have q0 := cell_heap hg 0; have q1 := cell_heap hg 1; have q2 := cell_heap hg 2; have q3 := cell_heap hg 3; clear hb))
    have CD := fun W => decodeBlk_any v W (by omega)
    obtain ⟨⟨⟨xc, xh, xt, xs⟩, f⟩, hdx⟩ : ∃ x, decBlk v = x := ⟨_, rfl⟩
    simp only [hdx] at CD
    obtain ⟨nx, hnx⟩ : ∃ n, xs.length = n := ⟨_, rfl⟩
    simp only [hnx] at CD
    go_upto_region 18 with (first | (go_at_call 11; refine (CD _).mono ?_; rintro e wx ⟨ax, cx, rfl, hrx, hxc, hxm, hxq, hb⟩; have hbel := hbel.trans (hb.mono hbel.size); clear hb) | (refine wpList_storeRowTo (Z := #[.string xc, .int .i64 xh, .int .i64 xt, .slice ax nx cx]) rfl (.tmp 15) (.tmp 85) 24 rfl (by kernel_rfl) rfl (by rfl) (heap_push _ _ _) rfl (row_one4 _ _ _ _ _ _) ?_))
    refine wp_nameE _ (fun WX hX => ?_)
    have hb : Below wx.heap.size wx WX := by rw [hX]; first | exact below_setRow (Below.alloc (Below.refl _ _) (Nat.le_refl _) _) (Nat.le_refl _) _ | exact Below.alloc (Below.refl _ _) (Nat.le_refl _) _
    have hx : WX.heap[wx.heap.size]? = some (.cells #[.string xc, .int .i64 xh, .int .i64 xt, .slice ax nx cx] 24 (0, 0)) := by rw [hX]; first | exact setRow_heap _ _ _ _ _ _ (heap_push _ _ _) | exact heap_push _ _ _
    have hrx := hrx.below hb
    have hbel := hbel.trans (hb.mono hbel.size)
    clear hX hb CD
    have hxl : wx.heap.size < WX.heap.size := (Array.getElem?_eq_some_iff.1 hx).1
    have x0 := cell_heap hx 0; have x1 := cell_heap hx 1; have x2 := cell_heap hx 2; have x3 := cell_heap hx 3
    by_cases hf : f = 0
    · subst hf
      obtain ⟨m1, m2⟩ := decBlk_back (v := v) (by rw [hdx])
      rw [hdx] at m1 m2
      simp only at m1 m2
      obtain ⟨p1, _⟩ := okBlk_of m1
      simp only at p1
      have hvx : (⟨(encBlk ⟨xc, xh, xt, xs⟩).toArray⟩ : ByteArray) = v := by rw [m2]
      have hvl : (encBlk ⟨xc, xh, xt, xs⟩).length ≤ 800000 := by rw [m2, str_len]; omega
      have CE := fun W h => encodeBlk_any xc xh xt ax nx cx xs W (by unfold maxLen; omega) h hnx hxc hxm hxq (fun _ => hvl)
      rw [show encBk ⟨xc, xh, xt, xs⟩ = .tuple #[.string v, .int .i64 0] by unfold encBk; rw [m1, hvx]; rfl] at CE
      have CX := fun W h => mayBlk_any xc xh xt ax nx cx xs W (by unfold maxLen; omega) h hnx hxc hxm hxq
      rw [m1] at CX
      clear m1 m2 hvx hvl hdx p1
      go_wp2_with (first | (go_at_call 9; refine (CE _ hrx).mono ?_; rintro e wz ⟨rfl, hb⟩; have hrx := hrx.below hb; have hx := cells_of hx hb hxl; have hbel := hbel.trans (hb.mono hbel.size); have x0 := cell_heap hx 0; have x1 := cell_heap hx 1; have x2 := cell_heap hx 2; have x3 := cell_heap hx 3; clear hb) | (go_at_call 15; refine (CX _ hrx).mono ?_; rintro e wz ⟨rfl, hb⟩; have hbel := hbel.trans (hb.mono hbel.size); clear hb))
      go_ret
      exact ⟨rfl, hbel⟩
    · have hf0 : (f == 0) = false := beq_eq_false_iff_ne.2 hf
      have hze := decBlk_err (v := v) (by rw [hdx]; exact hf)
      rw [hdx] at hze
      simp only [Blk.zero, Blk.mk.injEq] at hze
      obtain ⟨rfl, rfl, rfl, rfl⟩ := hze
      obtain rfl : nx = 0 := by rw [← hnx]; rfl
      have CS := fun W => blkSame_any ⟨#[]⟩ 0 0 ax none 0 cx 0 [] W (RowAt.nil _ _) (RowAt.nil _ _) rfl (Nat.zero_le _)
      clear hdx
      go_wp2_with (go_at_call 17; refine (CS _).mono ?_; rintro e wz ⟨rfl, hb⟩; have hbel := hbel.trans (hb.mono hbel.size); clear hb)
      go_ret
      exact ⟨rfl, hbel⟩
  rw [show encBk ⟨ch, ht, tm, es⟩ = .tuple #[.string ⟨(encBlk ⟨ch, ht, tm, es⟩).toArray⟩, .int .i64 0] by unfold encBk; rw [hmb]; rfl] at CE
  have hel := encBlk_len (b := ⟨ch, ht, tm, es⟩) hmb h60
  obtain ⟨T, hT⟩ : ∃ T : ByteArray, (⟨(encBlk ⟨ch, ht, tm, es⟩).toArray⟩ : ByteArray) = T := ⟨_, rfl⟩
  have hTl : T.data.toList = encBlk ⟨ch, ht, tm, es⟩ := by rw [← hT]
  have hTs : T.size ≤ 100000 := by rw [← str_len, hTl]; exact hel
  simp only [hT] at CE
  have CD1 := fun W => decodeBlk_any T W (by omega)
  have CD2 := fun W => decodeBlk_any (T ++ ⟨#[97]⟩) W (by rw [ByteArray.size_append]; show T.size + 1 ≤ _; omega)
  rw [decBlk_enc hmb hTl] at CD1
  rw [decBlk_more (b := ⟨ch, ht, tm, es⟩) hmb (v := T ++ ⟨#[97]⟩) (x := 97) (X := []) (by rw [← hTl]; simp)] at CD2
  simp only [hn, Blk.zero, List.length_nil, List.flatMap_nil] at CD1 CD2
  have hcut := fun (k : Nat) (hk : k < T.size) => decBlk_cut (b := ⟨ch, ht, tm, es⟩) hmb (v := T.extract 0 k) (k := k) (by rw [← hTl]; simp [ByteArray.data_extract, Array.toList_extract, List.extract_eq_take_drop]) (by rw [← hTl, str_len]; exact hk)
  have hcat : ¬ 9223372036854775807 < T.size + (⟨#[97]⟩ : ByteArray).size := by show ¬ _ < T.size + 1; omega
  have hcat2 : ¬ 9223372036854775807 < T.size + 1 := by omega
  clear hT hTl hel hmb h60
  go_upto_region 9 with (first | (go_at_call 7; refine (first10_any _).mono ?_; rintro e w9 ⟨rfl, hb⟩; have hg := cells_of hg hb hgl; have hgl := Nat.lt_of_lt_of_le hgl hb.size; have hbel := hbel.trans (hb.mono hbel.size); have q0 := cell_heap hg 0; have q1 := cell_heap hg 1; have q2 := cell_heap hg 2; have q3 := cell_heap hg 3; clear hb) | (go_at_call 8; refine (CL _ (hr.below hbel)).mono ?_; rintro e w9 ⟨rfl, hb⟩; have hg := cells_of hg hb hgl; have hgl := Nat.lt_of_lt_of_le hgl hb.size; have hbel := hbel.trans (hb.mono hbel.size); have q0 := cell_heap hg 0; have q1 := cell_heap hg 1; have q2 := cell_heap hg 2; have q3 := cell_heap hg 3; clear hb) | (go_at_call 15; refine (CM _ (hr.below hbel)).mono ?_; rintro e w9 ⟨rfl, hb⟩; have hg := cells_of hg hb hgl; have hgl := Nat.lt_of_lt_of_le hgl hb.size; have hbel := hbel.trans (hb.mono hbel.size); have q0 := cell_heap hg 0; have q1 := cell_heap hg 1; have q2 := cell_heap hg 2; have q3 := cell_heap hg 3; clear hb) | (go_at_call 9; refine (CE _ (hr.below hbel)).mono ?_; rintro e w9 ⟨rfl, hb⟩; have hg := cells_of hg hb hgl; have hgl := Nat.lt_of_lt_of_le hgl hb.size; have hbel := hbel.trans (hb.mono hbel.size); have q0 := cell_heap hg 0; have q1 := cell_heap hg 1; have q2 := cell_heap hg 2; have q3 := cell_heap hg 3; clear hb))
  go_upto_region 10 with (first | (go_at_call 11; refine (CD1 _).mono ?_; rintro e w3 ⟨a1, c1, rfl, r1, _, _, _, hb⟩; have hg := cells_of hg hb hgl; have hgl := Nat.lt_of_lt_of_le hgl hb.size; have hbel := hbel.trans (hb.mono hbel.size); have q0 := cell_heap hg 0; have q1 := cell_heap hg 1; have q2 := cell_heap hg 2; have q3 := cell_heap hg 3; clear hb) | (refine wpList_storeRowTo (Z := #[.string ch, .int .i64 ht, .int .i64 tm, .slice a1 n c1]) rfl (.tmp 9) (.tmp 45) 24 rfl (by kernel_rfl) rfl (by rfl) (heap_push _ _ _) rfl (row_one4 _ _ _ _ _ _) ?_))
  refine wp_nameE _ (fun W4 hX => ?_)
  have hb : Below w3.heap.size w3 W4 := by rw [hX]; first | exact below_setRow (Below.alloc (Below.refl _ _) (Nat.le_refl _) _) (Nat.le_refl _) _ | exact Below.alloc (Below.refl _ _) (Nat.le_refl _) _
  have h9 : W4.heap[w3.heap.size]? = some (.cells #[.string ch, .int .i64 ht, .int .i64 tm, .slice a1 n c1] 24 (0, 0)) := by rw [hX]; first | exact setRow_heap _ _ _ _ _ _ (heap_push _ _ _) | exact heap_push _ _ _
  have h9l : w3.heap.size < W4.heap.size := (Array.getElem?_eq_some_iff.1 h9).1
  have r1 := r1.below hb
  obtain ⟨g9, hg9⟩ : ∃ g, w3.heap.size = g := ⟨_, rfl⟩
  rw [hg9] at h9 h9l
  simp only [hg9]
  have hg := cells_of hg hb hgl; have hgl := Nat.lt_of_lt_of_le hgl hb.size; have hbel := hbel.trans (hb.mono hbel.size); have q0 := cell_heap hg 0; have q1 := cell_heap hg 1; have q2 := cell_heap hg 2; have q3 := cell_heap hg 3; clear hb
  clear hX hg9
  go_upto_region 11 with (first | (go_at_call 11; refine (CD2 _).mono ?_; rintro e w5 ⟨a2, c2, rfl, r2, _, _, _, hb⟩; have h9 := cells_of h9 hb h9l; have h9l := Nat.lt_of_lt_of_le h9l hb.size; have r1 := r1.below hb; have hg := cells_of hg hb hgl; have hgl := Nat.lt_of_lt_of_le hgl hb.size; have hbel := hbel.trans (hb.mono hbel.size); have q0 := cell_heap hg 0; have q1 := cell_heap hg 1; have q2 := cell_heap hg 2; have q3 := cell_heap hg 3; clear hb) | (refine wpList_storeRowTo (Z := #[.string ⟨#[]⟩, .int .i64 0, .int .i64 0, .slice a2 0 c2]) rfl (.tmp 11) (.tmp 51) 24 rfl (by kernel_rfl) rfl (by rfl) (heap_push _ _ _) rfl (row_one4 _ _ _ _ _ _) ?_))
  refine wp_nameE _ (fun W6 hX => ?_)
  have hb : Below w5.heap.size w5 W6 := by rw [hX]; first | exact below_setRow (Below.alloc (Below.refl _ _) (Nat.le_refl _) _) (Nat.le_refl _) _ | exact Below.alloc (Below.refl _ _) (Nat.le_refl _) _
  have h9 := cells_of h9 hb h9l
  have h9l := Nat.lt_of_lt_of_le h9l hb.size
  have r1 := r1.below hb
  have hg := cells_of hg hb hgl; have hgl := Nat.lt_of_lt_of_le hgl hb.size; have hbel := hbel.trans (hb.mono hbel.size); have q0 := cell_heap hg 0; have q1 := cell_heap hg 1; have q2 := cell_heap hg 2; have q3 := cell_heap hg 3; clear hb
  clear hX
  have p0 := cell_heap h9 0; have p1 := cell_heap h9 1; have p2 := cell_heap h9 2; have p3 := cell_heap h9 3
  have CS := fun W (h1 : RowAt W a1 (es.flatMap Ev.cells)) (h2 : RowAt W a (es.flatMap Ev.cells)) => blkSame_any ch ht tm a1 a n c1 cap es W h1 h2 hn (by omega)
  go_upto_region 13 with (go_at_call 17; refine (CS _ r1 (hr.below hbel)).mono ?_; rintro e w7 ⟨rfl, hb⟩; have hbel := hbel.trans (hb.mono hbel.size); clear hb)
  clear CS CD1 CD2 h9 h9l hg hgl
  by_cases c5 : 0 ≤ cut ∧ cut < (T.size : Int)
  · obtain ⟨k, rfl⟩ : ∃ k : Nat, cut = k := ⟨cut.toNat, by omega⟩
    have hk : k < T.size := by omega
    have d5 : decide (0 ≤ (k : Int)) = true := decide_eq_true (by omega)
    have d6 : decide ((k : Int) < (T.size : Int)) = true := decide_eq_true (by omega)
    have d6n : decide (k < T.size) = true := decide_eq_true hk
    have n1 : (0 : Int) ≤ (k : Int) := by omega
    have n2 : (k : Int) ≤ (T.size : Int) := by omega
    have n3 : ((k : Nat) : Int).toNat = k := by omega
    have n4 : k ≤ T.size := by omega
    have CD3 := fun W => decodeBlk_any (T.extract 0 k) W (by simp; omega)
    rw [hcut k hk] at CD3
    simp only [Blk.zero, List.length_nil, List.flatMap_nil] at CD3
    clear hcut
    go_upto_region 15 with (first | (go_at_call 11; refine (CD3 _).mono ?_; rintro e w8 ⟨a3, c3, rfl, r3, _, _, _, hb⟩; have hbel := hbel.trans (hb.mono hbel.size); clear hb) | (refine wpList_storeRowTo (Z := #[.string ⟨#[]⟩, .int .i64 0, .int .i64 0, .slice a3 0 c3]) rfl (.tmp 13) (.tmp 78) 24 rfl (by kernel_rfl) rfl (by rfl) (heap_push _ _ _) rfl (row_one4 _ _ _ _ _ _) ?_))
    refine wp_nameE _ (fun W9 hX => ?_)
    have hb : Below w8.heap.size w8 W9 := by rw [hX]; first | exact below_setRow (Below.alloc (Below.refl _ _) (Nat.le_refl _) _) (Nat.le_refl _) _ | exact Below.alloc (Below.refl _ _) (Nat.le_refl _) _
    have hbel := hbel.trans (hb.mono hbel.size)
    clear hX hb
    go_upto_region 17 with fail
    have CD := fun W => decodeBlk_any v W (by omega)
    obtain ⟨⟨⟨xc, xh, xt, xs⟩, f⟩, hdx⟩ : ∃ x, decBlk v = x := ⟨_, rfl⟩
    simp only [hdx] at CD
    obtain ⟨nx, hnx⟩ : ∃ n, xs.length = n := ⟨_, rfl⟩
    simp only [hnx] at CD
    go_upto_region 18 with (first | (go_at_call 11; refine (CD _).mono ?_; rintro e wx ⟨ax, cx, rfl, hrx, hxc, hxm, hxq, hb⟩; have hbel := hbel.trans (hb.mono hbel.size); clear hb) | (refine wpList_storeRowTo (Z := #[.string xc, .int .i64 xh, .int .i64 xt, .slice ax nx cx]) rfl (.tmp 15) (.tmp 85) 24 rfl (by kernel_rfl) rfl (by rfl) (heap_push _ _ _) rfl (row_one4 _ _ _ _ _ _) ?_))
    refine wp_nameE _ (fun WX hX => ?_)
    have hb : Below wx.heap.size wx WX := by rw [hX]; first | exact below_setRow (Below.alloc (Below.refl _ _) (Nat.le_refl _) _) (Nat.le_refl _) _ | exact Below.alloc (Below.refl _ _) (Nat.le_refl _) _
    have hx : WX.heap[wx.heap.size]? = some (.cells #[.string xc, .int .i64 xh, .int .i64 xt, .slice ax nx cx] 24 (0, 0)) := by rw [hX]; first | exact setRow_heap _ _ _ _ _ _ (heap_push _ _ _) | exact heap_push _ _ _
    have hrx := hrx.below hb
    have hbel := hbel.trans (hb.mono hbel.size)
    clear hX hb CD
    have hxl : wx.heap.size < WX.heap.size := (Array.getElem?_eq_some_iff.1 hx).1
    have x0 := cell_heap hx 0; have x1 := cell_heap hx 1; have x2 := cell_heap hx 2; have x3 := cell_heap hx 3
    by_cases hf : f = 0
    · subst hf
      obtain ⟨m1, m2⟩ := decBlk_back (v := v) (by rw [hdx])
      rw [hdx] at m1 m2
      simp only at m1 m2
      obtain ⟨p1, _⟩ := okBlk_of m1
      simp only at p1
      have hvx : (⟨(encBlk ⟨xc, xh, xt, xs⟩).toArray⟩ : ByteArray) = v := by rw [m2]
      have hvl : (encBlk ⟨xc, xh, xt, xs⟩).length ≤ 800000 := by rw [m2, str_len]; omega
      have CE := fun W h => encodeBlk_any xc xh xt ax nx cx xs W (by unfold maxLen; omega) h hnx hxc hxm hxq (fun _ => hvl)
      rw [show encBk ⟨xc, xh, xt, xs⟩ = .tuple #[.string v, .int .i64 0] by unfold encBk; rw [m1, hvx]; rfl] at CE
      have CX := fun W h => mayBlk_any xc xh xt ax nx cx xs W (by unfold maxLen; omega) h hnx hxc hxm hxq
      rw [m1] at CX
      clear m1 m2 hvx hvl hdx p1
      go_wp2_with (first | (go_at_call 9; refine (CE _ hrx).mono ?_; rintro e wz ⟨rfl, hb⟩; have hrx := hrx.below hb; have hx := cells_of hx hb hxl; have hbel := hbel.trans (hb.mono hbel.size); have x0 := cell_heap hx 0; have x1 := cell_heap hx 1; have x2 := cell_heap hx 2; have x3 := cell_heap hx 3; clear hb) | (go_at_call 15; refine (CX _ hrx).mono ?_; rintro e wz ⟨rfl, hb⟩; have hbel := hbel.trans (hb.mono hbel.size); clear hb))
      go_ret
      exact ⟨rfl, hbel⟩
    · have hf0 : (f == 0) = false := beq_eq_false_iff_ne.2 hf
      have hze := decBlk_err (v := v) (by rw [hdx]; exact hf)
      rw [hdx] at hze
      simp only [Blk.zero, Blk.mk.injEq] at hze
      obtain ⟨rfl, rfl, rfl, rfl⟩ := hze
      obtain rfl : nx = 0 := by rw [← hnx]; rfl
      have CS := fun W => blkSame_any ⟨#[]⟩ 0 0 ax none 0 cx 0 [] W (RowAt.nil _ _) (RowAt.nil _ _) rfl (Nat.zero_le _)
      clear hdx
      go_wp2_with (go_at_call 17; refine (CS _).mono ?_; rintro e wz ⟨rfl, hb⟩; have hbel := hbel.trans (hb.mono hbel.size); clear hb)
      go_ret
      exact ⟨rfl, hbel⟩
  · have d5 : decide (0 ≤ cut) = false ∨ (decide (0 ≤ cut) = true ∧ decide (cut < (T.size : Int)) = false) := by
      by_cases q : 0 ≤ cut
      · exact .inr ⟨decide_eq_true q, decide_eq_false (by omega)⟩
      · exact .inl (decide_eq_false q)
    clear hcut
    rcases d5 with d5 | ⟨d5, d6⟩
    · go_upto_region 17 with fail
      have CD := fun W => decodeBlk_any v W (by omega)
      obtain ⟨⟨⟨xc, xh, xt, xs⟩, f⟩, hdx⟩ : ∃ x, decBlk v = x := ⟨_, rfl⟩
      simp only [hdx] at CD
      obtain ⟨nx, hnx⟩ : ∃ n, xs.length = n := ⟨_, rfl⟩
      simp only [hnx] at CD
      go_upto_region 18 with (first | (go_at_call 11; refine (CD _).mono ?_; rintro e wx ⟨ax, cx, rfl, hrx, hxc, hxm, hxq, hb⟩; have hbel := hbel.trans (hb.mono hbel.size); clear hb) | (refine wpList_storeRowTo (Z := #[.string xc, .int .i64 xh, .int .i64 xt, .slice ax nx cx]) rfl (.tmp 15) (.tmp 85) 24 rfl (by kernel_rfl) rfl (by rfl) (heap_push _ _ _) rfl (row_one4 _ _ _ _ _ _) ?_))
      refine wp_nameE _ (fun WX hX => ?_)
      have hb : Below wx.heap.size wx WX := by rw [hX]; first | exact below_setRow (Below.alloc (Below.refl _ _) (Nat.le_refl _) _) (Nat.le_refl _) _ | exact Below.alloc (Below.refl _ _) (Nat.le_refl _) _
      have hx : WX.heap[wx.heap.size]? = some (.cells #[.string xc, .int .i64 xh, .int .i64 xt, .slice ax nx cx] 24 (0, 0)) := by rw [hX]; first | exact setRow_heap _ _ _ _ _ _ (heap_push _ _ _) | exact heap_push _ _ _
      have hrx := hrx.below hb
      have hbel := hbel.trans (hb.mono hbel.size)
      clear hX hb CD
      have hxl : wx.heap.size < WX.heap.size := (Array.getElem?_eq_some_iff.1 hx).1
      have x0 := cell_heap hx 0; have x1 := cell_heap hx 1; have x2 := cell_heap hx 2; have x3 := cell_heap hx 3
      by_cases hf : f = 0
      · subst hf
        obtain ⟨m1, m2⟩ := decBlk_back (v := v) (by rw [hdx])
        rw [hdx] at m1 m2
        simp only at m1 m2
        obtain ⟨p1, _⟩ := okBlk_of m1
        simp only at p1
        have hvx : (⟨(encBlk ⟨xc, xh, xt, xs⟩).toArray⟩ : ByteArray) = v := by rw [m2]
        have hvl : (encBlk ⟨xc, xh, xt, xs⟩).length ≤ 800000 := by rw [m2, str_len]; omega
        have CE := fun W h => encodeBlk_any xc xh xt ax nx cx xs W (by unfold maxLen; omega) h hnx hxc hxm hxq (fun _ => hvl)
        rw [show encBk ⟨xc, xh, xt, xs⟩ = .tuple #[.string v, .int .i64 0] by unfold encBk; rw [m1, hvx]; rfl] at CE
        have CX := fun W h => mayBlk_any xc xh xt ax nx cx xs W (by unfold maxLen; omega) h hnx hxc hxm hxq
        rw [m1] at CX
        clear m1 m2 hvx hvl hdx p1
        go_wp2_with (first | (go_at_call 9; refine (CE _ hrx).mono ?_; rintro e wz ⟨rfl, hb⟩; have hrx := hrx.below hb; have hx := cells_of hx hb hxl; have hbel := hbel.trans (hb.mono hbel.size); have x0 := cell_heap hx 0; have x1 := cell_heap hx 1; have x2 := cell_heap hx 2; have x3 := cell_heap hx 3; clear hb) | (go_at_call 15; refine (CX _ hrx).mono ?_; rintro e wz ⟨rfl, hb⟩; have hbel := hbel.trans (hb.mono hbel.size); clear hb))
        go_ret
        exact ⟨rfl, hbel⟩
      · have hf0 : (f == 0) = false := beq_eq_false_iff_ne.2 hf
        have hze := decBlk_err (v := v) (by rw [hdx]; exact hf)
        rw [hdx] at hze
        simp only [Blk.zero, Blk.mk.injEq] at hze
        obtain ⟨rfl, rfl, rfl, rfl⟩ := hze
        obtain rfl : nx = 0 := by rw [← hnx]; rfl
        have CS := fun W => blkSame_any ⟨#[]⟩ 0 0 ax none 0 cx 0 [] W (RowAt.nil _ _) (RowAt.nil _ _) rfl (Nat.zero_le _)
        clear hdx
        go_wp2_with (go_at_call 17; refine (CS _).mono ?_; rintro e wz ⟨rfl, hb⟩; have hbel := hbel.trans (hb.mono hbel.size); clear hb)
        go_ret
        exact ⟨rfl, hbel⟩
    · go_upto_region 17 with fail
      have CD := fun W => decodeBlk_any v W (by omega)
      obtain ⟨⟨⟨xc, xh, xt, xs⟩, f⟩, hdx⟩ : ∃ x, decBlk v = x := ⟨_, rfl⟩
      simp only [hdx] at CD
      obtain ⟨nx, hnx⟩ : ∃ n, xs.length = n := ⟨_, rfl⟩
      simp only [hnx] at CD
      go_upto_region 18 with (first | (go_at_call 11; refine (CD _).mono ?_; rintro e wx ⟨ax, cx, rfl, hrx, hxc, hxm, hxq, hb⟩; have hbel := hbel.trans (hb.mono hbel.size); clear hb) | (refine wpList_storeRowTo (Z := #[.string xc, .int .i64 xh, .int .i64 xt, .slice ax nx cx]) rfl (.tmp 15) (.tmp 85) 24 rfl (by kernel_rfl) rfl (by rfl) (heap_push _ _ _) rfl (row_one4 _ _ _ _ _ _) ?_))
      refine wp_nameE _ (fun WX hX => ?_)
      have hb : Below wx.heap.size wx WX := by rw [hX]; first | exact below_setRow (Below.alloc (Below.refl _ _) (Nat.le_refl _) _) (Nat.le_refl _) _ | exact Below.alloc (Below.refl _ _) (Nat.le_refl _) _
      have hx : WX.heap[wx.heap.size]? = some (.cells #[.string xc, .int .i64 xh, .int .i64 xt, .slice ax nx cx] 24 (0, 0)) := by rw [hX]; first | exact setRow_heap _ _ _ _ _ _ (heap_push _ _ _) | exact heap_push _ _ _
      have hrx := hrx.below hb
      have hbel := hbel.trans (hb.mono hbel.size)
      clear hX hb CD
      have hxl : wx.heap.size < WX.heap.size := (Array.getElem?_eq_some_iff.1 hx).1
      have x0 := cell_heap hx 0; have x1 := cell_heap hx 1; have x2 := cell_heap hx 2; have x3 := cell_heap hx 3
      by_cases hf : f = 0
      · subst hf
        obtain ⟨m1, m2⟩ := decBlk_back (v := v) (by rw [hdx])
        rw [hdx] at m1 m2
        simp only at m1 m2
        obtain ⟨p1, _⟩ := okBlk_of m1
        simp only at p1
        have hvx : (⟨(encBlk ⟨xc, xh, xt, xs⟩).toArray⟩ : ByteArray) = v := by rw [m2]
        have hvl : (encBlk ⟨xc, xh, xt, xs⟩).length ≤ 800000 := by rw [m2, str_len]; omega
        have CE := fun W h => encodeBlk_any xc xh xt ax nx cx xs W (by unfold maxLen; omega) h hnx hxc hxm hxq (fun _ => hvl)
        rw [show encBk ⟨xc, xh, xt, xs⟩ = .tuple #[.string v, .int .i64 0] by unfold encBk; rw [m1, hvx]; rfl] at CE
        have CX := fun W h => mayBlk_any xc xh xt ax nx cx xs W (by unfold maxLen; omega) h hnx hxc hxm hxq
        rw [m1] at CX
        clear m1 m2 hvx hvl hdx p1
        go_wp2_with (first | (go_at_call 9; refine (CE _ hrx).mono ?_; rintro e wz ⟨rfl, hb⟩; have hrx := hrx.below hb; have hx := cells_of hx hb hxl; have hbel := hbel.trans (hb.mono hbel.size); have x0 := cell_heap hx 0; have x1 := cell_heap hx 1; have x2 := cell_heap hx 2; have x3 := cell_heap hx 3; clear hb) | (go_at_call 15; refine (CX _ hrx).mono ?_; rintro e wz ⟨rfl, hb⟩; have hbel := hbel.trans (hb.mono hbel.size); clear hb))
        go_ret
        exact ⟨rfl, hbel⟩
      · have hf0 : (f == 0) = false := beq_eq_false_iff_ne.2 hf
        have hze := decBlk_err (v := v) (by rw [hdx]; exact hf)
        rw [hdx] at hze
        simp only [Blk.zero, Blk.mk.injEq] at hze
        obtain ⟨rfl, rfl, rfl, rfl⟩ := hze
        obtain rfl : nx = 0 := by rw [← hnx]; rfl
        have CS := fun W => blkSame_any ⟨#[]⟩ 0 0 ax none 0 cx 0 [] W (RowAt.nil _ _) (RowAt.nil _ _) rfl (Nat.zero_le _)
        clear hdx
        go_wp2_with (go_at_call 17; refine (CS _).mono ?_; rintro e wz ⟨rfl, hb⟩; have hbel := hbel.trans (hb.mono hbel.size); clear hb)
        go_ret
        exact ⟨rfl, hbel⟩
end Go.Proofs.Ytcbacchelabljaa
