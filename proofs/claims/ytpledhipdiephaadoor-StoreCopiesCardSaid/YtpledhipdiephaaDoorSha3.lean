/- sha: the 64 rounds over a block. -/
import Derived.Test.YtpledhipdiephaaDoorSt3
import Derived.Test.YtpledhipdiephaaDoorSha2
import Derived.Lib.LaidTab
import Derived.WalkKit
import Derived.ProofKit
import Derived.Handy
import Derived.Below
import Derived.Lib.Hide
import Derived.IntWalk
import Derived.Outline
import Derived.WalkLawsBesides
import Derived.WalkSpells
namespace Go.Proofs.YtpledhipdiephaaDoor
open Go.RowKit
attribute [local go_sem] strV
set_option linter.unusedVariables false
def ktab : List Int := [1116352408, 1899447441, 3049323471, 3921009573, 961987163, 1508970993, 2453635748, 2870763221, 3624381080, 310598401, 607225278, 1426881987, 1925078388, 2162078206, 2614888103, 3248222580, 3835390401, 4022224774, 264347078, 604807628, 770255983, 1249150122, 1555081692, 1996064986, 2554220882, 2821834349, 2952996808, 3210313671, 3336571891, 3584528711, 113926993, 338241895, 666307205, 773529912, 1294757372, 1396182291, 1695183700, 1986661051, 2177026350, 2456956037, 2730485921, 2820302411, 3259730800, 3345764771, 3516065817, 3600352804, 4094571909, 275423344, 430227734, 506948616, 659060556, 883997877, 958139571, 1322822218, 1537002063, 1747873779, 1955562222, 2024104815, 2227730452, 2361852424, 2428436474, 2756734187, 3204031479, 3329325298]
def stab : List Int := [1779033703, 3144134277, 1013904242, 2773480762, 1359893119, 2600822924, 528734635, 1541459225]
structure V8 where
  a : Int
  b : Int
  c : Int
  k : Int
  e : Int
  f : Int
  g : Int
  h : Int
def V8.list (v : V8) : List Int := [v.a, v.b, v.c, v.k, v.e, v.f, v.g, v.h]
def xX (K W : Int) (v : V8) : Int := (v.h + bits .xor .u32 (bits .xor .u32 (rr v.e 6) (rr v.e 11)) (rr v.e 25) + bits .xor .u32 (bits .and .u32 v.e v.f) (bits .and .u32 (bits .xor .u32 (if IntKind.u32.signed = true then -1 else IntKind.u32.max) v.e) v.g) + K + W) % 4294967296
def yY (v : V8) : Int := (bits .xor .u32 (bits .xor .u32 (rr v.a 2) (rr v.a 13)) (rr v.a 22) + bits .xor .u32 (bits .xor .u32 (bits .and .u32 v.a v.b) (bits .and .u32 v.a v.c)) (bits .and .u32 v.b v.c)) % 4294967296
def stp (K W : Int) (v : V8) : V8 := ⟨(xX K W v + yY v) % 4294967296, v.a, v.b, v.c, (v.k + xX K W v) % 4294967296, v.e, v.f, v.g⟩
def rnds (L : List Int) (v : V8) : Nat → V8
  | 0 => v
  | i + 1 => stp (ktab.getD i 0) (L.getD i 0) (rnds L v i)
def v8 (S : List Int) : V8 := ⟨S.getD 0 0, S.getD 1 0, S.getD 2 0, S.getD 3 0, S.getD 4 0, S.getD 5 0, S.getD 6 0, S.getD 7 0⟩
def addv (v w : V8) : List Int := [(v.a + w.a) % 4294967296, (v.b + w.b) % 4294967296, (v.c + w.c) % 4294967296, (v.k + w.k) % 4294967296, (v.e + w.e) % 4294967296, (v.f + w.f) % 4294967296, (v.g + w.g) % 4294967296, (v.h + w.h) % 4294967296]
theorem drow_set (S : List Int) (B : List UInt8) (u z x : Int) (k : Nat) (h : k < S.length) : (drow S B u z).setIfInBounds k (.int .u32 x) = drow (S.set k x) B u z := by
  unfold drow
  rw [List.setIfInBounds_toArray, List.set_append_left _ _ (by simpa using h), List.map_set]
theorem list8 {S : List Int} (h : S.length = 8) : ∃ a b c d e f g i, S = [a, b, c, d, e, f, g, i] := by
  match S, h with
  | [a, b, c, d, e, f, g, i], _ => exact ⟨_, _, _, _, _, _, _, _, rfl⟩
theorem Kept.drew {b : Nat} {w w1 : World} (h : Kept b w w1) : Kept b w w1.drew := ⟨h.os, h.tape, h.output, h.size, h.block⟩
/-- What a block turns a sum into. -/
def comp (S : List Int) (B : List UInt8) : List Int := addv (v8 S) (rnds (sched B) (v8 S) 64)
/-- What the program's tables hold. -/
def SW (w : World) : Prop := Lib.TabIs Tryd.prog w "lighterman/sha.start" .u32 stab ∧ Lib.TabIs Tryd.prog w "lighterman/sha.rounds" .u32 ktab
theorem sw_g0 : Tryd.prog.globalNamed "lighterman/sha.start" = some 0 := by kernel_rfl
theorem sw_g1 : Tryd.prog.globalNamed "lighterman/sha.rounds" = some 2 := by kernel_rfl
theorem SW.size {w : World} (h : SW w) : 2 < w.heap.size := by
  obtain ⟨_, h⟩ := h
  unfold Lib.TabIs World.var? at h
  rw [sw_g1] at h
  simp only [Option.bind_some] at h
  rcases Nat.lt_or_ge 2 w.heap.size with h' | h'
  · exact h'
  · rw [Array.getElem?_eq_none h'] at h; cases h
theorem SW.of_blocks {w w' : World} (h : SW w) (h0 : w'.heap[0]? = w.heap[0]?) (h1 : w'.heap[2]? = w.heap[2]?) : SW w' := by
  obtain ⟨hs, ht⟩ := h
  unfold SW Lib.TabIs World.var? at *
  rw [sw_g0] at *
  rw [sw_g1] at *
  simp only [Option.bind_some] at *
  rw [h0, h1]
  exact ⟨hs, ht⟩
theorem SW.below {w w' : World} (h : SW w) (hb : Below w.heap.size w w') : SW w' := by
  have hs := h.size
  exact h.of_blocks (hb.block 0 (by omega)) (hb.block 2 hs)
theorem SW.round {w : World} (h : SW w) {i : Nat} (hi : i < 64) : w.cell? ⟨2, i, none⟩ = some (.int .u32 (ktab.getD i 0)) := by
  have := h.2.cell sw_g1 i (by rw [show ktab.length = 64 from rfl]; exact hi)
  exact this
set_option maxRecDepth 100000 in
set_option maxHeartbeats 6400000 in
theorem compress_any (b : Nat) (w : World) (S : List Int) (B : List UInt8) (u z : Int) (hd : w.heap[b]? = some (.cells (drow S B u z) 156 (0, 0))) (hS : S.length = 8) (hB : B.length = 64) (hW : SW w) (hb2 : 2 < b) :
    Calls Tryd.prog 111 #[.pointer (some ⟨b, 0, none⟩)] w fun e w' => e = .returned (.tuple #[]) ∧ w'.heap[b]? = some (.cells (drow (comp S B) B u z) 156 (0, 0)) ∧ Kept b w w' := by
  have CS := fun W h => schedule_any b W S B u z h hS hB
  have hlt : b < w.heap.size := (Array.getElem?_eq_some_iff.1 hd).1
  have hsz : (wrow (sched B)).size = 64 := by rw [wrow_size]; exact sch_len _ _
  have hone := wrow_one (sched B)
  go_enter Tryd.func111, Tryd.ntmps111
  go_upto_region 1 with (first | (go_at_call 115; refine (CS _ hd).mono ?_; rintro e w1 ⟨rfl, hb1⟩) | (refine wpList_storeRowTo rfl (.tmp 2) (.tmp 15) 161 rfl (by rw [hsz]; kernel_rfl) rfl rfl (heap_push _ _ _) (by rw [hsz]; rfl) hone ?_))
  obtain ⟨s0, s1, s2, s3, s4, s5, s6, s7, rfl⟩ := list8 hS
  refine wp_nameE _ (fun W hX => ?_)
  have hr1 : W.heap[w1.heap.size]? = some (.cells (wrow (sched B)) 161 (0, 0)) := by rw [hX]; exact setRow_heap _ _ _ _ _ _ (heap_push _ _ _)
  have hbW : Below w.heap.size w W := by rw [hX]; exact below_setRow (Below.alloc hb1 hb1.size _) hb1.size _
  have hl1 : w.heap.size ≤ w1.heap.size := hb1.size
  have hd := cells_of hd hbW hlt
  have hW := hW.below hbW
  have hLn : (sched B).length = 64 := sch_len _ _
  obtain ⟨L, hL⟩ : ∃ L, sched B = L := ⟨_, rfl⟩
  have HC : Hid (comp [s0, s1, s2, s3, s4, s5, s6, s7] B = addv ⟨s0, s1, s2, s3, s4, s5, s6, s7⟩ (rnds L ⟨s0, s1, s2, s3, s4, s5, s6, s7⟩ 64)) := Lib.hid (by unfold comp; rw [hL]; rfl)
  rw [hL] at hr1 hLn
  clear hX hb1 CS hsz hone hL hS
  have c0 : W.cell? ⟨b, 0, none⟩ = some (.int .u32 s0) := by rw [cell_heap hd, drow_sum (show (0 : Nat) < 8 by decide)]; rfl
  have c1 : W.cell? ⟨b, 1, none⟩ = some (.int .u32 s1) := by rw [cell_heap hd, drow_sum (show (1 : Nat) < 8 by decide)]; rfl
  have c2 : W.cell? ⟨b, 2, none⟩ = some (.int .u32 s2) := by rw [cell_heap hd, drow_sum (show (2 : Nat) < 8 by decide)]; rfl
  have c3 : W.cell? ⟨b, 3, none⟩ = some (.int .u32 s3) := by rw [cell_heap hd, drow_sum (show (3 : Nat) < 8 by decide)]; rfl
  have c4 : W.cell? ⟨b, 4, none⟩ = some (.int .u32 s4) := by rw [cell_heap hd, drow_sum (show (4 : Nat) < 8 by decide)]; rfl
  have c5 : W.cell? ⟨b, 5, none⟩ = some (.int .u32 s5) := by rw [cell_heap hd, drow_sum (show (5 : Nat) < 8 by decide)]; rfl
  have c6 : W.cell? ⟨b, 6, none⟩ = some (.int .u32 s6) := by rw [cell_heap hd, drow_sum (show (6 : Nat) < 8 by decide)]; rfl
  have c7 : W.cell? ⟨b, 7, none⟩ = some (.int .u32 s7) := by rw [cell_heap hd, drow_sum (show (7 : Nat) < 8 by decide)]; rfl
  go_quiet (fail)
  go_wp2
  go_quiet (fail)
  go_wp2
  refine wp_nameE _ (fun W2 hX => ?_)
  have hr1 : W2.heap[w1.heap.size]? = some (.cells (wrow L) 161 (0, 0)) := by rw [hX]; exact hr1
  have hd : W2.heap[b]? = some (.cells (drow [s0, s1, s2, s3, s4, s5, s6, s7] B u z) 156 (0, 0)) := by rw [hX]; exact hd
  have hbW : Below w.heap.size w W2 := by rw [hX]; exact hbW.trans (((drewN_below W _).trans ((drewN_below (W.drewN _) _).mono (Nat.le_refl _))).mono hbW.size)
  have hW : SW W2 := by rw [hX]; exact (hW.below (drewN_below _ _)).below (drewN_below _ _)
  clear hX c0 c1 c2 c3 c4 c5 c6 c7
  go_loopw [3, 4, 5, 6, 7, 8, 9, 10, 56] (fun xa xb xc xk xe xf xg xh v wr => ∃ i : Nat, i ≤ 64 ∧ Below w.heap.size w wr ∧ wr.heap[b]? = some (.cells (drow [s0, s1, s2, s3, s4, s5, s6, s7] B u z) 156 (0, 0)) ∧ wr.heap[w1.heap.size]? = some (.cells (wrow L) 161 (0, 0)) ∧ SW wr ∧ xa = .int .u32 (rnds L ⟨s0, s1, s2, s3, s4, s5, s6, s7⟩ i).a ∧ xb = .int .u32 (rnds L ⟨s0, s1, s2, s3, s4, s5, s6, s7⟩ i).b ∧ xc = .int .u32 (rnds L ⟨s0, s1, s2, s3, s4, s5, s6, s7⟩ i).c ∧ xk = .int .u32 (rnds L ⟨s0, s1, s2, s3, s4, s5, s6, s7⟩ i).k ∧ xe = .int .u32 (rnds L ⟨s0, s1, s2, s3, s4, s5, s6, s7⟩ i).e ∧ xf = .int .u32 (rnds L ⟨s0, s1, s2, s3, s4, s5, s6, s7⟩ i).f ∧ xg = .int .u32 (rnds L ⟨s0, s1, s2, s3, s4, s5, s6, s7⟩ i).g ∧ xh = .int .u32 (rnds L ⟨s0, s1, s2, s3, s4, s5, s6, s7⟩ i).h ∧ v = .int .i64 i) (fun _ _ _ _ _ _ _ _ v _ => 64 - (intOf v).toNat)
  case atStart => exact ⟨0, by omega, hbW, hd, hr1, hW, rfl, rfl, rfl, rfl, rfl, rfl, rfl, rfl, rfl⟩
  case round =>
    clear hr1 hd hbW hW
    obtain ⟨i, hi, hbel, hd, y1, hW, rfl, rfl, rfl, rfl, rfl, rfl, rfl, rfl, rfl⟩ := hrel
    by_cases hlt2 : i < 64
    · have d1 : decide ((i : Int) < 64) = true := decide_eq_true (by omega)
      have r1 : (i : Int) < 64 := by omega
      have t1 : ((i : Nat) : Int).toNat = i := by omega
      obtain ⟨⟨pa, pb, pc, pk, pe, pf, pg, ph⟩, hv⟩ : ∃ v, rnds L ⟨s0, s1, s2, s3, s4, s5, s6, s7⟩ i = v := ⟨_, rfl⟩
      simp only [hv]
      obtain ⟨kt, hkt⟩ : ∃ x, ktab.getD i 0 = x := ⟨_, rfl⟩
      obtain ⟨wt, hwt⟩ : ∃ x, L.getD i 0 = x := ⟨_, rfl⟩
      have c1 : wr.cell? ⟨2, i, none⟩ = some (.int .u32 kt) := by rw [hW.round hlt2, hkt]
      have c2 : wr.cell? ⟨w1.heap.size, i, none⟩ = some (.int .u32 wt) := by rw [cell_heap y1, wrow_at (get_some (by omega)), hwt]
      have g1 : 2 < wr.heap.size := hW.size
      have g2 : w1.heap.size < wr.heap.size := (Array.getElem?_eq_some_iff.1 y1).1
      have R6 := fun W => right_any pe 6 W (by simp [RN])
      have R11 := fun W => right_any pe 11 W (by simp [RN])
      have R25 := fun W => right_any pe 25 W (by simp [RN])
      have R2 := fun W => right_any pa 2 W (by simp [RN])
      have R13 := fun W => right_any pa 13 W (by simp [RN])
      have R22 := fun W => right_any pa 22 W (by simp [RN])
      go_upto_region 6 with fail
      obtain ⟨hcb, hfb⟩ := beyond_cells (W := wr)
      refine wp_region_below (by kernel_rfl) (by kernel_rfl) ?_
      repeat (go_big_quiet_step ((go_at_call 116; first | (with_reducible exact quiet_below (R6 _)) | (with_reducible exact quiet_below (R11 _)) | (with_reducible exact quiet_below (R25 _)))))
      intro w9 hw9
      have hb9 := beyond_below hw9
      have hd := cells_of hd hb9 (Array.getElem?_eq_some_iff.1 hd).1
      have y1 := cells_of y1 hb9 g2
      have hW := hW.below hb9
      have hbel := hbel.trans (hb9.mono hbel.size)
      clear hcb hfb hw9 hb9 c1 c2 g1 g2
      go_upto_region 8 with (go_at_call 116; first | (with_reducible refine (R2 _).mono ?_; rintro e w2 ⟨rfl, hbx⟩; have hd := cells_of hd hbx (Array.getElem?_eq_some_iff.1 hd).1; have y1 := cells_of y1 hbx (Array.getElem?_eq_some_iff.1 y1).1; have hW := hW.below hbx; have hbel := hbel.trans (hbx.mono hbel.size)) | (with_reducible refine (R13 _).mono ?_; rintro e w2 ⟨rfl, hbx⟩; have hd := cells_of hd hbx (Array.getElem?_eq_some_iff.1 hd).1; have y1 := cells_of y1 hbx (Array.getElem?_eq_some_iff.1 y1).1; have hW := hW.below hbx; have hbel := hbel.trans (hbx.mono hbel.size)) | (with_reducible refine (R22 _).mono ?_; rintro e w2 ⟨rfl, hbx⟩; have hd := cells_of hd hbx (Array.getElem?_eq_some_iff.1 hd).1; have y1 := cells_of y1 hbx (Array.getElem?_eq_some_iff.1 y1).1; have hW := hW.below hbx; have hbel := hbel.trans (hbx.mono hbel.size)))
      generalize hX : ((ph + bits .xor .u32 (bits .xor .u32 (rr pe 6) (rr pe 11)) (rr pe 25) + bits .xor .u32 (bits .and .u32 pe pf) (bits .and .u32 (bits .xor .u32 (if IntKind.u32.signed = true then -1 else IntKind.u32.max) pe) pg) + kt + wt) % 4294967296 : Int) = X
      generalize hY : ((bits .xor .u32 (bits .xor .u32 (rr pa 2) (rr pa 13)) (rr pa 22) + bits .xor .u32 (bits .xor .u32 (bits .and .u32 pa pb) (bits .and .u32 pa pc)) (bits .and .u32 pb pc)) % 4294967296 : Int) = Y
      have hs1 : rnds L ⟨s0, s1, s2, s3, s4, s5, s6, s7⟩ (i + 1) = ⟨(X + Y) % 4294967296, pa, pb, pc, (pk + X) % 4294967296, pe, pf, pg⟩ := by
        rw [rnds, hv, hkt, hwt, ← hX, ← hY]; rfl
      clear hX hY
      go_wp2
      go_roundw
      case rel => exact ⟨i + 1, by omega, hbel, hd, y1, hW, by rw [hs1], by rw [hs1], by rw [hs1], by rw [hs1], by rw [hs1], by rw [hs1], by rw [hs1], by rw [hs1], by go_num⟩
      case measure => (simp [intOf]) <;> omega
    · obtain rfl : i = 64 := by omega
      have d1 : decide (((64 : Nat) : Int) < 64) = false := rfl
      obtain ⟨⟨fa, fb, fc, fk, fe, ff, fg, fh⟩, hv⟩ : ∃ v, rnds L ⟨s0, s1, s2, s3, s4, s5, s6, s7⟩ 64 = v := ⟨_, rfl⟩
      simp only [hv]
      have hK : Kept b w wr := Kept.of hbel
      have HC2 : Hid (comp [s0, s1, s2, s3, s4, s5, s6, s7] B = addv ⟨s0, s1, s2, s3, s4, s5, s6, s7⟩ ⟨fa, fb, fc, fk, fe, ff, fg, fh⟩) := Lib.hid (by rw [HC.out, hv])
      clear HC hv y1 hW hbel
      go_upto_region 11 with fail
      have c0 : wr.cell? ⟨b, 0, none⟩ = some (.int .u32 s0) := by rw [cell_heap hd, drow_sum (show (0 : Nat) < 8 by decide)]; rfl
      have q0 : wr.frozen? ⟨b, 0, none⟩ = false := frozen_heap hd 0
      go_region
      all_goals try go_upto_region 12 with fail
      refine wp_nameE _ (fun V1 hX => ?_)
      have hK : Kept b w V1 := by rw [hX]; exact (hK.setCell _ _).drew
      have hd : V1.heap[b]? = some (.cells (drow [(s0 + fa) % 4294967296, s1, s2, s3, s4, s5, s6, s7] B u z) 156 (0, 0)) := by rw [hX]; have := row_put5 (w := wr.drew) (k := 0) (v := .int .u32 ((s0 + fa) % 4294967296)) hd; rw [drow_set _ _ _ _ _ _ (show (0 : Nat) < 8 by decide)] at this; exact this
      clear hX c0 q0
      have c0 : V1.cell? ⟨b, 1, none⟩ = some (.int .u32 s1) := by rw [cell_heap hd, drow_sum (show (1 : Nat) < 8 by decide)]; rfl
      have q0 : V1.frozen? ⟨b, 1, none⟩ = false := frozen_heap hd 1
      go_region
      all_goals try go_upto_region 13 with fail
      refine wp_nameE _ (fun V2 hX => ?_)
      have hK : Kept b w V2 := by rw [hX]; exact (hK.setCell _ _).drew
      have hd : V2.heap[b]? = some (.cells (drow [(s0 + fa) % 4294967296, (s1 + fb) % 4294967296, s2, s3, s4, s5, s6, s7] B u z) 156 (0, 0)) := by rw [hX]; have := row_put5 (w := V1.drew) (k := 1) (v := .int .u32 ((s1 + fb) % 4294967296)) hd; rw [drow_set _ _ _ _ _ _ (show (1 : Nat) < 8 by decide)] at this; exact this
      clear hX c0 q0
      have c0 : V2.cell? ⟨b, 2, none⟩ = some (.int .u32 s2) := by rw [cell_heap hd, drow_sum (show (2 : Nat) < 8 by decide)]; rfl
      have q0 : V2.frozen? ⟨b, 2, none⟩ = false := frozen_heap hd 2
      go_region
      all_goals try go_upto_region 14 with fail
      refine wp_nameE _ (fun V3 hX => ?_)
      have hK : Kept b w V3 := by rw [hX]; exact (hK.setCell _ _).drew
      have hd : V3.heap[b]? = some (.cells (drow [(s0 + fa) % 4294967296, (s1 + fb) % 4294967296, (s2 + fc) % 4294967296, s3, s4, s5, s6, s7] B u z) 156 (0, 0)) := by rw [hX]; have := row_put5 (w := V2.drew) (k := 2) (v := .int .u32 ((s2 + fc) % 4294967296)) hd; rw [drow_set _ _ _ _ _ _ (show (2 : Nat) < 8 by decide)] at this; exact this
      clear hX c0 q0
      have c0 : V3.cell? ⟨b, 3, none⟩ = some (.int .u32 s3) := by rw [cell_heap hd, drow_sum (show (3 : Nat) < 8 by decide)]; rfl
      have q0 : V3.frozen? ⟨b, 3, none⟩ = false := frozen_heap hd 3
      go_region
      all_goals try go_upto_region 15 with fail
      refine wp_nameE _ (fun V4 hX => ?_)
      have hK : Kept b w V4 := by rw [hX]; exact (hK.setCell _ _).drew
      have hd : V4.heap[b]? = some (.cells (drow [(s0 + fa) % 4294967296, (s1 + fb) % 4294967296, (s2 + fc) % 4294967296, (s3 + fk) % 4294967296, s4, s5, s6, s7] B u z) 156 (0, 0)) := by rw [hX]; have := row_put5 (w := V3.drew) (k := 3) (v := .int .u32 ((s3 + fk) % 4294967296)) hd; rw [drow_set _ _ _ _ _ _ (show (3 : Nat) < 8 by decide)] at this; exact this
      clear hX c0 q0
      have c0 : V4.cell? ⟨b, 4, none⟩ = some (.int .u32 s4) := by rw [cell_heap hd, drow_sum (show (4 : Nat) < 8 by decide)]; rfl
      have q0 : V4.frozen? ⟨b, 4, none⟩ = false := frozen_heap hd 4
      go_region
      all_goals try go_upto_region 16 with fail
      refine wp_nameE _ (fun V5 hX => ?_)
      have hK : Kept b w V5 := by rw [hX]; exact (hK.setCell _ _).drew
      have hd : V5.heap[b]? = some (.cells (drow [(s0 + fa) % 4294967296, (s1 + fb) % 4294967296, (s2 + fc) % 4294967296, (s3 + fk) % 4294967296, (s4 + fe) % 4294967296, s5, s6, s7] B u z) 156 (0, 0)) := by rw [hX]; have := row_put5 (w := V4.drew) (k := 4) (v := .int .u32 ((s4 + fe) % 4294967296)) hd; rw [drow_set _ _ _ _ _ _ (show (4 : Nat) < 8 by decide)] at this; exact this
      clear hX c0 q0
      have c0 : V5.cell? ⟨b, 5, none⟩ = some (.int .u32 s5) := by rw [cell_heap hd, drow_sum (show (5 : Nat) < 8 by decide)]; rfl
      have q0 : V5.frozen? ⟨b, 5, none⟩ = false := frozen_heap hd 5
      go_region
      all_goals try go_upto_region 17 with fail
      refine wp_nameE _ (fun V6 hX => ?_)
      have hK : Kept b w V6 := by rw [hX]; exact (hK.setCell _ _).drew
      have hd : V6.heap[b]? = some (.cells (drow [(s0 + fa) % 4294967296, (s1 + fb) % 4294967296, (s2 + fc) % 4294967296, (s3 + fk) % 4294967296, (s4 + fe) % 4294967296, (s5 + ff) % 4294967296, s6, s7] B u z) 156 (0, 0)) := by rw [hX]; have := row_put5 (w := V5.drew) (k := 5) (v := .int .u32 ((s5 + ff) % 4294967296)) hd; rw [drow_set _ _ _ _ _ _ (show (5 : Nat) < 8 by decide)] at this; exact this
      clear hX c0 q0
      have c0 : V6.cell? ⟨b, 6, none⟩ = some (.int .u32 s6) := by rw [cell_heap hd, drow_sum (show (6 : Nat) < 8 by decide)]; rfl
      have q0 : V6.frozen? ⟨b, 6, none⟩ = false := frozen_heap hd 6
      go_region
      all_goals try go_upto_region 18 with fail
      refine wp_nameE _ (fun V7 hX => ?_)
      have hK : Kept b w V7 := by rw [hX]; exact (hK.setCell _ _).drew
      have hd : V7.heap[b]? = some (.cells (drow [(s0 + fa) % 4294967296, (s1 + fb) % 4294967296, (s2 + fc) % 4294967296, (s3 + fk) % 4294967296, (s4 + fe) % 4294967296, (s5 + ff) % 4294967296, (s6 + fg) % 4294967296, s7] B u z) 156 (0, 0)) := by rw [hX]; have := row_put5 (w := V6.drew) (k := 6) (v := .int .u32 ((s6 + fg) % 4294967296)) hd; rw [drow_set _ _ _ _ _ _ (show (6 : Nat) < 8 by decide)] at this; exact this
      clear hX c0 q0
      have c0 : V7.cell? ⟨b, 7, none⟩ = some (.int .u32 s7) := by rw [cell_heap hd, drow_sum (show (7 : Nat) < 8 by decide)]; rfl
      have q0 : V7.frozen? ⟨b, 7, none⟩ = false := frozen_heap hd 7
      go_region
      go_wp2
      go_end0
      exact ⟨rfl, by rw [HC2.out]; have := row_put5 (w := V7.drew) (k := 7) (v := .int .u32 ((s7 + fh) % 4294967296)) hd; rw [drow_set _ _ _ _ _ _ (show (7 : Nat) < 8 by decide)] at this; exact this, (hK.setCell _ _).drew⟩
end Go.Proofs.YtpledhipdiephaaDoor
