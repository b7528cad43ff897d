/- The keys of a life.Table's maps, collected. -/
import Derived.Test.YtbckncopdkmoeaaLfQ
import Derived.Test.YtbckncopdkmoeaaLf3
import Derived.Test.YtbckncopdkmoeaaShelf
import Derived.RangeFuncNested
import Derived.RangeFuncBound
import Derived.RangeFuncCalls
import Derived.RangeFuncLeaves
import Derived.RangeFuncBox
import Derived.Shelf.Abstract
import Derived.Shelf.RegionOpen
import Derived.WalkKit
import Derived.OwnWalkIn
import Derived.TacticsInMore
import Derived.LoopNIn
import Derived.LoopIn
import Derived.Maps.AppendAt
import Derived.Sort.MapsRangeIn
import Derived.Sort.CutIn
namespace Go.Proofs.Ytbckncopdkmoeaa
open Go.RowKit Go.Shelf Go.Maps
attribute [local go_sem] Oper.semAt_some
set_option linter.unusedVariables false
set_option linter.unusedSimpArgs false
theorem wpIn_nameE {F : Fence} {n : Nat} {P : Program} {c : Code} {Q : Exit → Act → World → Prop} {a : Act} (E : World) (h : ∀ W, W = E → c.wpIn F n P Q a W) : c.wpIn F n P Q a E := h E rfl
theorem below_walks {W W' : World} (hb : Below W.heap.size W W') : KeepsWalks W W' := ⟨hb.size, fun k o hk _ => (hb.block k (row_lt hk)).trans hk⟩
theorem below_from {W W' : World} (hb : Below W.heap.size W W') (B : Nat) : KeepsFrom B W W' := ⟨hb.size, fun k o _ hk _ => (hb.block k (row_lt hk)).trans hk⟩
theorem zeroLk_val (w : World) : (zeroValue 62).run Try.prog w = .ok (.agg #[.string ⟨#[]⟩, .int .i64 0, .bool false, .int .i64 0]) w := by kernel_rfl
theorem Try.infoLk : (Try.prog.info? 62).map (fun i => (i.zero, i.size, i.bytes)) = some (some (.agg #[.string ⟨#[]⟩, .int .i64 0, .bool false, .int .i64 0]), 4, 40) := by kernel_rfl
theorem Try.infoPe : (Try.prog.info? 60).map (fun i => (i.zero, i.size, i.bytes)) = some (some (.agg #[.string ⟨#[]⟩, .int .i64 0]), 2, 24) := by kernel_rfl
theorem Lk.row_inj {x y : Lk} (h : x.row = y.row) : x = y := by
  cases x; cases y
  simp [Lk.row] at h
  obtain ⟨rfl, rfl, rfl, rfl⟩ := h
  rfl
theorem Pe.row_inj {x y : Pe} (h : x.row = y.row) : x = y := by
  cases x; cases y
  simp [Pe.row] at h
  obtain ⟨rfl, rfl⟩ := h
  rfl
/-- The keys of the map D, each once. -/
def DoneL (D : DataW Value) (ss : List Lk) : Prop := ss.Nodup ∧ (∀ x ∈ ss, x.wf) ∧ ∀ x : Lk, x.wf → (x ∈ ss ↔ has D x.lit = true)
set_option maxRecDepth 100000 in
set_option maxHeartbeats 4000000 in
theorem kseqL_in (n : Nat) (hn : 1 ≤ n) (l Bm b nn : Nat) (D0 : DataW Value) (J Jx : List Lk → World → Prop)
    (hY : ∀ pre x W, J pre W → pre.length < Maps.size D0 → YieldAt Fence.wide (n - 1) Try.prog l #[.agg (Lk.row x)] W fun e W' =>
      (e = .returned (.bool true) ∧ J (pre ++ [x]) W' ∧ KeepsWalks W W') ∨ (e = .returned (.bool false) ∧ Jx (pre ++ [x]) W'))
    (W : World) (hJ : AbidesFrom W.heap.size J) (hm : W.cell? ⟨Bm, 0, none⟩ = some (.map (some b))) (hown : W.ownsMap Try.prog 62 hdR b nn D0) (h0 : J [] W) :
    CallsIn Fence.wide n Try.prog 100 #[.func (.yield l) #[] #[], .pointer (some ⟨Bm, 0, none⟩)] W fun e W' => (∃ v, e = .returned v) ∧
      ((∃ ss, DoneL D0 ss ∧ J ss W') ∨ (∃ pre, True ∧ Jx pre W')) := by
  refine callsIn_of_wp Try.func100 rfl trivial ?_ rfl
  simp only [Try.ntmps100, List.size_toArray, List.length_cons, List.length_nil, Nat.reduceAdd, Nat.reduceSub, Array.replicate_succ, Array.replicate_zero, List.push_toArray, List.append_toArray, List.nil_append, List.cons_append]
  gi_wp2_with (first
    | (gi_at_range; refine wpListIn_range_own _ rfl _ 119 rfl 62 _ lk_keyed Try.underlying119 _ b nn _ rfl hown ?_; intro w0 hrg0 hg0 hs0)
    | gi_in)
  go_frame
  gi_loopw [3] (fun _ wr => ∃ (left : Lit → Bool) (cnt : Nat) (ss : List Lk), wr.ranges Try.prog 62 hdR b W.heap.size nn D0 left cnt ∧ ss.length + cnt ≤ Maps.size D0 ∧ CollL D0 left ss ∧ J ss wr)
    (fun _ wr => wr.rangeLeft b W.heap.size)
  case atStart =>
    exact ⟨_, _, [], hrg0, by simp, CollL.start D0, hJ [] W w0 none h0 hg0 (fun r e => by cases e)⟩
  case round =>
    obtain ⟨left, cnt, ss, hrg, hcs, hC, hJs⟩ := hrel
    gi_upto_region 2 with (first
      | (gi_at_next; refine wpListIn_next_ranges _ rfl _ rfl 62 lk_keyed hdR (fun x : Lk => .agg x.row) id (fun key kl hk => by obtain ⟨x, hx, _⟩ := lk_inv hk; exact ⟨x, hx⟩) (fun v _ _ => ⟨v, rfl⟩) b W.heap.size nn _ _ _ rfl hrg ?_ ?_)
      | gi_in)
    · -- nothing is left
      intro hc0 hl0
      gi_wp2
      go_end0
      exact ⟨⟨_, rfl⟩, .inl ⟨ss, ⟨hC.1, hC.2.1, fun x hx => by rw [hC.2.2 x hx, hl0]; simp⟩, hJs⟩⟩
    · -- an entry has come
      intro x c kl yd yp w2 cnt2 hkey hlk hv hat hrg2 hlt hg2 hs2 hen
      obtain ⟨x', ex, rfl, hwf⟩ := lk_inv hkey
      obtain rfl : x = x' := Lk.row_inj (by injection ex)
      have hJ2 : J ss w2 := hJ ss wr w2 (some W.heap.size) hJs hg2 (fun r e => by cases e; exact ⟨Nat.le_refl _, hrg.iter_walk⟩)
      have hC2 := hC.step hwf hlk hat
      have HY := fun W1 hJ1 => hY ss x W1 hJ1 (by omega)
      clear hs2 hkey ex hv hlk hat hY
      obtain ⟨xp, xc, xo, xs⟩ := x
      simp only [Lk.row] at hen HY
      gi_upto_region 3 with gi_in
      refine wpIn_nameE _ (fun W3 hW3 => ?_)
      have hq3 : W3.heap[w2.heap.size]? = some (.cells #[.string xp, .int .i64 xc, .bool xo, .int .i64 xs] 62 (0, 0)) := by rw [hW3]; exact heap_push w2 _ _
      have hb3 : Below w2.heap.size w2 W3 := by rw [hW3]; exact (Below.refl _ _).alloc (Nat.le_refl _) _
      clear hW3
      have hJ3 : J ss W3 := hJ ss w2 W3 none hJ2 (grown_below hb3) (fun r e => by cases e)
      have hrg3 := hrg2.of_walks (below_walks hb3)
      obtain ⟨fn, tmps, assign, body, hy, hR⟩ := HY W3 hJ3
      have q0 := cell_heap hq3 0
      have q1 := cell_heap hq3 1
      have q2 := cell_heap hq3 2
      have q3 := cell_heap hq3 3
      gi_wp2
      refine hR.mono ?_
      rintro e W4 (⟨rfl, hJ4, hk4⟩ | ⟨rfl, hJx4⟩)
      · gi_wp2
        have hrg4 := hrg3.of_walks hk4
        go_roundw
        case rel => exact ⟨_, cnt2, ss ++ [⟨xp, xc, xo, xs⟩], hrg4, by simp; omega, hC2, hJ4⟩
        case measure => rw [hrg4.left_eq, hrg.left_eq]; exact hlt
      · gi_wp2
        refine bodyPost_ret (results_none rfl _ _ _) rfl ?_
        exact ⟨⟨_, rfl⟩, .inr ⟨_, trivial, hJx4⟩⟩
theorem kseqL_stops (n : Nat) (hn : 1 ≤ n) (Bm b nn : Nat) (D0 : DataW Value) (w : World) (hBm : Bm < w.heap.size) (hm : w.cell? ⟨Bm, 0, none⟩ = some (.map (some b))) (hown : w.ownsMap Try.prog 62 hdR b nn D0) :
    SeqStopsK Fence.wide n Try.prog 100 #[.pointer (some ⟨Bm, 0, none⟩)] (fun x : Lk => #[Value.agg (Lk.row x)]) KeepsWalks (DoneL D0) (fun _ => True) (Maps.size D0) w := fun l J Jx W hW hJ _ hY h0 => by
  have hown2 : W.ownsMap Try.prog 62 hdR b nn D0 := hown.kept (grown_below hW) (by simp)
  exact kseqL_in n hn l Bm b nn D0 J Jx hY W hJ ((hW.cell (p := ⟨Bm, 0, none⟩) hBm).trans hm) hown2 h0
set_option maxRecDepth 100000 in
set_option maxHeartbeats 4000000 in
theorem appL_in (n : Nat) (hn : 3 ≤ n) (Bm b nn : Nat) (hnn : nn ≤ 100000) (D0 : DataW Value) (w : World) (hBm : Bm < w.heap.size) (hm : w.cell? ⟨Bm, 0, none⟩ = some (.map (some b))) (hown : w.ownsMap Try.prog 62 hdR b nn D0) :
    CallsIn Fence.wide n Try.prog 112 #[.slice none 0 0, .func (.func 100) #[] #[.pointer (some ⟨Bm, 0, none⟩)]] w fun e W' => ∃ v ss, e = .returned v ∧ DoneL D0 ss ∧ ss.length ≤ Maps.size D0 ∧ W'.ownsRow w.heap.size 62 4 v ss.length (ss.flatMap Lk.L) ∧ Below w.heap.size w W' := by
  have h1 : 1 ≤ n := by omega
  have hsz := hown.size_le
  obtain ⟨i0, hi, hz0, hz1, hz2⟩ := info_parts Try.infoLk
  refine callsIn_of_wp_marks Try.func112 rfl trivial ?_ rfl
  simp only [Try.ntmps112, List.size_toArray, List.length_cons, List.length_nil, Nat.reduceAdd, Nat.reduceSub, Array.replicate_succ, Array.replicate_zero, List.push_toArray, List.append_toArray, List.nil_append, List.cons_append]
  gi_wp2
  have bO := Boxed.new w 90 (.slice none 0 0)
  have hB0 : Below w.heap.size w (w.alloc (.cells #[.slice none 0 0] 90)) := (Below.refl _ w).alloc (Nat.le_refl _) _
  refine wpIn_rangeFunc_ownH rfl h1 (gf := 100) (lb := #[.pointer (some ⟨Bm, 0, none⟩)]) rfl trivial (enters_of Try.func100 (by kernel_rfl) rfl)
    (kseqL_stops (n - 1) (by omega) Bm b nn D0 w hBm hm hown) walksK_t walksK_b hB0 (fun _ => rfl)
    (fun pre W => ((∃ v, Boxed W w.heap.size 90 v ∧ W.ownsRow w.heap.size 62 4 v pre.length (pre.flatMap Lk.L) ∧ (v = .slice none 0 0 ↔ pre = [])) ∧ Below w.heap.size w W) ∧ pre.length ≤ Maps.size D0)
    (fun _ _ _ => False)
    (OwnFrom.and (OwnFrom.and (Own.from (holdsRow_own w.heap.size w.heap.size 90 62 4 (fun pre : List Lk => pre.length) (fun pre => pre.flatMap Lk.L) (fun pre v => v = .slice none 0 0 ↔ pre = [])) _) (ownFrom_below (Nat.le_refl _) (by simp))) (fun _ _ _ _ hs _ _ => hs))
    (fun _ _ _ _ _ hs _ _ => hs)
    ⟨⟨⟨_, bO, World.ownsRow_nil _ _ _ _, by simp⟩, hB0⟩, Nat.zero_le _⟩
    (fun x a' W => ∃ B u, W.heap[B]? = some (.cells (Lk.row x) 62 (0, 0)) ∧ a' = { tmps := #[.slice none 0 0, .func (.func 100) #[] #[.pointer (some ⟨Bm, 0, none⟩)], .pointer (some ⟨w.heap.size, 0, none⟩), undef, .slice none 0 0, .pointer (some ⟨B, 0, none⟩), .func (.func 100) #[] #[.pointer (some ⟨Bm, 0, none⟩)], u, undef, undef, undef, undef, undef], defers := [] })
    ?hax ?assign ?body ?done ?stop
  case hax =>
    rintro x a' s W W' row ⟨B, u, hB, rfl⟩ hg hr
    refine ⟨B, u, (hg.block B (row_lt hB) (fun e => ?_)).trans hB, rfl⟩
    obtain ⟨_, o, ho, hc⟩ := hr B e.symm
    rw [hB] at ho; cases ho; cases hc
  case assign =>
    rintro l pre x W K ⟨⟨⟨v, hv, hrow, hnil⟩, hB⟩, hlen⟩ hK
    obtain ⟨xp, xc, xo, xs⟩ := x
    simp only [Lk.row] at hK ⊢
    gi_wp2
    have hb : Below W.heap.size W (W.alloc (.cells #[.string xp, .int .i64 xc, .bool xo, .int .i64 xs] 62)) := (Below.refl _ _).alloc (Nat.le_refl _) _
    exact hK _ _ (below_from hb _) (below_walks hb) ⟨⟨⟨v, hv.alloc _, own_kept9 hrow hb, hnil⟩, hB.alloc hB.size _⟩, hlen⟩ ⟨W.heap.size, _, heap_push W _ _, rfl⟩
  case body =>
    rintro l pre x a' W hl hloop ⟨⟨⟨v, hv, hrow, hnil⟩, hB⟩, hlen⟩ ⟨B, u, hx, rfl⟩ hlt
    have hc := hv.cell
    have hpl : pre.length ≤ 100000 := by omega
    obtain ⟨xp, xc, xo, xs⟩ := x
    simp only [Lk.row] at hx
    have q0 := cell_heap hx 0
    have q1 := cell_heap hx 1
    have q2 := cell_heap hx 2
    have q3 := cell_heap hx 3
    gi_wp2_with (gi_at_builtin; refine wpListIn_append_own _ rfl _ _ 90 rfl w.heap.size 62 i0 (.agg #[.string ⟨#[]⟩, .int .i64 0, .bool false, .int .i64 0]) 4 40 Try.underlying90 hi hz0 hz1 hz2 rfl (by decide) _ _ _ rfl (hrow.alloc _) ⟨W.heap.size, 0, none⟩ 1 1 (Lk.L ⟨xp, xc, xo, xs⟩) rfl rfl (fun j u hu => by rw [Addr.add_lit, Nat.zero_add, cell_heap (heap_push W #[.string xp, .int .i64 xc, .bool xo, .int .i64 xs] 62)]; simpa [Lk.L] using hu) (by simp [Lk.L, Value.oneCell']) (by unfold maxLen; omega) (by omega) (by have := hB.size; simp; omega) ?_; intro v' w1 hown' hgrow _; obtain ⟨g', cap', rfl⟩ := ownsRow_succ hown'; obtain ⟨hv1, hv2, hr2, hk2, hb2⟩ := hv.appended (by decide) hrow hB.size (Nat.le_refl _) hown' hgrow; have hc1 := hv1.cell; have hf1 := hv1.frozen)
    exact ⟨hk2.from _, hk2.walks, ⟨⟨_, hv2, by simpa using hr2, by simp⟩, hB.trans hb2⟩, by simp; omega⟩
  case done =>
    rintro D ys W hD hys ⟨⟨⟨v, hv, hrow, hnil⟩, hB⟩, hlen⟩ hK
    have hc := hv.cell
    gi_wp2
    refine ⟨by simp, .inl ⟨_, _, rfl, run_takeDeferred hK, ?_⟩⟩
    exact ⟨_, results_tmp rfl _ _ _, v, ys, rfl, hys, hlen, ownsRow_putObj hrow _ hK rfl, hB.trans (belowK_b (w := w) (Nat.le_refl _) W D _ _ (by simp at hD; omega) hK rfl rfl)⟩
  case stop =>
    rintro D c pre W _ _ h _
    exact h.elim
set_option maxHeartbeats 1000000 in
theorem colL_any (Bm b nn : Nat) (hnn : nn ≤ 100000) (D0 : DataW Value) (w : World) (hBm : Bm < w.heap.size) (hm : w.cell? ⟨Bm, 0, none⟩ = some (.map (some b))) (hown : w.ownsMap Try.prog 62 hdR b nn D0) :
    Calls Try.prog 98 #[.func (.func 100) #[] #[.pointer (some ⟨Bm, 0, none⟩)]] w fun e W' => ∃ v ss, e = .returned v ∧ DoneL D0 ss ∧ ss.length ≤ Maps.size D0 ∧ W'.ownsRow w.heap.size 62 4 v ss.length (ss.flatMap Lk.L) ∧ Below w.heap.size w W' := by
  refine (callsIn_wide (n := 4)).1 ?_
  refine callsIn_of_wp Try.func98 rfl trivial ?_ rfl
  simp only [Try.ntmps98, List.size_toArray, List.length_cons, List.length_nil, Nat.reduceAdd, Nat.reduceSub, Array.replicate_succ, Array.replicate_zero, List.push_toArray, List.append_toArray, List.nil_append, List.cons_append]
  gi_wp2_with (refine ⟨trivial, ?_⟩; gi_at_call 112; refine (appL_in 3 (by omega) Bm b nn hnn D0 w hBm hm hown).mono ?_; rintro e w' ⟨v, ss, rfl, hd, hl, hown2, hb⟩)
  go_ret
  exact ⟨v, ss, rfl, hd, hl, hown2, hb⟩
/-- The keys of the map D, each once. -/
def DoneP (D : DataW Value) (ss : List Pe) : Prop := ss.Nodup ∧ (∀ x ∈ ss, x.wf) ∧ ∀ x : Pe, x.wf → (x ∈ ss ↔ has D x.lit = true)
set_option maxRecDepth 100000 in
set_option maxHeartbeats 4000000 in
theorem kseqP_in (n : Nat) (hn : 1 ≤ n) (l Bm b nn : Nat) (D0 : DataW Value) (J Jx : List Pe → World → Prop)
    (hY : ∀ pre x W, J pre W → pre.length < Maps.size D0 → YieldAt Fence.wide (n - 1) Try.prog l #[.agg (Pe.row x)] W fun e W' =>
      (e = .returned (.bool true) ∧ J (pre ++ [x]) W' ∧ KeepsWalks W W') ∨ (e = .returned (.bool false) ∧ Jx (pre ++ [x]) W'))
    (W : World) (hJ : AbidesFrom W.heap.size J) (hm : W.cell? ⟨Bm, 0, none⟩ = some (.map (some b))) (hown : W.ownsMap Try.prog 60 hdR b nn D0) (h0 : J [] W) :
    CallsIn Fence.wide n Try.prog 105 #[.func (.yield l) #[] #[], .pointer (some ⟨Bm, 0, none⟩)] W fun e W' => (∃ v, e = .returned v) ∧
      ((∃ ss, DoneP D0 ss ∧ J ss W') ∨ (∃ pre, True ∧ Jx pre W')) := by
  refine callsIn_of_wp Try.func105 rfl trivial ?_ rfl
  simp only [Try.ntmps105, List.size_toArray, List.length_cons, List.length_nil, Nat.reduceAdd, Nat.reduceSub, Array.replicate_succ, Array.replicate_zero, List.push_toArray, List.append_toArray, List.nil_append, List.cons_append]
  gi_wp2_with (first
    | (gi_at_range; refine wpListIn_range_own _ rfl _ 120 rfl 60 _ en_keyed Try.underlying120 _ b nn _ rfl hown ?_; intro w0 hrg0 hg0 hs0)
    | gi_in)
  go_frame
  gi_loopw [3] (fun _ wr => ∃ (left : Lit → Bool) (cnt : Nat) (ss : List Pe), wr.ranges Try.prog 60 hdR b W.heap.size nn D0 left cnt ∧ ss.length + cnt ≤ Maps.size D0 ∧ CollP D0 left ss ∧ J ss wr)
    (fun _ wr => wr.rangeLeft b W.heap.size)
  case atStart =>
    exact ⟨_, _, [], hrg0, by simp, CollP.start D0, hJ [] W w0 none h0 hg0 (fun r e => by cases e)⟩
  case round =>
    obtain ⟨left, cnt, ss, hrg, hcs, hC, hJs⟩ := hrel
    gi_upto_region 2 with (first
      | (gi_at_next; refine wpListIn_next_ranges _ rfl _ rfl 60 en_keyed hdR (fun x : Pe => .agg x.row) id (fun key kl hk => by obtain ⟨x, hx, _⟩ := pe_inv hk; exact ⟨x, hx⟩) (fun v _ _ => ⟨v, rfl⟩) b W.heap.size nn _ _ _ rfl hrg ?_ ?_)
      | gi_in)
    · -- nothing is left
      intro hc0 hl0
      gi_wp2
      go_end0
      exact ⟨⟨_, rfl⟩, .inl ⟨ss, ⟨hC.1, hC.2.1, fun x hx => by rw [hC.2.2 x hx, hl0]; simp⟩, hJs⟩⟩
    · -- an entry has come
      intro x c kl yd yp w2 cnt2 hkey hlk hv hat hrg2 hlt hg2 hs2 hen
      obtain ⟨x', ex, rfl, hwf⟩ := pe_inv hkey
      obtain rfl : x = x' := Pe.row_inj (by injection ex)
      have hJ2 : J ss w2 := hJ ss wr w2 (some W.heap.size) hJs hg2 (fun r e => by cases e; exact ⟨Nat.le_refl _, hrg.iter_walk⟩)
      have hC2 := hC.step hwf hlk hat
      have HY := fun W1 hJ1 => hY ss x W1 hJ1 (by omega)
      clear hs2 hkey ex hv hlk hat hY
      obtain ⟨xp, xc⟩ := x
      simp only [Pe.row] at hen HY
      gi_upto_region 3 with gi_in
      refine wpIn_nameE _ (fun W3 hW3 => ?_)
      have hq3 : W3.heap[w2.heap.size]? = some (.cells #[.string xp, .int .i64 xc] 60 (0, 0)) := by rw [hW3]; exact heap_push w2 _ _
      have hb3 : Below w2.heap.size w2 W3 := by rw [hW3]; exact (Below.refl _ _).alloc (Nat.le_refl _) _
      clear hW3
      have hJ3 : J ss W3 := hJ ss w2 W3 none hJ2 (grown_below hb3) (fun r e => by cases e)
      have hrg3 := hrg2.of_walks (below_walks hb3)
      obtain ⟨fn, tmps, assign, body, hy, hR⟩ := HY W3 hJ3
      have q0 := cell_heap hq3 0
      have q1 := cell_heap hq3 1
      gi_wp2
      refine hR.mono ?_
      rintro e W4 (⟨rfl, hJ4, hk4⟩ | ⟨rfl, hJx4⟩)
      · gi_wp2
        have hrg4 := hrg3.of_walks hk4
        go_roundw
        case rel => exact ⟨_, cnt2, ss ++ [⟨xp, xc⟩], hrg4, by simp; omega, hC2, hJ4⟩
        case measure => rw [hrg4.left_eq, hrg.left_eq]; exact hlt
      · gi_wp2
        refine bodyPost_ret (results_none rfl _ _ _) rfl ?_
        exact ⟨⟨_, rfl⟩, .inr ⟨_, trivial, hJx4⟩⟩
theorem kseqP_stops (n : Nat) (hn : 1 ≤ n) (Bm b nn : Nat) (D0 : DataW Value) (w : World) (hBm : Bm < w.heap.size) (hm : w.cell? ⟨Bm, 0, none⟩ = some (.map (some b))) (hown : w.ownsMap Try.prog 60 hdR b nn D0) :
    SeqStopsK Fence.wide n Try.prog 105 #[.pointer (some ⟨Bm, 0, none⟩)] (fun x : Pe => #[Value.agg (Pe.row x)]) KeepsWalks (DoneP D0) (fun _ => True) (Maps.size D0) w := fun l J Jx W hW hJ _ hY h0 => by
  have hown2 : W.ownsMap Try.prog 60 hdR b nn D0 := hown.kept (grown_below hW) (by simp)
  exact kseqP_in n hn l Bm b nn D0 J Jx hY W hJ ((hW.cell (p := ⟨Bm, 0, none⟩) hBm).trans hm) hown2 h0
set_option maxRecDepth 100000 in
set_option maxHeartbeats 4000000 in
theorem appP_in (n : Nat) (hn : 3 ≤ n) (Bm b nn : Nat) (hnn : nn ≤ 100000) (D0 : DataW Value) (w : World) (hBm : Bm < w.heap.size) (hm : w.cell? ⟨Bm, 0, none⟩ = some (.map (some b))) (hown : w.ownsMap Try.prog 60 hdR b nn D0) :
    CallsIn Fence.wide n Try.prog 114 #[.slice none 0 0, .func (.func 105) #[] #[.pointer (some ⟨Bm, 0, none⟩)]] w fun e W' => ∃ v ss, e = .returned v ∧ DoneP D0 ss ∧ ss.length ≤ Maps.size D0 ∧ W'.ownsRow w.heap.size 60 2 v ss.length (ss.flatMap Pe.L) ∧ Below w.heap.size w W' := by
  have h1 : 1 ≤ n := by omega
  have hsz := hown.size_le
  obtain ⟨i0, hi, hz0, hz1, hz2⟩ := info_parts Try.infoPe
  refine callsIn_of_wp_marks Try.func114 rfl trivial ?_ rfl
  simp only [Try.ntmps114, List.size_toArray, List.length_cons, List.length_nil, Nat.reduceAdd, Nat.reduceSub, Array.replicate_succ, Array.replicate_zero, List.push_toArray, List.append_toArray, List.nil_append, List.cons_append]
  gi_wp2
  have bO := Boxed.new w 69 (.slice none 0 0)
  have hB0 : Below w.heap.size w (w.alloc (.cells #[.slice none 0 0] 69)) := (Below.refl _ w).alloc (Nat.le_refl _) _
  refine wpIn_rangeFunc_ownH rfl h1 (gf := 105) (lb := #[.pointer (some ⟨Bm, 0, none⟩)]) rfl trivial (enters_of Try.func105 (by kernel_rfl) rfl)
    (kseqP_stops (n - 1) (by omega) Bm b nn D0 w hBm hm hown) walksK_t walksK_b hB0 (fun _ => rfl)
    (fun pre W => ((∃ v, Boxed W w.heap.size 69 v ∧ W.ownsRow w.heap.size 60 2 v pre.length (pre.flatMap Pe.L) ∧ (v = .slice none 0 0 ↔ pre = [])) ∧ Below w.heap.size w W) ∧ pre.length ≤ Maps.size D0)
    (fun _ _ _ => False)
    (OwnFrom.and (OwnFrom.and (Own.from (holdsRow_own w.heap.size w.heap.size 69 60 2 (fun pre : List Pe => pre.length) (fun pre => pre.flatMap Pe.L) (fun pre v => v = .slice none 0 0 ↔ pre = [])) _) (ownFrom_below (Nat.le_refl _) (by simp))) (fun _ _ _ _ hs _ _ => hs))
    (fun _ _ _ _ _ hs _ _ => hs)
    ⟨⟨⟨_, bO, World.ownsRow_nil _ _ _ _, by simp⟩, hB0⟩, Nat.zero_le _⟩
    (fun x a' W => ∃ B u, W.heap[B]? = some (.cells (Pe.row x) 60 (0, 0)) ∧ a' = { tmps := #[.slice none 0 0, .func (.func 105) #[] #[.pointer (some ⟨Bm, 0, none⟩)], .pointer (some ⟨w.heap.size, 0, none⟩), undef, .slice none 0 0, .pointer (some ⟨B, 0, none⟩), .func (.func 105) #[] #[.pointer (some ⟨Bm, 0, none⟩)], u, undef, undef, undef, undef, undef], defers := [] })
    ?hax ?assign ?body ?done ?stop
  case hax =>
    rintro x a' s W W' row ⟨B, u, hB, rfl⟩ hg hr
    refine ⟨B, u, (hg.block B (row_lt hB) (fun e => ?_)).trans hB, rfl⟩
    obtain ⟨_, o, ho, hc⟩ := hr B e.symm
    rw [hB] at ho; cases ho; cases hc
  case assign =>
    rintro l pre x W K ⟨⟨⟨v, hv, hrow, hnil⟩, hB⟩, hlen⟩ hK
    obtain ⟨xp, xc⟩ := x
    simp only [Pe.row] at hK ⊢
    gi_wp2
    have hb : Below W.heap.size W (W.alloc (.cells #[.string xp, .int .i64 xc] 60)) := (Below.refl _ _).alloc (Nat.le_refl _) _
    exact hK _ _ (below_from hb _) (below_walks hb) ⟨⟨⟨v, hv.alloc _, own_kept9 hrow hb, hnil⟩, hB.alloc hB.size _⟩, hlen⟩ ⟨W.heap.size, _, heap_push W _ _, rfl⟩
  case body =>
    rintro l pre x a' W hl hloop ⟨⟨⟨v, hv, hrow, hnil⟩, hB⟩, hlen⟩ ⟨B, u, hx, rfl⟩ hlt
    have hc := hv.cell
    have hpl : pre.length ≤ 100000 := by omega
    obtain ⟨xp, xc⟩ := x
    simp only [Pe.row] at hx
    have q0 := cell_heap hx 0
    have q1 := cell_heap hx 1
    gi_wp2_with (gi_at_builtin; refine wpListIn_append_own _ rfl _ _ 69 rfl w.heap.size 60 i0 (.agg #[.string ⟨#[]⟩, .int .i64 0]) 2 24 Try.underlying69 hi hz0 hz1 hz2 rfl (by decide) _ _ _ rfl (hrow.alloc _) ⟨W.heap.size, 0, none⟩ 1 1 (Pe.L ⟨xp, xc⟩) rfl rfl (fun j u hu => by rw [Addr.add_lit, Nat.zero_add, cell_heap (heap_push W #[.string xp, .int .i64 xc] 60)]; simpa [Pe.L] using hu) (by simp [Pe.L, Value.oneCell']) (by unfold maxLen; omega) (by omega) (by have := hB.size; simp; omega) ?_; intro v' w1 hown' hgrow _; obtain ⟨g', cap', rfl⟩ := ownsRow_succ hown'; obtain ⟨hv1, hv2, hr2, hk2, hb2⟩ := hv.appended (by decide) hrow hB.size (Nat.le_refl _) hown' hgrow; have hc1 := hv1.cell; have hf1 := hv1.frozen)
    exact ⟨hk2.from _, hk2.walks, ⟨⟨_, hv2, by simpa using hr2, by simp⟩, hB.trans hb2⟩, by simp; omega⟩
  case done =>
    rintro D ys W hD hys ⟨⟨⟨v, hv, hrow, hnil⟩, hB⟩, hlen⟩ hK
    have hc := hv.cell
    gi_wp2
    refine ⟨by simp, .inl ⟨_, _, rfl, run_takeDeferred hK, ?_⟩⟩
    exact ⟨_, results_tmp rfl _ _ _, v, ys, rfl, hys, hlen, ownsRow_putObj hrow _ hK rfl, hB.trans (belowK_b (w := w) (Nat.le_refl _) W D _ _ (by simp at hD; omega) hK rfl rfl)⟩
  case stop =>
    rintro D c pre W _ _ h _
    exact h.elim
set_option maxHeartbeats 1000000 in
theorem colP_any (Bm b nn : Nat) (hnn : nn ≤ 100000) (D0 : DataW Value) (w : World) (hBm : Bm < w.heap.size) (hm : w.cell? ⟨Bm, 0, none⟩ = some (.map (some b))) (hown : w.ownsMap Try.prog 60 hdR b nn D0) :
    Calls Try.prog 103 #[.func (.func 105) #[] #[.pointer (some ⟨Bm, 0, none⟩)]] w fun e W' => ∃ v ss, e = .returned v ∧ DoneP D0 ss ∧ ss.length ≤ Maps.size D0 ∧ W'.ownsRow w.heap.size 60 2 v ss.length (ss.flatMap Pe.L) ∧ Below w.heap.size w W' := by
  refine (callsIn_wide (n := 4)).1 ?_
  refine callsIn_of_wp Try.func103 rfl trivial ?_ rfl
  simp only [Try.ntmps103, List.size_toArray, List.length_cons, List.length_nil, Nat.reduceAdd, Nat.reduceSub, Array.replicate_succ, Array.replicate_zero, List.push_toArray, List.append_toArray, List.nil_append, List.cons_append]
  gi_wp2_with (refine ⟨trivial, ?_⟩; gi_at_call 114; refine (appP_in 3 (by omega) Bm b nn hnn D0 w hBm hm hown).mono ?_; rintro e w' ⟨v, ss, rfl, hd, hl, hown2, hb⟩)
  go_ret
  exact ⟨v, ss, rfl, hd, hl, hown2, hb⟩
end Go.Proofs.Ytbckncopdkmoeaa
