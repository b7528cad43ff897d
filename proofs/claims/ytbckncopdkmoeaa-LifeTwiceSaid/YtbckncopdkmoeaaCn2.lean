/- A client's New, State, Check, Update. -/
import Derived.Test.YtbckncopdkmoeaaCnK
import Derived.Maps.OwnSet
import Derived.Maps.OwnOps
import Derived.BigRegion
import Derived.RegionTactic
import Derived.BigQuiet
import Derived.Deep.QuietTactic
import Derived.Deep.MidRow
import Derived.Deep.RegionLaw
import Derived.LoopTactic
import Derived.BigFrame
import Derived.OwnWalk
import Derived.OneCell
import Derived.Laws.OwnMore
import Derived.DeepKeys4
import Derived.WalkKit
import Derived.ProofKit
import Derived.Handy
import Derived.Below
import Derived.Lib.Hide
import Derived.IntWalk
import Derived.Outline
import Derived.WalkLawsBesides
import Derived.WalkSpells
namespace Go.Proofs.Ytbckncopdkmoeaa
open Go.RowKit
attribute [local go_sem] strV
set_option linter.unusedVariables false
set_option maxHeartbeats 1600000 in
theorem clNew_any (w : World) : Calls Try.prog 18 #[] w fun e w' => e = .returned (.pointer (some ⟨w.heap.size + 1, 0, none⟩)) ∧ ClAt w' (w.heap.size + 1) w.heap.size 0 [] ∧ Below w.heap.size w w' := by
  have hmm := @run_makeMap Try.prog
  go_enter Try.func18, Try.ntmps18
  go_wp2
  go_ret
  refine ⟨rfl, ⟨List.Pairwise.nil, (fun h hh => (by cases hh)), Nat.le_refl _, ?_, _, ?_, MapHd.nil⟩, al2_below w _ _⟩
  · exact al2_1 w _ _
  · exact (World.ownsMap_made w Try.prog 3 hdR).alloc _
set_option maxRecDepth 100000 in
set_option maxHeartbeats 3200000 in
theorem clState_any (g b n : Nat) (m : List Hd) (x : Int) (w : World) (h : ClAt w g b n m) (hx : (Lit.int .i64 x).wf = true) :
    Calls Try.prog 23 #[.pointer (some ⟨g, 0, none⟩), .int .i64 x] w fun e w' => e = .returned (.tuple #[.agg (knownV m x).row, .bool (knownB m x)]) ∧ Below w.heap.size w w' := by
  obtain ⟨q1, q2, q3, q4, D, q5, hD⟩ := h
  have hgl := row_lt q4
  go_enter Try.func23, Try.ntmps23
  go_upto_region 1 with fail
  refine wp_nameE _ (fun W1 hW1 => ?_)
  have hz1 : W1.heap[w.heap.size]? = some (.cells zeroHd.row 43 (0, 0)) := by rw [hW1]; exact heap_push w zeroHd.row 43
  have hb1 : Below w.heap.size w W1 := by rw [hW1]; exact (Below.refl _ _).alloc (Nat.le_refl _) _
  have HSZ := Lib.hid (show W1.heap.size = w.heap.size + 1 by rw [hW1]; simp)
  have HSZ := Lib.hid (show W1.heap.size = w.heap.size + 1 by rw [hW1]; simp)
  clear hW1
  have hm9 := q5.kept (grown_below hb1) (by simp)
  have c0 : W1.cell? ⟨g, 0, none⟩ = some (.map (some b)) := cell_heap (cells_of q4 hb1 hgl) 0
  have hA : (W1.alloc (.cells zeroHd.row 43)).heap[W1.heap.size]? = some (.cells zeroHd.row 43 (0, 0)) := heap_push W1 zeroHd.row 43
  have hz2 : ((W1.alloc (.cells zeroHd.row 43)).setRow W1.heap.size (knownV m x).row).heap[W1.heap.size]? = some (.cells (knownV m x).row 43 (0, 0)) := setRow_heap _ _ zeroHd.row _ _ _ hA
  have hz3 : ((W1.alloc (.cells zeroHd.row 43)).setRow W1.heap.size (knownV m x).row).heap[w.heap.size]? = some (.cells zeroHd.row 43 (0, 0)) := by
    rw [setRow_other _ _ _ _ (by have := HSZ.out; omega)]
    exact cells_of hz1 ((Below.refl _ _).alloc (Nat.le_refl _) _) (by have := HSZ.out; omega)
  have hb2 : Below w.heap.size w ((W1.alloc (.cells zeroHd.row 43)).setRow W1.heap.size (knownV m x).row) :=
    (hb1.alloc hb1.size (.cells zeroHd.row 43)).trans ⟨rfl, rfl, rfl, by rw [setRow_size]; exact Nat.le_refl _, fun j hj => setRow_other _ _ _ _ (by have := HSZ.out; omega)⟩
  go_wp2_with (first | (at_lookup; refine wpList_lookup_own_ok _ rfl _ _ 108 rfl 3 43 int_keyedC Try.underlying108 hdR (zeroHd_val _) (.held (.agg zeroHd.row)) [] rfl b n D rfl hm9 _ _ rfl (Maps.keyOf_int_mk Try.underlying3 hx) ?_; intro v9 ps9 hv9; rw [hD.at_ x hx] at hv9; obtain rfl := hdR_inj hv9; rw [hD.has x hx]) | (refine wpList_storeRowTo rfl (.tmp 6) (.tmp 15) 43 rfl (infoHd_row _) rfl rfl hA (by rw [Hd.row_size, Hd.row_size]) (Hd.row_one _) ?_) | (refine wpList_loadHd (.tmp 6) rfl W1.heap.size 0 rfl (knownV m x) (hd_range hz2) (by rfl) ?_) | (refine wpList_storeRowTo rfl (.tmp 4) (.tmp 17) 43 rfl (infoHd_row _) rfl rfl hz3 (by rw [Hd.row_size, Hd.row_size]) (Hd.row_one _) ?_))
  have hZ := setRow_heap _ _ zeroHd.row (knownV m x).row _ _ hz3
  have hrd := run_loadVar_mid (P := Try.prog) _ w.heap.size 0 43 (knownV m x).L _ (hd_range hZ) Try.underlying43 rfl (by rw [Hd.L_len]; exact Try.infoHd)
  refine bodyPost_ret (v := .tuple #[.agg (knownV m x).row, .bool (knownB m x)]) ?_ rfl ?_
  · simp [results, Try.results23, asAddr]
    exact (congrArg (fun r => r.andThen fun a w' => Result.ok (Value.tuple #[a, Value.bool (knownB m x)]) w') hrd).trans rfl
  exact ⟨rfl, below_setRow hb2 (Nat.le_refl _) _⟩
theorem run_makeMap_hint {P : Program} (t : TypeId) {k e : TypeId} (ht : P.underlying t = some (.map k e)) (n : Int) (w : World) : (Instr.makeMap t (some (.int .i64 n))).run P w = .ok (.map (some w.heap.size)) (w.alloc (.map #[] 0)) := by
  simp [Instr.makeMap, run_underlying ht, Result.andThen, asInt]
  rfl
set_option maxRecDepth 100000 in
set_option maxHeartbeats 3200000 in
theorem auth_any (h : Hd) (hw : h.wf) (a : Option Addr) (n cap : Nat) (l : List Hd) (w : World) (hr : RowAt w a (l.flatMap Hd.L)) (hn : l.length = n) (hn6 : n ≤ 100000) (hl : ∀ x ∈ l, x.wf) :
    Calls Try.prog 52 #[.agg h.row, .slice a n cap] w fun e w' => e = .returned (.bool (decide (h ∈ l))) ∧ Below w.heap.size w w' := by
  have hmm := fun W => run_makeMap_hint 150 Try.underlying150 (n : Int) W
  have HN := Lib.hid hn
  have HL := Lib.hid hl
  obtain ⟨r, hrr⟩ : ∃ r, decide (h ∈ l) = r := ⟨_, rfl⟩
  rw [hrr]
  have HR := Lib.hid hrr
  clear hrr
  clear hn hl
  go_enter Try.func52, Try.ntmps52
  go_upto_region 3 with fail
  refine wp_nameE _ (fun W1 hW1 => ?_)
  have hq1 : W1.heap[w.heap.size]? = some (.cells h.row 43 (0, 0)) := by rw [hW1]; exact al2_0 w _ _
  have hm1 : W1.ownsMap Try.prog 43 (plainElem (H := Value) Try.prog 3) (w.heap.size + 1) 0 (.map []) := by rw [hW1]; have h9 := World.ownsMap_made (H := Value) (w.alloc (.cells h.row 43)) Try.prog 43 (plainElem (H := Value) Try.prog 3); rw [show (w.alloc (.cells h.row 43)).heap.size = w.heap.size + 1 by simp] at h9; exact h9
  have hb1 : Below w.heap.size w W1 := by rw [hW1]; exact al2_below w _ _
  have hs1 : w.heap.size + 2 ≤ W1.heap.size := by rw [hW1]; simp
  clear hW1
  have hlk9 := hm1
  clear hm1
  have HLT : Hid (w.heap.size + 1 < w.heap.size + 2) := Lib.hid (by omega)
  go_loopw [15] (fun i wr => ∃ k : Nat, k ≤ n ∧ i = .int .i64 k ∧ (∃ D, wr.ownsMap Try.prog 43 (plainElem (H := Value) Try.prog 3) (w.heap.size + 1) k D ∧ SetHd D (l.take k)) ∧ wr.heap[w.heap.size]? = some (.cells h.row 43 (0, 0)) ∧ Below w.heap.size w wr ∧ w.heap.size + 2 ≤ wr.heap.size) (fun i _ => n - (intOf i).toNat)
  case atStart => exact ⟨0, Nat.zero_le _, rfl, ⟨_, hlk9, SetHd.nil⟩, hq1, hb1, hs1⟩
  case round =>
    obtain ⟨k, hk, rfl, ⟨D, hm, hD⟩, hq, hbel, hsz⟩ := hrel
    by_cases hlt : k < n
    rotate_left
    · obtain rfl : k = n := by omega
      have d9 : decide ((k : Int) < (k : Int)) = false := decide_eq_false (by omega)
      have d9n : decide (k < k) = false := decide_eq_false hlt
      rw [List.take_of_length_le (by rw [HN.out]; exact Nat.le_refl _)] at hD
      have hD := hD h hw
      rw [HR.out] at hD
      go_wp2_with (first | (refine wpList_loadHd (.tmp 2) rfl w.heap.size 0 rfl h (hd_range hq) (by rfl) ?_) | (at_lookup; refine wpList_lookup_own_ok_int _ rfl _ _ 150 rfl 43 3 .i64 hd_keyed Try.underlying150 Try.underlying3 (by kernel_rfl) (w.heap.size + 1) k D rfl hm _ _ rfl (Hd.key hw) ?_; intro c9 hat9 hwc9; rw [hD]))
      go_ret
      exact ⟨by first | rfl | simp, hbel⟩
    have d9 : decide ((k : Int) < (n : Int)) = true := decide_eq_true (by omega)
    have d9n : decide (k < n) = true := decide_eq_true hlt
    have hkl : k < l.length := by rw [HN.out]; exact hlt
    obtain ⟨b1, o1, rfl, hbx, hg1⟩ := hds_at (hr.below hbel) hkl
    have hwx := HL.out l[k] (List.getElem_mem hkl)
    have HTK := Lib.hid (List.take_succ_eq_append_getElem hkl)
    obtain ⟨x, hx9⟩ : ∃ x, l[k] = x := ⟨_, rfl⟩
    rw [hx9] at hg1 hwx HTK
    clear hx9
    have hA : (wr.alloc (.cells zeroHd.row 43)).heap[wr.heap.size]? = some (.cells zeroHd.row 43 (0, 0)) := heap_push wr zeroHd.row 43
    have hz2 : ((wr.alloc (.cells zeroHd.row 43)).setRow wr.heap.size x.row).heap[wr.heap.size]? = some (.cells x.row 43 (0, 0)) := setRow_heap _ _ zeroHd.row _ _ _ hA
    have hbw : Below wr.heap.size wr ((wr.alloc (.cells zeroHd.row 43)).setRow wr.heap.size x.row) := below_setRow ((Below.refl _ _).alloc (Nat.le_refl _) _) (Nat.le_refl _) _
    have hm2 := hm.kept (grown_below hbw) (by simp)
    have hbw2 := hbel.trans (hbw.mono hbel.size)
    have hq2 := cells_of hq hbw (by omega)
    have hsz2 := hbw.size
    have n0 : (0 : Int) ≤ (k : Int) := by omega
    have n1 : (k : Int) < (n : Int) := by omega
    have n2 : ((k : Nat) : Int).toNat = k := by omega
    have hwk : (Lit.int .i64 (k : Int)).wf = true := wf_i64 (by omega) (by omega)
    go_wp2_with (first | (refine wpList_loadHd (.tmp 18) rfl b1 (o1 + k * 34) rfl x hg1 (by rfl) ?_) | (refine wpList_storeRowTo rfl (.tmp 7) (.tmp 19) 43 rfl (infoHd_row _) rfl rfl (heap_push wr zeroHd.row 43) (by rw [Hd.row_size, Hd.row_size]) (Hd.row_one _) ?_) | (refine wpList_loadHd (.tmp 7) rfl wr.heap.size 0 rfl x (hd_range hz2) (by rfl) ?_) | (at_mapUpdate; refine wpList_mapUpdate_own _ rfl _ _ _ 150 rfl 43 3 hd_keyed Try.underlying150 (plainElem (H := Value) Try.prog 3) (w.heap.size + 1) k D rfl hm2 (by unfold maxLen; omega) _ _ x.lit rfl rfl (Hd.key hwx) (.lit (.int .i64 (k : Int))) [] (plainElem_int Try.underlying3 hwk) ?_; intro w9 hown9 hgr9))
    have hgs := hgr9.size
    have hb9 : Below w.heap.size w w9 := hbw2.grown hgr9 (by omega) (fun j hj => by cases hj; omega)
    go_roundw
    case rel => exact ⟨k + 1, by omega, by go_num, ⟨_, hown9, by rw [HTK.out]; exact hD.put hm.isMap hwx _⟩, grown_at hgr9 hq2 (by simp), hb9, Nat.le_trans hsz (Nat.le_trans hbw.size hgr9.size)⟩
    case measure => (simp [intOf]) <;> omega
set_option maxRecDepth 100000 in
set_option maxHeartbeats 3200000 in
theorem clCheck_any (g b nn : Nat) (m : List Hd) (h : Hd) (hw : h.wf) (a : Option Addr) (n cap : Nat) (l : List Hd) (w : World) (hc : ClAt w g b nn m) (hr : RowAt w a (l.flatMap Hd.L)) (hn : l.length = n) (hn6 : n ≤ 100000) (hl : ∀ x ∈ l, x.wf) :
    Calls Try.prog 20 #[.pointer (some ⟨g, 0, none⟩), .agg h.row, .slice a n cap] w fun e w' => e = .returned (.int .i64 (chkF m h l)) ∧ Below w.heap.size w w' := by
  have hq0 := heap_push w h.row 43
  have hb0 : Below w.heap.size w (w.alloc (.cells h.row 43)) := (Below.refl _ _).alloc (Nat.le_refl _) _
  have hs0 : (w.alloc (.cells h.row 43)).heap.size = w.heap.size + 1 := by simp
  have hc0 := hc.kept hb0
  have CA := auth_any h hw a n cap l (w.alloc (.cells h.row 43)) (hr.below hb0) hn hn6 hl
  have p0 : (w.alloc (.cells h.row 43)).cell? ⟨w.heap.size, 0, none⟩ = some (.int .i64 h.ht) := (cell_heap hq0 0).trans h.at0
  have p1 : (w.alloc (.cells h.row 43)).cell? ⟨w.heap.size, 1, none⟩ = some (.int .i64 h.tm) := (cell_heap hq0 1).trans h.at1
  obtain ⟨r, hrr⟩ : ∃ r, chkF m h l = r := ⟨_, rfl⟩
  rw [hrr]
  have HR := Lib.hid hrr
  clear hrr
  have HS0 := Lib.hid hs0
  clear hs0 hn hl hr
  by_cases t0 : 1 ≤ h.ht
  rotate_left
  · obtain rfl : r = 1 := by rw [← HR.out]; unfold chkF; rw [if_neg (by unfold mayHd; simp; omega)]
    have d0 : decide (h.ht < 1) = true := decide_eq_true (by omega)
    clear t0
    go_enter Try.func20, Try.ntmps20
    go_wp2
    go_ret
    exact ⟨by first | rfl | simp, hb0⟩
  by_cases t1 : h.ht ≤ 1099511627776
  rotate_left
  · obtain rfl : r = 1 := by rw [← HR.out]; unfold chkF; rw [if_neg (by unfold mayHd; simp; omega)]
    have d0 : decide (h.ht < 1) = false := decide_eq_false (by omega)
    have d1 : decide (h.ht > 1099511627776) = true := decide_eq_true (by omega)
    have d1g : decide (1099511627776 < h.ht) = true := decide_eq_true (by omega)
    clear t0 t1
    go_enter Try.func20, Try.ntmps20
    go_wp2
    go_ret
    exact ⟨by first | rfl | simp, hb0⟩
  by_cases t2 : 0 ≤ h.tm
  rotate_left
  · obtain rfl : r = 1 := by rw [← HR.out]; unfold chkF; rw [if_neg (by unfold mayHd; simp; omega)]
    have d0 : decide (h.ht < 1) = false := decide_eq_false (by omega)
    have d1 : decide (h.ht > 1099511627776) = false := decide_eq_false (by omega)
    have d1g : decide (1099511627776 < h.ht) = false := decide_eq_false (by omega)
    have d2 : decide (h.tm < 0) = true := decide_eq_true (by omega)
    clear t0 t1 t2
    go_enter Try.func20, Try.ntmps20
    go_wp2
    go_ret
    exact ⟨by first | rfl | simp, hb0⟩
  by_cases t3 : h.tm ≤ 1099511627776
  rotate_left
  · obtain rfl : r = 1 := by rw [← HR.out]; unfold chkF; rw [if_neg (by unfold mayHd; simp; omega)]
    have d0 : decide (h.ht < 1) = false := decide_eq_false (by omega)
    have d1 : decide (h.ht > 1099511627776) = false := decide_eq_false (by omega)
    have d1g : decide (1099511627776 < h.ht) = false := decide_eq_false (by omega)
    have d2 : decide (h.tm < 0) = false := decide_eq_false (by omega)
    have d3 : decide (h.tm > 1099511627776) = true := decide_eq_true (by omega)
    have d3g : decide (1099511627776 < h.tm) = true := decide_eq_true (by omega)
    clear t0 t1 t2 t3
    go_enter Try.func20, Try.ntmps20
    go_wp2
    go_ret
    exact ⟨by first | rfl | simp, hb0⟩
  have d0 : decide (h.ht < 1) = false := decide_eq_false (by omega)
  have d1 : decide (h.ht > 1099511627776) = false := decide_eq_false (by omega)
  have d1g : decide (1099511627776 < h.ht) = false := decide_eq_false (by omega)
  have d2 : decide (h.tm < 0) = false := decide_eq_false (by omega)
  have d3 : decide (h.tm > 1099511627776) = false := decide_eq_false (by omega)
  have d3g : decide (1099511627776 < h.tm) = false := decide_eq_false (by omega)
  have hmay : mayHd h = true := by unfold mayHd; rw [decide_eq_true t0, decide_eq_true t1, decide_eq_true t2, decide_eq_true t3]; rfl
  have HMY := Lib.hid hmay
  clear t0 t1 t2 t3 hmay
  by_cases hin : h ∈ l
  rotate_left
  · obtain rfl : r = 9 := by rw [← HR.out]; unfold chkF; rw [if_pos HMY.out, if_neg hin]
    rw [decide_eq_false hin] at CA
    clear hin
    go_enter Try.func20, Try.ntmps20
    go_wp2_with (first | (refine wpList_loadHd (.tmp 4) rfl w.heap.size 0 rfl h (hd_range hq0) (by rfl) ?_) | (go_at_call 52; refine CA.mono ?_; rintro e w2 ⟨rfl, hb2⟩))
    go_ret
    exact ⟨by first | rfl | simp, hb0.trans (hb2.mono hb0.size)⟩
  rw [decide_eq_true hin] at CA
  have HIN := Lib.hid hin
  clear hin
  have CS := fun W (hb : Below (w.alloc (.cells h.row 43)).heap.size (w.alloc (.cells h.row 43)) W) => clState_any g b nn m h.ht W (hc0.kept hb) hw.1
  obtain ⟨kv, hkv⟩ : ∃ x, knownV m h.ht = x := ⟨_, rfl⟩
  obtain ⟨kb, hkb⟩ : ∃ x, knownB m h.ht = x := ⟨_, rfl⟩
  simp only [hkv, hkb] at CS
  have HC : Hid (r = if kb = true ∧ kv ≠ h then 8 else 0) := Lib.hid (by rw [← HR.out, ← hkv, ← hkb]; unfold chkF; rw [if_pos HMY.out, if_pos HIN.out])
  clear hkv hkb
  cases kb
  · obtain rfl : r = 0 := by rw [HC.out]; rfl
    go_enter Try.func20, Try.ntmps20
    go_wp2_with (first | (refine wpList_loadHd (.tmp 4) rfl w.heap.size 0 rfl h (hd_range hq0) (by rfl) ?_) | (go_at_call 52; refine CA.mono ?_; rintro e w2 ⟨rfl, hb2⟩; have p2 : w2.cell? ⟨w.heap.size, 0, none⟩ = some (.int .i64 h.ht) := (hb2.cell (p := ⟨w.heap.size, 0, none⟩) (by rw [HS0.out]; exact Nat.lt_succ_self _)).trans p0; have hq2 := cells_of hq0 hb2 (by rw [HS0.out]; exact Nat.lt_succ_self _)) | (go_at_call 23; refine (CS _ hb2).mono ?_; rintro e w3 ⟨rfl, hb3⟩; have hq3 := cells_of hq2 hb3 (Nat.lt_of_lt_of_le (by rw [HS0.out]; exact Nat.lt_succ_self _) hb2.size); have hA3 := heap_push w3 zeroHd.row 43; have hz3 := setRow_heap _ _ zeroHd.row kv.row _ _ hA3; have hbw3 : Below w3.heap.size w3 ((w3.alloc (.cells zeroHd.row 43)).setRow w3.heap.size kv.row) := below_setRow ((Below.refl _ _).alloc (Nat.le_refl _) _) (Nat.le_refl _) _; have hq4 := cells_of hq3 hbw3 (row_lt hq3)) | (refine wpList_storeRowTo rfl (.tmp 7) (.tmp 36) 43 rfl (infoHd_row _) rfl rfl (heap_push _ zeroHd.row 43) (by rw [Hd.row_size, Hd.row_size]) (Hd.row_one _) ?_) | (refine wpList_loadHd (.tmp 7) rfl w3.heap.size 0 rfl kv (hd_range hz3) (by rfl) ?_) | (refine wpList_loadHd (.tmp 4) rfl w.heap.size 0 rfl h (hd_range hq4) (by rfl) ?_))
    go_ret
    exact ⟨by first | rfl | simp, ((hb0.trans (hb2.mono hb0.size)).trans (hb3.mono (Nat.le_trans hb0.size hb2.size))).trans (hbw3.mono (Nat.le_trans hb0.size (Nat.le_trans hb2.size hb3.size)))⟩
  have hne := fun W => run_equal_hd kv h W
  by_cases hk : kv = h
  · obtain rfl : r = 0 := by rw [HC.out, if_neg (by simp [hk])]
    rw [decide_eq_true hk] at hne
    clear hk
    go_enter Try.func20, Try.ntmps20
    go_wp2_with (first | (refine wpList_loadHd (.tmp 4) rfl w.heap.size 0 rfl h (hd_range hq0) (by rfl) ?_) | (go_at_call 52; refine CA.mono ?_; rintro e w2 ⟨rfl, hb2⟩; have p2 : w2.cell? ⟨w.heap.size, 0, none⟩ = some (.int .i64 h.ht) := (hb2.cell (p := ⟨w.heap.size, 0, none⟩) (by rw [HS0.out]; exact Nat.lt_succ_self _)).trans p0; have hq2 := cells_of hq0 hb2 (by rw [HS0.out]; exact Nat.lt_succ_self _)) | (go_at_call 23; refine (CS _ hb2).mono ?_; rintro e w3 ⟨rfl, hb3⟩; have hq3 := cells_of hq2 hb3 (Nat.lt_of_lt_of_le (by rw [HS0.out]; exact Nat.lt_succ_self _) hb2.size); have hA3 := heap_push w3 zeroHd.row 43; have hz3 := setRow_heap _ _ zeroHd.row kv.row _ _ hA3; have hbw3 : Below w3.heap.size w3 ((w3.alloc (.cells zeroHd.row 43)).setRow w3.heap.size kv.row) := below_setRow ((Below.refl _ _).alloc (Nat.le_refl _) _) (Nat.le_refl _) _; have hq4 := cells_of hq3 hbw3 (row_lt hq3)) | (refine wpList_storeRowTo rfl (.tmp 7) (.tmp 36) 43 rfl (infoHd_row _) rfl rfl (heap_push _ zeroHd.row 43) (by rw [Hd.row_size, Hd.row_size]) (Hd.row_one _) ?_) | (refine wpList_loadHd (.tmp 7) rfl w3.heap.size 0 rfl kv (hd_range hz3) (by rfl) ?_) | (refine wpList_loadHd (.tmp 4) rfl w.heap.size 0 rfl h (hd_range hq4) (by rfl) ?_))
    go_ret
    exact ⟨by first | rfl | simp, ((hb0.trans (hb2.mono hb0.size)).trans (hb3.mono (Nat.le_trans hb0.size hb2.size))).trans (hbw3.mono (Nat.le_trans hb0.size (Nat.le_trans hb2.size hb3.size)))⟩
  · obtain rfl : r = 8 := by rw [HC.out, if_pos ⟨rfl, hk⟩]
    rw [decide_eq_false hk] at hne
    clear hk
    go_enter Try.func20, Try.ntmps20
    go_wp2_with (first | (refine wpList_loadHd (.tmp 4) rfl w.heap.size 0 rfl h (hd_range hq0) (by rfl) ?_) | (go_at_call 52; refine CA.mono ?_; rintro e w2 ⟨rfl, hb2⟩; have p2 : w2.cell? ⟨w.heap.size, 0, none⟩ = some (.int .i64 h.ht) := (hb2.cell (p := ⟨w.heap.size, 0, none⟩) (by rw [HS0.out]; exact Nat.lt_succ_self _)).trans p0; have hq2 := cells_of hq0 hb2 (by rw [HS0.out]; exact Nat.lt_succ_self _)) | (go_at_call 23; refine (CS _ hb2).mono ?_; rintro e w3 ⟨rfl, hb3⟩; have hq3 := cells_of hq2 hb3 (Nat.lt_of_lt_of_le (by rw [HS0.out]; exact Nat.lt_succ_self _) hb2.size); have hA3 := heap_push w3 zeroHd.row 43; have hz3 := setRow_heap _ _ zeroHd.row kv.row _ _ hA3; have hbw3 : Below w3.heap.size w3 ((w3.alloc (.cells zeroHd.row 43)).setRow w3.heap.size kv.row) := below_setRow ((Below.refl _ _).alloc (Nat.le_refl _) _) (Nat.le_refl _) _; have hq4 := cells_of hq3 hbw3 (row_lt hq3)) | (refine wpList_storeRowTo rfl (.tmp 7) (.tmp 36) 43 rfl (infoHd_row _) rfl rfl (heap_push _ zeroHd.row 43) (by rw [Hd.row_size, Hd.row_size]) (Hd.row_one _) ?_) | (refine wpList_loadHd (.tmp 7) rfl w3.heap.size 0 rfl kv (hd_range hz3) (by rfl) ?_) | (refine wpList_loadHd (.tmp 4) rfl w.heap.size 0 rfl h (hd_range hq4) (by rfl) ?_))
    go_ret
    exact ⟨by first | rfl | simp, ((hb0.trans (hb2.mono hb0.size)).trans (hb3.mono (Nat.le_trans hb0.size hb2.size))).trans (hbw3.mono (Nat.le_trans hb0.size (Nat.le_trans hb2.size hb3.size)))⟩
theorem step_loadHd {ops : Array Oper} {o : Oper} {a : Act} {w : World} {K : Act → World → Prop} {Q : Exit → Act → World → Prop} {E : Prop} (x : Operand) (ho : o.op = .load 43 x) (hw : Region.wanted o (yielded ops a.tmps) = true)
    (b off : Nat) (hx : a.eval x = .pointer (some ⟨b, off, none⟩)) (h : Hd) (hc : w.rangeAt b off h.L) (hK : K (a.put o.dst (.agg h.row)) w) :
    if Region.wanted o (yielded ops a.tmps) = true then Oper.wp Try.prog o a w K Q else E := by
  rw [if_pos hw]
  exact wp_load_mid 43 x ho b off hx h.L _ hc Try.underlying43 rfl (by rw [h.L_len]; exact Try.infoHd) hK
theorem step_mapUpdate_own {H : Type} {P : Program} {w : World} {ops : Array Oper} {o : Oper} {a : Act} {K : Act → World → Prop} {Q : Exit → Act → World → Prop} {E : Prop}
    (hgd : o.guard = none) (m x v : Operand) (t : TypeId) (hop : o.op = Op.mapUpdate t m x v)
    (k e : TypeId) (Kd : Maps.Keyed P k) (ht : P.underlying t = some (.map k e)) (R : Value → Option (DataW H × List MemPlace)) (b n : Nat) (D : DataW H)
    (hm : a.eval m = .map (some b)) (hown : w.ownsMap P k R b n D) (hn : n < maxLen) (key val : Value) (kl : Lit) (hx : a.eval x = key) (hv : a.eval v = val) (hkey : keyOf P k key = some kl)
    (d : DataW H) (ps : List MemPlace) (hval : R val = some (d, ps))
    (hK : ∀ w', w'.ownsMap P k R b (n + 1) (D.put kl d) → w.grownBy w' (some b) → K (a.put o.dst undef) w') :
    if Region.wanted o (yielded ops a.tmps) = true then Oper.wp P o a w K Q else E := by
  have hw : Region.wanted o (yielded ops a.tmps) = true := by simp [Region.wanted, hgd]
  rw [if_pos hw]
  obtain ⟨w', hrun, r1, r2⟩ := hown.update Kd ht hn hkey hval
  unfold Oper.wp
  simp [execOp, hop, hm, hx, hv, hrun, Result.andThen]
  exact hK w' r1 r2
def updB (m : List Hd) (h : Hd) (told : List Hd) : Bool := decide (chkF m h told = 0) && !knownB m h.ht
def updM (m : List Hd) (h : Hd) (told : List Hd) : List Hd := if chkF m h told = 0 then insH m h else m
set_option maxRecDepth 100000 in
set_option maxHeartbeats 6400000 in
theorem clUpd_any (g b nn : Nat) (m : List Hd) (h : Hd) (hw : h.wf) (a : Option Addr) (n cap : Nat) (l : List Hd) (w : World) (hc : ClAt w g b nn m) (hnn : nn < maxLen) (hr : RowAt w a (l.flatMap Hd.L)) (hn : l.length = n) (hn6 : n ≤ 100000) (hl : ∀ x ∈ l, x.wf) :
    Calls Try.prog 21 #[.pointer (some ⟨g, 0, none⟩), .agg h.row, .slice a n cap] w fun e w' => e = .returned (.tuple #[.bool (updB m h l), .int .i64 (chkF m h l)]) ∧ ClAt w' g b (nn + 1) (updM m h l) ∧ w.grownBy w' (some b) := by
  have hq0 := heap_push w h.row 43
  have hb0 : Below w.heap.size w (w.alloc (.cells h.row 43)) := (Below.refl _ _).alloc (Nat.le_refl _) _
  have hs0 : (w.alloc (.cells h.row 43)).heap.size = w.heap.size + 1 := by simp
  have hc0 := hc.kept hb0
  have CK := clCheck_any g b nn m h hw a n cap l (w.alloc (.cells h.row 43)) hc0 (hr.below hb0) hn hn6 hl
  have HS0 := Lib.hid hs0
  obtain ⟨hrs, hms, hln, hgc, D, hm, hD⟩ := hc
  have hgl := row_lt hgc
  have hgb : g ≠ b := fun e => by
    obtain ⟨es, clock, h4, _⟩ := hm
    rw [e, h4] at hgc; cases hgc
  clear hs0 hn hl hr
  by_cases hz : chkF m h l = 0
  rotate_left
  · have hB : updB m h l = false := by unfold updB; rw [decide_eq_false hz]; rfl
    have hM : updM m h l = m := if_neg hz
    rw [hB, hM]
    obtain ⟨r, hrr⟩ : ∃ r, chkF m h l = r := ⟨_, rfl⟩
    rw [hrr] at CK hz ⊢
    have hzb : (r != 0) = true := by simpa using hz
    have hzc : (r == 0) = false := by simpa using hz
    have HC0 := Lib.hid hc0
    clear hrr hB hM hD
    go_enter Try.func21, Try.ntmps21
    go_wp2_with (first | (refine wpList_loadHd (.tmp 4) rfl w.heap.size 0 rfl h (hd_range hq0) (by rfl) ?_) | (go_at_call 20; refine CK.mono ?_; rintro e w2 ⟨rfl, hb2⟩))
    go_returns
    have h9 := HC0.out.kept hb2
    exact ⟨by first | rfl | simp, ⟨h9.1, h9.2.1, Nat.le_succ_of_le h9.2.2.1, h9.2.2.2.1, h9.2.2.2.2.choose, h9.2.2.2.2.choose_spec.1.mono (Nat.le_succ _), h9.2.2.2.2.choose_spec.2⟩, (grown_below (hb0.trans (hb2.mono hb0.size))).but _⟩
  have hB : updB m h l = !knownB m h.ht := by unfold updB; rw [decide_eq_true hz]; rfl
  have hM : updM m h l = insH m h := if_pos hz
  have hmy : mayHd h = true := by
    cases h9 : mayHd h with
    | true => rfl
    | false => unfold chkF at hz; rw [h9] at hz; simp at hz
  rw [hB, hM, hz]
  rw [hz] at CK
  have CS := fun W (hb : Below (w.alloc (.cells h.row 43)).heap.size (w.alloc (.cells h.row 43)) W) => clState_any g b nn m h.ht W (hc0.kept hb) hw.1
  have hlen : (insH m h).length ≤ nn + 1 := by rw [insH_len hrs]; split <;> omega
  have hrs2 := insH_rises hrs h
  have hms2 : ∀ x ∈ insH m h, mayHd x = true := fun x hx => by
    rcases insH_mem.1 hx with rfl | ⟨h1, _⟩
    · exact hmy
    · exact hms x h1
  have HD2 := Lib.hid (hD.put hm.isMap hrs (x := h) hw.1)
  obtain ⟨R, hR⟩ : ∃ R, insH m h = R := ⟨_, rfl⟩
  rw [hR] at hlen hrs2 hms2 HD2 ⊢
  obtain ⟨kv, hkv⟩ : ∃ x, knownV m h.ht = x := ⟨_, rfl⟩
  obtain ⟨kb, hkb⟩ : ∃ x, knownB m h.ht = x := ⟨_, rfl⟩
  simp only [hkv, hkb] at CS
  rw [hkb]
  have HX := Lib.hid hrs2
  have HY := Lib.hid hms2
  clear hB hM hz hmy hR hkv hkb hD hrs hms hrs2 hms2
  go_enter Try.func21, Try.ntmps21
  go_wp2_with (first | (refine wpList_loadHd (.tmp 4) rfl w.heap.size 0 rfl h (hd_range hq0) (by rfl) ?_) | (go_at_call 20; refine CK.mono ?_; rintro e w2 ⟨rfl, hb2⟩; have hq2 := cells_of hq0 hb2 (by rw [HS0.out]; exact Nat.lt_succ_self _); have p2 : w2.cell? ⟨w.heap.size, 0, none⟩ = some (.int .i64 h.ht) := (cell_heap hq2 0).trans h.at0) | (go_at_call 23; refine (CS _ hb2).mono ?_; rintro e w3 ⟨rfl, hb3⟩; have hq3 := cells_of hq2 hb3 (Nat.lt_of_lt_of_le (by rw [HS0.out]; exact Nat.lt_succ_self _) hb2.size); have hA3 := heap_push w3 zeroHd.row 43; have hbw3 : Below w3.heap.size w3 ((w3.alloc (.cells zeroHd.row 43)).setRow w3.heap.size kv.row) := below_setRow ((Below.refl _ _).alloc (Nat.le_refl _) _) (Nat.le_refl _) _) | (refine wpList_storeRowTo rfl (.tmp 9) (.tmp 23) 43 rfl (infoHd_row _) rfl rfl hA3 (by rw [Hd.row_size, Hd.row_size]) (Hd.row_one _) ?_))
  refine wp_nameE _ (fun W5 hW5 => ?_)
  have hbw5 : Below w3.heap.size w3 W5 := by rw [hW5]; exact hbw3
  have hq5 : W5.drew.heap[w.heap.size]? = some (.cells h.row 43 (0, 0)) := cells_of hq3 hbw5.drew (row_lt hq3)
  have hb5 : Below w.heap.size w W5 := ((hb0.trans (hb2.mono hb0.size)).trans (hb3.mono (Nat.le_trans hb0.size hb2.size))).trans (hbw5.mono (Nat.le_trans hb0.size (Nat.le_trans hb2.size hb3.size)))
  clear hW5
  have hm5 : W5.drew.ownsMap Try.prog 3 hdR b nn D := hm.kept (grown_below hb5.drew) (by simp)
  have hg5 := cells_of hgc hb5 hgl
  have c0 : W5.cell? ⟨g, 0, none⟩ = some (.map (some b)) := cell_heap hg5 0
  have c1 : W5.cell? ⟨w.heap.size, 0, none⟩ = some (.int .i64 h.ht) := (cell_heap hq5 0).trans h.at0
  have FIN : ∀ w6, w6.ownsMap Try.prog 3 hdR b (nn + 1) (D.put (.int .i64 h.ht) (.held (.agg h.row))) → W5.drew.grownBy w6 (some b) → ClAt w6 g b (nn + 1) R ∧ w.grownBy w6 (some b) := fun w6 h1 h2 =>
    ⟨⟨HX.out, HY.out, hlen, grown_at h2 hg5 (by simpa using hgb), _, h1, HD2.out⟩, ((grown_below hb5.drew).but (some b)).andThen h2 (fun j hj => .inr (hj.symm ▸ rfl))⟩
  clear hA3 hbw3 p2 hq0 hq2 hq3 CK CS hc0 hb0 hb2 hb3 hbw5
  refine wp_region_any (by kernel_rfl) ?_
  change wpAny _ _ _ _ _ _ _ (World.drew _)
  refine wpAny_take (i := 0) (v := .pointer (some ⟨g, 0, none⟩)) rfl (by kernel_rfl) (by kernel_rfl) (by kernel_rfl) (fun _ _ _ h => h) (Or.inl ⟨by rfl, fun w9 => by (go_simp; try with_reducible rfl)⟩) ?_
  change wpAny _ _ _ _ _ _ (Act.put _ (some 25) _) _; dsimp only [Act.put]; simp only [List.setIfInBounds_toArray, List.set_cons_succ, List.set_cons_zero]
  refine wpAny_take (i := 1) (v := .pointer (some ⟨g, 0, none⟩)) rfl (by kernel_rfl) (by kernel_rfl) (by kernel_rfl) (fun _ _ _ h => h) (Or.inl ⟨by rfl, fun w9 => by (go_simp; try with_reducible rfl)⟩) ?_
  change wpAny _ _ _ _ _ _ (Act.put _ (some 26) _) _; dsimp only [Act.put]; simp only [List.setIfInBounds_toArray, List.set_cons_succ, List.set_cons_zero]
  refine wpAny_take (i := 2) (v := .pointer (some ⟨g, 0, none⟩)) rfl (by kernel_rfl) (by kernel_rfl) (by kernel_rfl) (fun _ _ _ h => h) (Or.inl ⟨by rfl, fun w9 => by (go_simp; try with_reducible rfl)⟩) ?_
  change wpAny _ _ _ _ _ _ (Act.put _ (some 27) _) _; dsimp only [Act.put]; simp only [List.setIfInBounds_toArray, List.set_cons_succ, List.set_cons_zero]
  refine wpAny_take (i := 4) (v := .pointer (some ⟨w.heap.size, 0, none⟩)) rfl (by kernel_rfl) (by kernel_rfl) (by kernel_rfl) (fun _ _ _ h => h) (Or.inl ⟨by rfl, fun w9 => by (go_simp; try with_reducible rfl)⟩) ?_
  change wpAny _ _ _ _ _ _ (Act.put _ (some 29) _) _; dsimp only [Act.put]; simp only [List.setIfInBounds_toArray, List.set_cons_succ, List.set_cons_zero]
  refine wpAny_ready (rs := [3, 5, 6]) (by kernel_rfl) (by simp) ?_
  refine (AllReady.cons rfl (fun K hK => ?_) (AllReady.cons rfl (fun K hK => ?_) (AllReady.cons rfl (fun K hK => ?_) AllReady.nil)))
  · go_simp
    refine hK _ _ ?_
    clear hK K
    refine wpAny_ready (rs := [5, 6]) (by kernel_rfl) (by simp) ?_
    refine (AllReady.cons rfl (fun K hK => ?_) (AllReady.cons rfl (fun K hK => ?_) AllReady.nil))
    · go_simp
      refine hK _ _ ?_
      clear hK K
      refine wpAny_ready (rs := [6]) (by kernel_rfl) (by simp) ?_
      refine (AllReady.cons rfl (fun K hK => ?_) AllReady.nil)
      refine step_loadHd (.tmp 4) rfl (by rfl) w.heap.size 0 (by first | rfl | simp [Act.eval, Act.put]) h (hd_range hq5) ?_
      refine hK _ _ ?_
      clear hK K
      change wpAny _ _ _ _ _ _ (Act.put _ (some 31) _) _; dsimp only [Act.put]; simp only [List.setIfInBounds_toArray, List.set_cons_succ, List.set_cons_zero]
      refine wpAny_ready (rs := [7]) (by kernel_rfl) (by simp) ?_
      refine (AllReady.cons rfl (fun K hK => ?_) AllReady.nil)
      refine step_mapUpdate_own (w := W5.drew) rfl (.tmp 28) (.tmp 30) (.tmp 31) 108 rfl 3 43 int_keyedC Try.underlying108 hdR b nn D (by first | rfl | simp [Act.eval, Act.put]) hm5 hnn _ _ (.int .i64 h.ht) (by first | rfl | simp [Act.eval, Act.put]) (by first | rfl | simp [Act.eval, Act.put]) (Maps.keyOf_int_mk Try.underlying3 hw.1) (.held (.agg h.row)) [] rfl ?_
      intro w6 hm6 hg6
      refine hK _ _ ?_
      clear hK K
      refine wpAny_done (by kernel_rfl) ?_ _
      go_wp2
      obtain ⟨q1, q2⟩ := FIN _ hm6 hg6
      go_returns
      exact ⟨by first | rfl | simp, q1, q2⟩
    · refine step_loadHd (.tmp 4) rfl (by rfl) w.heap.size 0 (by first | rfl | simp [Act.eval, Act.put]) h (hd_range hq5) ?_
      refine hK _ _ ?_
      clear hK K
      change wpAny _ _ _ _ _ _ (Act.put _ (some 31) _) _; dsimp only [Act.put]; simp only [List.setIfInBounds_toArray, List.set_cons_succ, List.set_cons_zero]
      refine wpAny_ready (rs := [5]) (by kernel_rfl) (by simp) ?_
      refine (AllReady.cons rfl (fun K hK => ?_) AllReady.nil)
      go_simp
      refine hK _ _ ?_
      clear hK K
      refine wpAny_ready (rs := [7]) (by kernel_rfl) (by simp) ?_
      refine (AllReady.cons rfl (fun K hK => ?_) AllReady.nil)
      refine step_mapUpdate_own (w := W5.drew) rfl (.tmp 28) (.tmp 30) (.tmp 31) 108 rfl 3 43 int_keyedC Try.underlying108 hdR b nn D (by first | rfl | simp [Act.eval, Act.put]) hm5 hnn _ _ (.int .i64 h.ht) (by first | rfl | simp [Act.eval, Act.put]) (by first | rfl | simp [Act.eval, Act.put]) (Maps.keyOf_int_mk Try.underlying3 hw.1) (.held (.agg h.row)) [] rfl ?_
      intro w6 hm6 hg6
      refine hK _ _ ?_
      clear hK K
      refine wpAny_done (by kernel_rfl) ?_ _
      go_wp2
      obtain ⟨q1, q2⟩ := FIN _ hm6 hg6
      go_returns
      exact ⟨by first | rfl | simp, q1, q2⟩
  · go_simp
    refine hK _ _ ?_
    clear hK K
    refine wpAny_ready (rs := [3, 6]) (by kernel_rfl) (by simp) ?_
    refine (AllReady.cons rfl (fun K hK => ?_) (AllReady.cons rfl (fun K hK => ?_) AllReady.nil))
    · go_simp
      refine hK _ _ ?_
      clear hK K
      refine wpAny_ready (rs := [6]) (by kernel_rfl) (by simp) ?_
      refine (AllReady.cons rfl (fun K hK => ?_) AllReady.nil)
      refine step_loadHd (.tmp 4) rfl (by rfl) w.heap.size 0 (by first | rfl | simp [Act.eval, Act.put]) h (hd_range hq5) ?_
      refine hK _ _ ?_
      clear hK K
      change wpAny _ _ _ _ _ _ (Act.put _ (some 31) _) _; dsimp only [Act.put]; simp only [List.setIfInBounds_toArray, List.set_cons_succ, List.set_cons_zero]
      refine wpAny_ready (rs := [7]) (by kernel_rfl) (by simp) ?_
      refine (AllReady.cons rfl (fun K hK => ?_) AllReady.nil)
      refine step_mapUpdate_own (w := W5.drew) rfl (.tmp 28) (.tmp 30) (.tmp 31) 108 rfl 3 43 int_keyedC Try.underlying108 hdR b nn D (by first | rfl | simp [Act.eval, Act.put]) hm5 hnn _ _ (.int .i64 h.ht) (by first | rfl | simp [Act.eval, Act.put]) (by first | rfl | simp [Act.eval, Act.put]) (Maps.keyOf_int_mk Try.underlying3 hw.1) (.held (.agg h.row)) [] rfl ?_
      intro w6 hm6 hg6
      refine hK _ _ ?_
      clear hK K
      refine wpAny_done (by kernel_rfl) ?_ _
      go_wp2
      obtain ⟨q1, q2⟩ := FIN _ hm6 hg6
      go_returns
      exact ⟨by first | rfl | simp, q1, q2⟩
    · refine step_loadHd (.tmp 4) rfl (by rfl) w.heap.size 0 (by first | rfl | simp [Act.eval, Act.put]) h (hd_range hq5) ?_
      refine hK _ _ ?_
      clear hK K
      change wpAny _ _ _ _ _ _ (Act.put _ (some 31) _) _; dsimp only [Act.put]; simp only [List.setIfInBounds_toArray, List.set_cons_succ, List.set_cons_zero]
      refine wpAny_ready (rs := [3]) (by kernel_rfl) (by simp) ?_
      refine (AllReady.cons rfl (fun K hK => ?_) AllReady.nil)
      go_simp
      refine hK _ _ ?_
      clear hK K
      refine wpAny_ready (rs := [7]) (by kernel_rfl) (by simp) ?_
      refine (AllReady.cons rfl (fun K hK => ?_) AllReady.nil)
      refine step_mapUpdate_own (w := W5.drew) rfl (.tmp 28) (.tmp 30) (.tmp 31) 108 rfl 3 43 int_keyedC Try.underlying108 hdR b nn D (by first | rfl | simp [Act.eval, Act.put]) hm5 hnn _ _ (.int .i64 h.ht) (by first | rfl | simp [Act.eval, Act.put]) (by first | rfl | simp [Act.eval, Act.put]) (Maps.keyOf_int_mk Try.underlying3 hw.1) (.held (.agg h.row)) [] rfl ?_
      intro w6 hm6 hg6
      refine hK _ _ ?_
      clear hK K
      refine wpAny_done (by kernel_rfl) ?_ _
      go_wp2
      obtain ⟨q1, q2⟩ := FIN _ hm6 hg6
      go_returns
      exact ⟨by first | rfl | simp, q1, q2⟩
  · refine step_loadHd (.tmp 4) rfl (by rfl) w.heap.size 0 (by first | rfl | simp [Act.eval, Act.put]) h (hd_range hq5) ?_
    refine hK _ _ ?_
    clear hK K
    change wpAny _ _ _ _ _ _ (Act.put _ (some 31) _) _; dsimp only [Act.put]; simp only [List.setIfInBounds_toArray, List.set_cons_succ, List.set_cons_zero]
    refine wpAny_ready (rs := [3, 5]) (by kernel_rfl) (by simp) ?_
    refine (AllReady.cons rfl (fun K hK => ?_) (AllReady.cons rfl (fun K hK => ?_) AllReady.nil))
    · go_simp
      refine hK _ _ ?_
      clear hK K
      refine wpAny_ready (rs := [5]) (by kernel_rfl) (by simp) ?_
      refine (AllReady.cons rfl (fun K hK => ?_) AllReady.nil)
      go_simp
      refine hK _ _ ?_
      clear hK K
      refine wpAny_ready (rs := [7]) (by kernel_rfl) (by simp) ?_
      refine (AllReady.cons rfl (fun K hK => ?_) AllReady.nil)
      refine step_mapUpdate_own (w := W5.drew) rfl (.tmp 28) (.tmp 30) (.tmp 31) 108 rfl 3 43 int_keyedC Try.underlying108 hdR b nn D (by first | rfl | simp [Act.eval, Act.put]) hm5 hnn _ _ (.int .i64 h.ht) (by first | rfl | simp [Act.eval, Act.put]) (by first | rfl | simp [Act.eval, Act.put]) (Maps.keyOf_int_mk Try.underlying3 hw.1) (.held (.agg h.row)) [] rfl ?_
      intro w6 hm6 hg6
      refine hK _ _ ?_
      clear hK K
      refine wpAny_done (by kernel_rfl) ?_ _
      go_wp2
      obtain ⟨q1, q2⟩ := FIN _ hm6 hg6
      go_returns
      exact ⟨by first | rfl | simp, q1, q2⟩
    · go_simp
      refine hK _ _ ?_
      clear hK K
      refine wpAny_ready (rs := [3]) (by kernel_rfl) (by simp) ?_
      refine (AllReady.cons rfl (fun K hK => ?_) AllReady.nil)
      go_simp
      refine hK _ _ ?_
      clear hK K
      refine wpAny_ready (rs := [7]) (by kernel_rfl) (by simp) ?_
      refine (AllReady.cons rfl (fun K hK => ?_) AllReady.nil)
      refine step_mapUpdate_own (w := W5.drew) rfl (.tmp 28) (.tmp 30) (.tmp 31) 108 rfl 3 43 int_keyedC Try.underlying108 hdR b nn D (by first | rfl | simp [Act.eval, Act.put]) hm5 hnn _ _ (.int .i64 h.ht) (by first | rfl | simp [Act.eval, Act.put]) (by first | rfl | simp [Act.eval, Act.put]) (Maps.keyOf_int_mk Try.underlying3 hw.1) (.held (.agg h.row)) [] rfl ?_
      intro w6 hm6 hg6
      refine hK _ _ ?_
      clear hK K
      refine wpAny_done (by kernel_rfl) ?_ _
      go_wp2
      obtain ⟨q1, q2⟩ := FIN _ hm6 hg6
      go_returns
      exact ⟨by first | rfl | simp, q1, q2⟩
end Go.Proofs.Ytbckncopdkmoeaa
