/- BatchMore walked. -/
import Derived.Test.YthipnkbfdkmhaaaBtF
import Derived.Test.YthipnkbfdkmhaaaBtM
import Derived.Test.YthipnkbfdkmhaaaTx4
import Derived.BigRegion
import Derived.RegionTactic
import Derived.BigQuiet
import Derived.Deep.QuietTactic
import Derived.Deep.MidRow
import Derived.LoopTactic
import Derived.BigFrame
import Derived.WalkKit
import Derived.ProofKit
import Derived.Handy
import Derived.Below
import Derived.Lib.Hide
import Derived.IntWalk
import Derived.Outline
import Derived.WalkLawsBesides
import Derived.WalkSpells
namespace Go.Proofs.Ythipnkbfdkmhaaa
open Go.RowKit
attribute [local go_sem] strV
set_option linter.unusedVariables false
set_option maxRecDepth 100000 in
set_option maxHeartbeats 12800000 in
theorem walkBatchMore (lg lb lc mg mb mc : Int) (a : Option Addr) (n cap : Nat) (up : List MsgV) (b : Option Addr) (n2 cap2 : Nat) (ms : List MsgV) (c : Option Addr) (n3 cap3 : Nat) (gs : List Int) (w : World)
    (hu : RowAt w a (up.flatMap MsgV.cellsL)) (hun : up.length = n) (hucap : n ≤ cap) (hucm : cap ≤ maxLen) (huo : ∀ m ∈ up, m.ok w)
    (hr : RowAt w b (ms.flatMap MsgV.cellsL)) (hn : ms.length = n2) (hcap : n2 ≤ cap2) (hcm : cap2 ≤ maxLen) (hok : ∀ m ∈ ms, m.ok w) (hg : IntsAt w c n3 gs) :
    Calls Try.prog 12 #[.agg #[.int .i64 (lg), .int .i64 (lb), .int .i64 (lc)], .agg #[.int .i64 (mg), .int .i64 (mb), .int .i64 (mc)], .slice a n cap, .slice b n2 cap2, .slice c n3 cap3] w fun e w' => e = .returned (.bool true) ∧ Below w.heap.size w w' := by
  have CLu := fun W (hb : Below w.heap.size w W) => lightMs_any a n cap up W (hu.below hb) (fun m hm => (huo m hm).below hb) hun
  have CLm := fun W (hb : Below w.heap.size w W) => lightMs_any b n2 cap2 ms W (hr.below hb) (fun m hm => (hok m hm).below hb) hn
  obtain ⟨kl, el⟩ : ∃ b, lightMs up = b := ⟨_, rfl⟩
  obtain ⟨km, em⟩ : ∃ b, lightMs ms = b := ⟨_, rfl⟩
  simp only [el] at CLu
  simp only [em] at CLm
  have HLU := Lib.hid el
  have HLM := Lib.hid em
  clear el em
  have z0 := al2_0 w (.cells #[.int .i64 (lg), .int .i64 (lb), .int .i64 (lc)] 58) (.cells #[.int .i64 (mg), .int .i64 (mb), .int .i64 (mc)] 58)
  have z1 := al2_1 w (.cells #[.int .i64 (lg), .int .i64 (lb), .int .i64 (lc)] 58) (.cells #[.int .i64 (mg), .int .i64 (mb), .int .i64 (mc)] 58)
  have zb := al2_below w (.cells #[.int .i64 (lg), .int .i64 (lb), .int .i64 (lc)] 58) (.cells #[.int .i64 (mg), .int .i64 (mb), .int .i64 (mc)] 58)
  go_enter Try.func12, Try.ntmps12
  go_upto_region 1 with fail
  refine wp_nameE _ (fun W1 hX => ?_)
  have hL : W1.heap[w.heap.size]? = some (.cells #[.int .i64 (lg), .int .i64 (lb), .int .i64 (lc)] 58 (0, 0)) := by rw [hX]; exact z0
  have hM : W1.heap[w.heap.size + 1]? = some (.cells #[.int .i64 (mg), .int .i64 (mb), .int .i64 (mc)] 58 (0, 0)) := by rw [hX]; exact z1
  have hbel : Below w.heap.size w W1 := by rw [hX]; exact zb
  clear hX z0 z1 zb
  have hLl : w.heap.size < W1.heap.size := (Array.getElem?_eq_some_iff.1 hL).1
  have hMl : w.heap.size + 1 < W1.heap.size := (Array.getElem?_eq_some_iff.1 hM).1
  go_upto_region 3 with (go_at_call 38; refine (first28_any _).mono ?_; rintro e w2 ⟨rfl, hb⟩; have hL := cells_of hL hb hLl; have hM := cells_of hM hb hMl; have hLl := Nat.lt_of_lt_of_le hLl hb.size; have hMl := Nat.lt_of_lt_of_le hMl hb.size; have hbel := hbel.trans (hb.mono hbel.size); have q0 := cell_heap hL 0; have q1 := cell_heap hL 1; have q2 := cell_heap hL 2; have p0 := cell_heap hM 0; have p1 := cell_heap hM 1; have p2 := cell_heap hM 2; clear hb)
  by_cases h1 : 1 < n
  · have dh1 : decide (1 < (n : Int)) = true := decide_eq_true (by omega)
    have dh1n : decide (1 < n) = true := decide_eq_true (by omega)
    go_wp2_with (first | (go_at_call 38; refine (first28_any _).mono ?_; rintro e w2 ⟨rfl, hb⟩; have hL := cells_of hL hb hLl; have hM := cells_of hM hb hMl; have hLl := Nat.lt_of_lt_of_le hLl hb.size; have hMl := Nat.lt_of_lt_of_le hMl hb.size; have hbel := hbel.trans (hb.mono hbel.size); have q0 := cell_heap hL 0; have q1 := cell_heap hL 1; have q2 := cell_heap hL 2; have p0 := cell_heap hM 0; have p1 := cell_heap hM 1; have p2 := cell_heap hM 2; clear hb) | (go_at_call 27; with_reducible refine (CLu _ hbel).mono ?_; rintro e w2 ⟨rfl, hb⟩; have hL := cells_of hL hb hLl; have hM := cells_of hM hb hMl; have hLl := Nat.lt_of_lt_of_le hLl hb.size; have hMl := Nat.lt_of_lt_of_le hMl hb.size; have hbel := hbel.trans (hb.mono hbel.size); have q0 := cell_heap hL 0; have q1 := cell_heap hL 1; have q2 := cell_heap hL 2; have p0 := cell_heap hM 0; have p1 := cell_heap hM 1; have p2 := cell_heap hM 2; clear hb) | (go_at_call 27; with_reducible refine (CLm _ hbel).mono ?_; rintro e w2 ⟨rfl, hb⟩; have hL := cells_of hL hb hLl; have hM := cells_of hM hb hMl; have hLl := Nat.lt_of_lt_of_le hLl hb.size; have hMl := Nat.lt_of_lt_of_le hMl hb.size; have hbel := hbel.trans (hb.mono hbel.size); have q0 := cell_heap hL 0; have q1 := cell_heap hL 1; have q2 := cell_heap hL 2; have p0 := cell_heap hM 0; have p1 := cell_heap hM 1; have p2 := cell_heap hM 2; clear hb))
    go_ret
    exact ⟨by first | rfl | simp, hbel⟩
  have dh1 : decide (1 < (n : Int)) = false := decide_eq_false (by omega)
  have dh1n : decide (1 < n) = false := decide_eq_false (by omega)
  by_cases h2 : 30 < n2
  · have dh2 : decide (30 < (n2 : Int)) = true := decide_eq_true (by omega)
    have dh2n : decide (30 < n2) = true := decide_eq_true (by omega)
    go_wp2_with (first | (go_at_call 38; refine (first28_any _).mono ?_; rintro e w2 ⟨rfl, hb⟩; have hL := cells_of hL hb hLl; have hM := cells_of hM hb hMl; have hLl := Nat.lt_of_lt_of_le hLl hb.size; have hMl := Nat.lt_of_lt_of_le hMl hb.size; have hbel := hbel.trans (hb.mono hbel.size); have q0 := cell_heap hL 0; have q1 := cell_heap hL 1; have q2 := cell_heap hL 2; have p0 := cell_heap hM 0; have p1 := cell_heap hM 1; have p2 := cell_heap hM 2; clear hb) | (go_at_call 27; with_reducible refine (CLu _ hbel).mono ?_; rintro e w2 ⟨rfl, hb⟩; have hL := cells_of hL hb hLl; have hM := cells_of hM hb hMl; have hLl := Nat.lt_of_lt_of_le hLl hb.size; have hMl := Nat.lt_of_lt_of_le hMl hb.size; have hbel := hbel.trans (hb.mono hbel.size); have q0 := cell_heap hL 0; have q1 := cell_heap hL 1; have q2 := cell_heap hL 2; have p0 := cell_heap hM 0; have p1 := cell_heap hM 1; have p2 := cell_heap hM 2; clear hb) | (go_at_call 27; with_reducible refine (CLm _ hbel).mono ?_; rintro e w2 ⟨rfl, hb⟩; have hL := cells_of hL hb hLl; have hM := cells_of hM hb hMl; have hLl := Nat.lt_of_lt_of_le hLl hb.size; have hMl := Nat.lt_of_lt_of_le hMl hb.size; have hbel := hbel.trans (hb.mono hbel.size); have q0 := cell_heap hL 0; have q1 := cell_heap hL 1; have q2 := cell_heap hL 2; have p0 := cell_heap hM 0; have p1 := cell_heap hM 1; have p2 := cell_heap hM 2; clear hb))
    go_ret
    exact ⟨by first | rfl | simp, hbel⟩
  have dh2 : decide (30 < (n2 : Int)) = false := decide_eq_false (by omega)
  have dh2n : decide (30 < n2) = false := decide_eq_false (by omega)
  cases kl
  · go_wp2_with (first | (go_at_call 38; refine (first28_any _).mono ?_; rintro e w2 ⟨rfl, hb⟩; have hL := cells_of hL hb hLl; have hM := cells_of hM hb hMl; have hLl := Nat.lt_of_lt_of_le hLl hb.size; have hMl := Nat.lt_of_lt_of_le hMl hb.size; have hbel := hbel.trans (hb.mono hbel.size); have q0 := cell_heap hL 0; have q1 := cell_heap hL 1; have q2 := cell_heap hL 2; have p0 := cell_heap hM 0; have p1 := cell_heap hM 1; have p2 := cell_heap hM 2; clear hb) | (go_at_call 27; with_reducible refine (CLu _ hbel).mono ?_; rintro e w2 ⟨rfl, hb⟩; have hL := cells_of hL hb hLl; have hM := cells_of hM hb hMl; have hLl := Nat.lt_of_lt_of_le hLl hb.size; have hMl := Nat.lt_of_lt_of_le hMl hb.size; have hbel := hbel.trans (hb.mono hbel.size); have q0 := cell_heap hL 0; have q1 := cell_heap hL 1; have q2 := cell_heap hL 2; have p0 := cell_heap hM 0; have p1 := cell_heap hM 1; have p2 := cell_heap hM 2; clear hb) | (go_at_call 27; with_reducible refine (CLm _ hbel).mono ?_; rintro e w2 ⟨rfl, hb⟩; have hL := cells_of hL hb hLl; have hM := cells_of hM hb hMl; have hLl := Nat.lt_of_lt_of_le hLl hb.size; have hMl := Nat.lt_of_lt_of_le hMl hb.size; have hbel := hbel.trans (hb.mono hbel.size); have q0 := cell_heap hL 0; have q1 := cell_heap hL 1; have q2 := cell_heap hL 2; have p0 := cell_heap hM 0; have p1 := cell_heap hM 1; have p2 := cell_heap hM 2; clear hb))
    go_ret
    exact ⟨by first | rfl | simp, hbel⟩
  cases km
  · go_wp2_with (first | (go_at_call 38; refine (first28_any _).mono ?_; rintro e w2 ⟨rfl, hb⟩; have hL := cells_of hL hb hLl; have hM := cells_of hM hb hMl; have hLl := Nat.lt_of_lt_of_le hLl hb.size; have hMl := Nat.lt_of_lt_of_le hMl hb.size; have hbel := hbel.trans (hb.mono hbel.size); have q0 := cell_heap hL 0; have q1 := cell_heap hL 1; have q2 := cell_heap hL 2; have p0 := cell_heap hM 0; have p1 := cell_heap hM 1; have p2 := cell_heap hM 2; clear hb) | (go_at_call 27; with_reducible refine (CLu _ hbel).mono ?_; rintro e w2 ⟨rfl, hb⟩; have hL := cells_of hL hb hLl; have hM := cells_of hM hb hMl; have hLl := Nat.lt_of_lt_of_le hLl hb.size; have hMl := Nat.lt_of_lt_of_le hMl hb.size; have hbel := hbel.trans (hb.mono hbel.size); have q0 := cell_heap hL 0; have q1 := cell_heap hL 1; have q2 := cell_heap hL 2; have p0 := cell_heap hM 0; have p1 := cell_heap hM 1; have p2 := cell_heap hM 2; clear hb) | (go_at_call 27; with_reducible refine (CLm _ hbel).mono ?_; rintro e w2 ⟨rfl, hb⟩; have hL := cells_of hL hb hLl; have hM := cells_of hM hb hMl; have hLl := Nat.lt_of_lt_of_le hLl hb.size; have hMl := Nat.lt_of_lt_of_le hMl hb.size; have hbel := hbel.trans (hb.mono hbel.size); have q0 := cell_heap hL 0; have q1 := cell_heap hL 1; have q2 := cell_heap hL 2; have p0 := cell_heap hM 0; have p1 := cell_heap hM 1; have p2 := cell_heap hM 2; clear hb))
    go_ret
    exact ⟨by first | rfl | simp, hbel⟩
  by_cases h3 : 40 < n3
  · have dh3 : decide (40 < (n3 : Int)) = true := decide_eq_true (by omega)
    have dh3n : decide (40 < n3) = true := decide_eq_true (by omega)
    go_wp2_with (first | (go_at_call 38; refine (first28_any _).mono ?_; rintro e w2 ⟨rfl, hb⟩; have hL := cells_of hL hb hLl; have hM := cells_of hM hb hMl; have hLl := Nat.lt_of_lt_of_le hLl hb.size; have hMl := Nat.lt_of_lt_of_le hMl hb.size; have hbel := hbel.trans (hb.mono hbel.size); have q0 := cell_heap hL 0; have q1 := cell_heap hL 1; have q2 := cell_heap hL 2; have p0 := cell_heap hM 0; have p1 := cell_heap hM 1; have p2 := cell_heap hM 2; clear hb) | (go_at_call 27; with_reducible refine (CLu _ hbel).mono ?_; rintro e w2 ⟨rfl, hb⟩; have hL := cells_of hL hb hLl; have hM := cells_of hM hb hMl; have hLl := Nat.lt_of_lt_of_le hLl hb.size; have hMl := Nat.lt_of_lt_of_le hMl hb.size; have hbel := hbel.trans (hb.mono hbel.size); have q0 := cell_heap hL 0; have q1 := cell_heap hL 1; have q2 := cell_heap hL 2; have p0 := cell_heap hM 0; have p1 := cell_heap hM 1; have p2 := cell_heap hM 2; clear hb) | (go_at_call 27; with_reducible refine (CLm _ hbel).mono ?_; rintro e w2 ⟨rfl, hb⟩; have hL := cells_of hL hb hLl; have hM := cells_of hM hb hMl; have hLl := Nat.lt_of_lt_of_le hLl hb.size; have hMl := Nat.lt_of_lt_of_le hMl hb.size; have hbel := hbel.trans (hb.mono hbel.size); have q0 := cell_heap hL 0; have q1 := cell_heap hL 1; have q2 := cell_heap hL 2; have p0 := cell_heap hM 0; have p1 := cell_heap hM 1; have p2 := cell_heap hM 2; clear hb))
    go_ret
    exact ⟨by first | rfl | simp, hbel⟩
  have dh3 : decide (40 < (n3 : Int)) = false := decide_eq_false (by omega)
  have dh3n : decide (40 < n3) = false := decide_eq_false (by omega)
  by_cases h4 : mg < lg
  · have dh4 : decide (mg < lg) = true := decide_eq_true (by omega)
    have dh4n : decide (mg < lg) = true := decide_eq_true (by omega)
    go_wp2_with (first | (go_at_call 38; refine (first28_any _).mono ?_; rintro e w2 ⟨rfl, hb⟩; have hL := cells_of hL hb hLl; have hM := cells_of hM hb hMl; have hLl := Nat.lt_of_lt_of_le hLl hb.size; have hMl := Nat.lt_of_lt_of_le hMl hb.size; have hbel := hbel.trans (hb.mono hbel.size); have q0 := cell_heap hL 0; have q1 := cell_heap hL 1; have q2 := cell_heap hL 2; have p0 := cell_heap hM 0; have p1 := cell_heap hM 1; have p2 := cell_heap hM 2; clear hb) | (go_at_call 27; with_reducible refine (CLu _ hbel).mono ?_; rintro e w2 ⟨rfl, hb⟩; have hL := cells_of hL hb hLl; have hM := cells_of hM hb hMl; have hLl := Nat.lt_of_lt_of_le hLl hb.size; have hMl := Nat.lt_of_lt_of_le hMl hb.size; have hbel := hbel.trans (hb.mono hbel.size); have q0 := cell_heap hL 0; have q1 := cell_heap hL 1; have q2 := cell_heap hL 2; have p0 := cell_heap hM 0; have p1 := cell_heap hM 1; have p2 := cell_heap hM 2; clear hb) | (go_at_call 27; with_reducible refine (CLm _ hbel).mono ?_; rintro e w2 ⟨rfl, hb⟩; have hL := cells_of hL hb hLl; have hM := cells_of hM hb hMl; have hLl := Nat.lt_of_lt_of_le hLl hb.size; have hMl := Nat.lt_of_lt_of_le hMl hb.size; have hbel := hbel.trans (hb.mono hbel.size); have q0 := cell_heap hL 0; have q1 := cell_heap hL 1; have q2 := cell_heap hL 2; have p0 := cell_heap hM 0; have p1 := cell_heap hM 1; have p2 := cell_heap hM 2; clear hb))
    go_ret
    exact ⟨by first | rfl | simp, hbel⟩
  have dh4 : decide (mg < lg) = false := decide_eq_false (by omega)
  have dh4n : decide (mg < lg) = false := decide_eq_false (by omega)
  by_cases h5 : mb < lb
  · have dh5 : decide (mb < lb) = true := decide_eq_true (by omega)
    have dh5n : decide (mb < lb) = true := decide_eq_true (by omega)
    go_wp2_with (first | (go_at_call 38; refine (first28_any _).mono ?_; rintro e w2 ⟨rfl, hb⟩; have hL := cells_of hL hb hLl; have hM := cells_of hM hb hMl; have hLl := Nat.lt_of_lt_of_le hLl hb.size; have hMl := Nat.lt_of_lt_of_le hMl hb.size; have hbel := hbel.trans (hb.mono hbel.size); have q0 := cell_heap hL 0; have q1 := cell_heap hL 1; have q2 := cell_heap hL 2; have p0 := cell_heap hM 0; have p1 := cell_heap hM 1; have p2 := cell_heap hM 2; clear hb) | (go_at_call 27; with_reducible refine (CLu _ hbel).mono ?_; rintro e w2 ⟨rfl, hb⟩; have hL := cells_of hL hb hLl; have hM := cells_of hM hb hMl; have hLl := Nat.lt_of_lt_of_le hLl hb.size; have hMl := Nat.lt_of_lt_of_le hMl hb.size; have hbel := hbel.trans (hb.mono hbel.size); have q0 := cell_heap hL 0; have q1 := cell_heap hL 1; have q2 := cell_heap hL 2; have p0 := cell_heap hM 0; have p1 := cell_heap hM 1; have p2 := cell_heap hM 2; clear hb) | (go_at_call 27; with_reducible refine (CLm _ hbel).mono ?_; rintro e w2 ⟨rfl, hb⟩; have hL := cells_of hL hb hLl; have hM := cells_of hM hb hMl; have hLl := Nat.lt_of_lt_of_le hLl hb.size; have hMl := Nat.lt_of_lt_of_le hMl hb.size; have hbel := hbel.trans (hb.mono hbel.size); have q0 := cell_heap hL 0; have q1 := cell_heap hL 1; have q2 := cell_heap hL 2; have p0 := cell_heap hM 0; have p1 := cell_heap hM 1; have p2 := cell_heap hM 2; clear hb))
    go_ret
    exact ⟨by first | rfl | simp, hbel⟩
  have dh5 : decide (mb < lb) = false := decide_eq_false (by omega)
  have dh5n : decide (mb < lb) = false := decide_eq_false (by omega)
  by_cases h6 : mc < lc
  · have dh6 : decide (mc < lc) = true := decide_eq_true (by omega)
    have dh6n : decide (mc < lc) = true := decide_eq_true (by omega)
    go_wp2_with (first | (go_at_call 38; refine (first28_any _).mono ?_; rintro e w2 ⟨rfl, hb⟩; have hL := cells_of hL hb hLl; have hM := cells_of hM hb hMl; have hLl := Nat.lt_of_lt_of_le hLl hb.size; have hMl := Nat.lt_of_lt_of_le hMl hb.size; have hbel := hbel.trans (hb.mono hbel.size); have q0 := cell_heap hL 0; have q1 := cell_heap hL 1; have q2 := cell_heap hL 2; have p0 := cell_heap hM 0; have p1 := cell_heap hM 1; have p2 := cell_heap hM 2; clear hb) | (go_at_call 27; with_reducible refine (CLu _ hbel).mono ?_; rintro e w2 ⟨rfl, hb⟩; have hL := cells_of hL hb hLl; have hM := cells_of hM hb hMl; have hLl := Nat.lt_of_lt_of_le hLl hb.size; have hMl := Nat.lt_of_lt_of_le hMl hb.size; have hbel := hbel.trans (hb.mono hbel.size); have q0 := cell_heap hL 0; have q1 := cell_heap hL 1; have q2 := cell_heap hL 2; have p0 := cell_heap hM 0; have p1 := cell_heap hM 1; have p2 := cell_heap hM 2; clear hb) | (go_at_call 27; with_reducible refine (CLm _ hbel).mono ?_; rintro e w2 ⟨rfl, hb⟩; have hL := cells_of hL hb hLl; have hM := cells_of hM hb hMl; have hLl := Nat.lt_of_lt_of_le hLl hb.size; have hMl := Nat.lt_of_lt_of_le hMl hb.size; have hbel := hbel.trans (hb.mono hbel.size); have q0 := cell_heap hL 0; have q1 := cell_heap hL 1; have q2 := cell_heap hL 2; have p0 := cell_heap hM 0; have p1 := cell_heap hM 1; have p2 := cell_heap hM 2; clear hb))
    go_ret
    exact ⟨by first | rfl | simp, hbel⟩
  have dh6 : decide (mc < lc) = false := decide_eq_false (by omega)
  have dh6n : decide (mc < lc) = false := decide_eq_false (by omega)
  have hlu : ∀ m ∈ up, lightM m = true := by
    have := HLU.out
    unfold lightMs at this
    rw [Bool.and_eq_true] at this
    exact List.all_eq_true.1 this.2
  have hlm : ∀ m ∈ ms, lightM m = true := by
    have := HLM.out
    unfold lightMs at this
    rw [Bool.and_eq_true] at this
    exact List.all_eq_true.1 this.2
  have CC := fun (a1 a2 a3 : Int) W (hb : Below w.heap.size w W) => bt_cut a1 a2 a3 a n cap up b n2 cap2 ms c n3 cap3 gs W (hu.below hb) hun (fun m hm => (huo m hm).below hb) hlu (hr.below hb) hn (fun m hm => (hok m hm).below hb) hlm (by omega) (hg.row.below hb) hg.length (fun z hz => wf_i64 (hg.wf z hz).1 (hg.wf z hz).2)
  have hsub := cutF_more (l := (lg, lb, lc)) (l' := (mg, mb, mc)) ⟨by show lg ≤ mg; omega, by show lb ≤ mb; omega, by show lc ≤ mc; omega⟩ up ms gs
  obtain ⟨CA, hCA⟩ : ∃ x, cutF (lg, lb, lc) up ms gs = x := ⟨_, rfl⟩
  obtain ⟨CB, hCB⟩ : ∃ x, cutF (mg, mb, mc) up ms gs = x := ⟨_, rfl⟩
  have C1 := CC lg lb lc
  have C2 := CC mg mb mc
  unfold cutPost at C1 C2
  simp only [hCA] at C1
  simp only [hCB] at C2
  rw [hCA, hCB] at hsub
  clear CC hCA hCB hlu hlm
  go_upto_region 6 with (first | (go_at_call 38; refine (first28_any _).mono ?_; rintro e w2 ⟨rfl, hb⟩; have hL := cells_of hL hb hLl; have hM := cells_of hM hb hMl; have hLl := Nat.lt_of_lt_of_le hLl hb.size; have hMl := Nat.lt_of_lt_of_le hMl hb.size; have hbel := hbel.trans (hb.mono hbel.size); have q0 := cell_heap hL 0; have q1 := cell_heap hL 1; have q2 := cell_heap hL 2; have p0 := cell_heap hM 0; have p1 := cell_heap hM 1; have p2 := cell_heap hM 2; clear hb) | (go_at_call 27; with_reducible refine (CLu _ hbel).mono ?_; rintro e w2 ⟨rfl, hb⟩; have hL := cells_of hL hb hLl; have hM := cells_of hM hb hMl; have hLl := Nat.lt_of_lt_of_le hLl hb.size; have hMl := Nat.lt_of_lt_of_le hMl hb.size; have hbel := hbel.trans (hb.mono hbel.size); have q0 := cell_heap hL 0; have q1 := cell_heap hL 1; have q2 := cell_heap hL 2; have p0 := cell_heap hM 0; have p1 := cell_heap hM 1; have p2 := cell_heap hM 2; clear hb) | (go_at_call 27; with_reducible refine (CLm _ hbel).mono ?_; rintro e w2 ⟨rfl, hb⟩; have hL := cells_of hL hb hLl; have hM := cells_of hM hb hMl; have hLl := Nat.lt_of_lt_of_le hLl hb.size; have hMl := Nat.lt_of_lt_of_le hMl hb.size; have hbel := hbel.trans (hb.mono hbel.size); have q0 := cell_heap hL 0; have q1 := cell_heap hL 1; have q2 := cell_heap hL 2; have p0 := cell_heap hM 0; have p1 := cell_heap hM 1; have p2 := cell_heap hM 2; clear hb) | (refine wpList_load_mid rfl 58 (.tmp 5) rfl w.heap.size 0 rfl (#[.int .i64 (lg), .int .i64 (lb), .int .i64 (lc)] : Array Value).toList _ (rangeAt_row5 hL) Try.underlying58 rfl (by rfl) ?_; rw [Array.toArray_toList]) | (go_at_call 39; with_reducible refine (C1 _ hbel).mono ?_; rintro e w3 ⟨tv, sv, vs, base, rfl, hN, hB, hb⟩; have hL := cells_of hL hb hLl; have hM := cells_of hM hb hMl; have hLl := Nat.lt_of_lt_of_le hLl hb.size; have hMl := Nat.lt_of_lt_of_le hMl hb.size; have hbel := hbel.trans (hb.mono hbel.size); have q0 := cell_heap hL 0; have q1 := cell_heap hL 1; have q2 := cell_heap hL 2; have p0 := cell_heap hM 0; have p1 := cell_heap hM 1; have p2 := cell_heap hM 2; clear hb))
  obtain ⟨aA, cA, hsv, hrA, hA1, hA2, _⟩ := own_slice hN.s.1
  subst hsv
  have hrA0 := hrA
  go_upto_region 7 with (first | (refine wpList_load_mid rfl 58 (.tmp 6) rfl w.heap.size + 1 0 rfl (#[.int .i64 (mg), .int .i64 (mb), .int .i64 (mc)] : Array Value).toList _ (rangeAt_row5 hM) Try.underlying58 rfl (by rfl) ?_; rw [Array.toArray_toList]) | (go_at_call 39; with_reducible refine (C2 _ hbel).mono ?_; rintro e w4 ⟨tv2, sv2, vs2, base2, rfl, hN2, hB2, hb⟩; have hrA := hrA.below (hb.mono (Nat.le_refl _)); have hbel := hbel.trans (hb.mono hbel.size); clear hb))
  obtain ⟨aB, cB, hsv2, hrB, hB1, hB2', _⟩ := own_slice hN2.s.1
  subst hsv2
  obtain ⟨A, hA9⟩ : ∃ x, CA.2 = x := ⟨_, rfl⟩
  obtain ⟨B, hB9⟩ : ∃ x, CB.2 = x := ⟨_, rfl⟩
  simp only [hA9] at hrA hA1 hsub ⊢
  simp only [hB9] at hrB hB1 hsub ⊢
  obtain ⟨nA, hnA⟩ : ∃ x, A.length = x := ⟨_, rfl⟩
  obtain ⟨nB, hnB⟩ : ∃ x, B.length = x := ⟨_, rfl⟩
  simp only [hnA] at hA1 ⊢
  simp only [hnB] at hB1 ⊢
  have HNA := Lib.hid hnA
  have HNB := Lib.hid hnB
  have HS := Lib.hid hsub
  have HSL : nB ≤ nA := by rw [← hnA, ← hnB]; exact hsub.length_le
  have hmA : nA ≤ 9223372036854775807 := by have := hA2; unfold maxLen at this; omega
  have hmB : nB ≤ 9223372036854775807 := by have := hB2'; unfold maxLen at this; omega
  clear hnA hnB hsub hA9 hB9 C1 C2 hN hN2 q0 q1 q2 p0 p1 p2 hL hM hLl hMl hrA0 CLu CLm HLU HLM hu hr hg huo hok
  go_upto_region 8 with fail
  go_loopw [15] (fun i wr => ∃ k : Nat, k ≤ nB ∧ i = .int .i64 k ∧ RowAt wr aA (A.map (Value.int .i64)) ∧ RowAt wr aB (B.map (Value.int .i64)) ∧ Below w.heap.size w wr) (fun i _ => nB - (intOf i).toNat)
  case atStart => exact ⟨0, Nat.zero_le _, rfl, hrA, hrB, hbel⟩
  case round =>
    clear hrA hrB hbel
    obtain ⟨k, hk, rfl, hrA, hrB, hbel⟩ := hrel
    by_cases hlt : k < nB
    rotate_left
    · have d9 : decide ((k : Int) < (nB : Int)) = false := decide_eq_false (by omega)
      have d9n : decide (k < nB) = false := decide_eq_false hlt
      have e9 : decide ((nB : Int) ≤ (nA : Int)) = true := decide_eq_true (by omega)
      have e9n : decide (nB ≤ nA) = true := decide_eq_true HSL
      go_wp2
      go_ret
      exact ⟨by first | rfl | simp, hbel⟩
    have d9 : decide ((k : Int) < (nB : Int)) = true := decide_eq_true (by omega)
    have d9n : decide (k < nB) = true := decide_eq_true hlt
    have hkB : k < B.length := by rw [HNB.out]; exact hlt
    obtain ⟨bB, oB, rfl, hbB, hcB⟩ := row_get hrB hkB
    have hmem : B[k] ∈ A := HS.out.subset (List.getElem_mem hkB)
    obtain ⟨x, hx⟩ : ∃ x, B[k] = x := ⟨_, rfl⟩
    rw [hx] at hcB hmem
    have HMEM := Lib.hid hmem
    clear hx hmem
    obtain ⟨wo, rfl⟩ : ∃ z, z = wr := ⟨_, rfl⟩
    go_upto_region 12 with fail
    go_loopw [16, 17] (fun is j wr => ∃ (q : Nat) (t : Bool), q ≤ nA ∧ j = .int .i64 q ∧ is = .bool t ∧ Hid (t = (A.take q).contains x) ∧ Below wo.heap.size wo wr) (fun _ j _ => nA - (intOf j).toNat)
    case atStart => exact ⟨0, false, Nat.zero_le _, rfl, rfl, Lib.hid rfl, Below.refl _ _⟩
    case round =>
      obtain ⟨q, t, hq, rfl, rfl, HT, hbo⟩ := hrel
      have hcB := (hbo.cell (p := ⟨bB, oB + k, none⟩) hbB).trans hcB
      by_cases hlq : q < nA
      rotate_left
      · have f9 : decide ((q : Int) < (nA : Int)) = false := decide_eq_false (by omega)
        have f9n : decide (q < nA) = false := decide_eq_false hlq
        obtain rfl : true = t := by rw [HT.out, List.take_of_length_le (by rw [HNA.out]; omega)]; simpa using HMEM.out
        go_wp2
        go_roundw
        case rel => exact ⟨k + 1, by omega, by go_num, hrA.below hbo, hrB.below hbo, hbel.trans (hbo.mono hbel.size)⟩
        case measure => (simp [intOf]) <;> omega
      have f9 : decide ((q : Int) < (nA : Int)) = true := decide_eq_true (by omega)
      have f9n : decide (q < nA) = true := decide_eq_true hlq
      have hqA : q < A.length := by rw [HNA.out]; exact hlq
      obtain ⟨bA, oA, rfl, hbA, hcA⟩ := row_get hrA hqA
      have hcA := (hbo.cell (p := ⟨bA, oA + q, none⟩) hbA).trans hcA
      have htk : (A.take (q + 1)).contains x = (t || (A[q] == x)) := by
        rw [HT.out, List.take_succ_eq_append_getElem hqA]
        rw [Bool.eq_iff_iff]
        simp only [List.contains_eq_mem, decide_eq_true_eq, Bool.or_eq_true, beq_iff_eq, List.mem_append, List.mem_singleton]
        exact ⟨fun h => h.imp id Eq.symm, fun h => h.imp id Eq.symm⟩
      obtain ⟨y, hy⟩ : ∃ y, A[q] = y := ⟨_, rfl⟩
      rw [hy] at hcA htk
      have HTK := Lib.hid htk
      clear hy htk
      have n0 : (0 : Int) ≤ (q : Int) := by omega
      have n1 : (q : Int) < (nA : Int) := by omega
      have n2' : ((q : Nat) : Int).toNat = q := by omega
      have n3' : (0 : Int) ≤ (k : Int) := by omega
      have n4 : (k : Int) < (nB : Int) := by omega
      have n5 : ((k : Nat) : Int).toNat = k := by omega
      cases t
      · go_upto_region 14 with fail
        go_quiet (fail)
        go_wp2
        go_roundw
        case rel => exact ⟨q + 1, _, by omega, by go_num, rfl, Lib.hid (by rw [HTK.out]; rfl), hbo.trans ((drewN_below _ _).mono hbo.size)⟩
        case measure => (simp [intOf]) <;> omega
      · go_upto_region 14 with fail
        go_quiet (fail)
        go_wp2
        go_roundw
        case rel => exact ⟨q + 1, _, by omega, by go_num, rfl, Lib.hid (by rw [HTK.out]; rfl), hbo.trans ((drewN_below _ _).mono hbo.size)⟩
        case measure => (simp [intOf]) <;> omega
end Go.Proofs.Ythipnkbfdkmhaaa
