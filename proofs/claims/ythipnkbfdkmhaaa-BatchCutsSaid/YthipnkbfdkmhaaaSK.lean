/- BatchCuts walked. A nil slice that comes in has no room. -/
import Derived.Test.YthipnkbfdkmhaaaBc9
import Derived.Test.YthipnkbfdkmhaaaSI
import Derived.Test.YthipnkbfdkmhaaaSF
import Derived.Test.YthipnkbfdkmhaaaSJ
import Derived.BigRegion
import Derived.RegionTactic
import Derived.BigQuiet
import Derived.Deep.QuietTactic
import Derived.Deep.MidRow
import Derived.LoopTactic
import Derived.BigFrame
import Derived.WalkKit
import Derived.ProofKit
import Derived.Handy
import Derived.Below
import Derived.Lib.Hide
import Derived.IntWalk
import Derived.Outline
import Derived.WalkLawsBesides
import Derived.WalkSpells
namespace Go.Proofs.Ythipnkbfdkmhaaa
open Go.RowKit
attribute [local go_sem] strV
set_option linter.unusedVariables false
set_option maxRecDepth 100000 in
set_option maxHeartbeats 12800000 in
theorem walkBatchCuts (lg lb lc : Int) (a : Option Addr) (n cap : Nat) (up : List MsgV) (b : Option Addr) (n2 cap2 : Nat) (ms : List MsgV) (c : Option Addr) (n3 cap3 : Nat) (gs : List Int) (w : World)
    (hu : RowAt w a (up.flatMap MsgV.cellsL)) (hun : up.length = n) (hucap : n ≤ cap) (hucm : cap ≤ maxLen) (huo : ∀ m ∈ up, m.ok w) (hua : a = none → n = 0 ∧ cap = 0)
    (hr : RowAt w b (ms.flatMap MsgV.cellsL)) (hn : ms.length = n2) (hcap : n2 ≤ cap2) (hcm : cap2 ≤ maxLen) (hok : ∀ m ∈ ms, m.ok w) (hg : IntsAt w c n3 gs) :
    Calls Try.prog 10 #[.agg #[.int .i64 (lg), .int .i64 (lb), .int .i64 (lc)], .slice a n cap, .slice b n2 cap2, .slice c n3 cap3] w fun e w' => e = .returned (.bool true) ∧ Below w.heap.size w w' := by
  have CLu := fun W (hb : Below w.heap.size w W) => lightMs_any a n cap up W (hu.below hb) (fun m hm => (huo m hm).below hb) hun
  have CLm := fun W (hb : Below w.heap.size w W) => lightMs_any b n2 cap2 ms W (hr.below hb) (fun m hm => (hok m hm).below hb) hn
  obtain ⟨kl, el⟩ : ∃ b, lightMs up = b := ⟨_, rfl⟩
  obtain ⟨km, em⟩ : ∃ b, lightMs ms = b := ⟨_, rfl⟩
  simp only [el] at CLu
  simp only [em] at CLm
  have HLU := Lib.hid el
  have HLM := Lib.hid em
  clear el em
  have z0 := heap_push w #[.int .i64 (lg), .int .i64 (lb), .int .i64 (lc)] 58
  have zb : Below w.heap.size w (w.alloc (.cells #[.int .i64 (lg), .int .i64 (lb), .int .i64 (lc)] 58)) := Below.alloc (Below.refl _ _) (Nat.le_refl _) _
  go_enter Try.func10, Try.ntmps10
  go_upto_region 1 with fail
  refine wp_nameE _ (fun W1 hX => ?_)
  have hL : W1.heap[w.heap.size]? = some (.cells #[.int .i64 (lg), .int .i64 (lb), .int .i64 (lc)] 58 (0, 0)) := by rw [hX]; exact z0
  have hbel : Below w.heap.size w W1 := by rw [hX]; exact zb
  clear hX z0 zb
  have hLl : w.heap.size < W1.heap.size := row_lt hL
  go_upto_region 3 with (go_at_call 38; refine (first28_any _).mono ?_; rintro e w2 ⟨rfl, hb⟩; have hL := cells_of hL hb hLl; have hLl := Nat.lt_of_lt_of_le hLl hb.size; have hbel := hbel.trans (hb.mono hbel.size); have q0 := cell_heap hL 0; have q1 := cell_heap hL 1; have q2 := cell_heap hL 2; clear hb)
  by_cases h1 : 3 < n
  · have dh1 : decide (3 < (n : Int)) = true := decide_eq_true (by omega)
    have dh1n : decide (3 < n) = true := decide_eq_true (by omega)
    go_wp2_with (first | (go_at_call 38; refine (first28_any _).mono ?_; rintro e w2 ⟨rfl, hb⟩; have hL := cells_of hL hb hLl; have hLl := Nat.lt_of_lt_of_le hLl hb.size; have hbel := hbel.trans (hb.mono hbel.size); have q0 := cell_heap hL 0; have q1 := cell_heap hL 1; have q2 := cell_heap hL 2; clear hb) | (go_at_call 27; with_reducible refine (CLu _ hbel).mono ?_; rintro e w2 ⟨rfl, hb⟩; have hL := cells_of hL hb hLl; have hLl := Nat.lt_of_lt_of_le hLl hb.size; have hbel := hbel.trans (hb.mono hbel.size); have q0 := cell_heap hL 0; have q1 := cell_heap hL 1; have q2 := cell_heap hL 2; clear hb) | (go_at_call 27; with_reducible refine (CLm _ hbel).mono ?_; rintro e w2 ⟨rfl, hb⟩; have hL := cells_of hL hb hLl; have hLl := Nat.lt_of_lt_of_le hLl hb.size; have hbel := hbel.trans (hb.mono hbel.size); have q0 := cell_heap hL 0; have q1 := cell_heap hL 1; have q2 := cell_heap hL 2; clear hb))
    go_ret
    exact ⟨by first | rfl | simp, hbel⟩
  have dh1 : decide (3 < (n : Int)) = false := decide_eq_false (by omega)
  have dh1n : decide (3 < n) = false := decide_eq_false (by omega)
  by_cases h2 : 40 < n2
  · have dh2 : decide (40 < (n2 : Int)) = true := decide_eq_true (by omega)
    have dh2n : decide (40 < n2) = true := decide_eq_true (by omega)
    go_wp2_with (first | (go_at_call 38; refine (first28_any _).mono ?_; rintro e w2 ⟨rfl, hb⟩; have hL := cells_of hL hb hLl; have hLl := Nat.lt_of_lt_of_le hLl hb.size; have hbel := hbel.trans (hb.mono hbel.size); have q0 := cell_heap hL 0; have q1 := cell_heap hL 1; have q2 := cell_heap hL 2; clear hb) | (go_at_call 27; with_reducible refine (CLu _ hbel).mono ?_; rintro e w2 ⟨rfl, hb⟩; have hL := cells_of hL hb hLl; have hLl := Nat.lt_of_lt_of_le hLl hb.size; have hbel := hbel.trans (hb.mono hbel.size); have q0 := cell_heap hL 0; have q1 := cell_heap hL 1; have q2 := cell_heap hL 2; clear hb) | (go_at_call 27; with_reducible refine (CLm _ hbel).mono ?_; rintro e w2 ⟨rfl, hb⟩; have hL := cells_of hL hb hLl; have hLl := Nat.lt_of_lt_of_le hLl hb.size; have hbel := hbel.trans (hb.mono hbel.size); have q0 := cell_heap hL 0; have q1 := cell_heap hL 1; have q2 := cell_heap hL 2; clear hb))
    go_ret
    exact ⟨by first | rfl | simp, hbel⟩
  have dh2 : decide (40 < (n2 : Int)) = false := decide_eq_false (by omega)
  have dh2n : decide (40 < n2) = false := decide_eq_false (by omega)
  cases kl
  · go_wp2_with (first | (go_at_call 38; refine (first28_any _).mono ?_; rintro e w2 ⟨rfl, hb⟩; have hL := cells_of hL hb hLl; have hLl := Nat.lt_of_lt_of_le hLl hb.size; have hbel := hbel.trans (hb.mono hbel.size); have q0 := cell_heap hL 0; have q1 := cell_heap hL 1; have q2 := cell_heap hL 2; clear hb) | (go_at_call 27; with_reducible refine (CLu _ hbel).mono ?_; rintro e w2 ⟨rfl, hb⟩; have hL := cells_of hL hb hLl; have hLl := Nat.lt_of_lt_of_le hLl hb.size; have hbel := hbel.trans (hb.mono hbel.size); have q0 := cell_heap hL 0; have q1 := cell_heap hL 1; have q2 := cell_heap hL 2; clear hb) | (go_at_call 27; with_reducible refine (CLm _ hbel).mono ?_; rintro e w2 ⟨rfl, hb⟩; have hL := cells_of hL hb hLl; have hLl := Nat.lt_of_lt_of_le hLl hb.size; have hbel := hbel.trans (hb.mono hbel.size); have q0 := cell_heap hL 0; have q1 := cell_heap hL 1; have q2 := cell_heap hL 2; clear hb))
    go_ret
    exact ⟨by first | rfl | simp, hbel⟩
  cases km
  · go_wp2_with (first | (go_at_call 38; refine (first28_any _).mono ?_; rintro e w2 ⟨rfl, hb⟩; have hL := cells_of hL hb hLl; have hLl := Nat.lt_of_lt_of_le hLl hb.size; have hbel := hbel.trans (hb.mono hbel.size); have q0 := cell_heap hL 0; have q1 := cell_heap hL 1; have q2 := cell_heap hL 2; clear hb) | (go_at_call 27; with_reducible refine (CLu _ hbel).mono ?_; rintro e w2 ⟨rfl, hb⟩; have hL := cells_of hL hb hLl; have hLl := Nat.lt_of_lt_of_le hLl hb.size; have hbel := hbel.trans (hb.mono hbel.size); have q0 := cell_heap hL 0; have q1 := cell_heap hL 1; have q2 := cell_heap hL 2; clear hb) | (go_at_call 27; with_reducible refine (CLm _ hbel).mono ?_; rintro e w2 ⟨rfl, hb⟩; have hL := cells_of hL hb hLl; have hLl := Nat.lt_of_lt_of_le hLl hb.size; have hbel := hbel.trans (hb.mono hbel.size); have q0 := cell_heap hL 0; have q1 := cell_heap hL 1; have q2 := cell_heap hL 2; clear hb))
    go_ret
    exact ⟨by first | rfl | simp, hbel⟩
  by_cases h3 : 60 < n3
  · have dh3 : decide (60 < (n3 : Int)) = true := decide_eq_true (by omega)
    have dh3n : decide (60 < n3) = true := decide_eq_true (by omega)
    go_wp2_with (first | (go_at_call 38; refine (first28_any _).mono ?_; rintro e w2 ⟨rfl, hb⟩; have hL := cells_of hL hb hLl; have hLl := Nat.lt_of_lt_of_le hLl hb.size; have hbel := hbel.trans (hb.mono hbel.size); have q0 := cell_heap hL 0; have q1 := cell_heap hL 1; have q2 := cell_heap hL 2; clear hb) | (go_at_call 27; with_reducible refine (CLu _ hbel).mono ?_; rintro e w2 ⟨rfl, hb⟩; have hL := cells_of hL hb hLl; have hLl := Nat.lt_of_lt_of_le hLl hb.size; have hbel := hbel.trans (hb.mono hbel.size); have q0 := cell_heap hL 0; have q1 := cell_heap hL 1; have q2 := cell_heap hL 2; clear hb) | (go_at_call 27; with_reducible refine (CLm _ hbel).mono ?_; rintro e w2 ⟨rfl, hb⟩; have hL := cells_of hL hb hLl; have hLl := Nat.lt_of_lt_of_le hLl hb.size; have hbel := hbel.trans (hb.mono hbel.size); have q0 := cell_heap hL 0; have q1 := cell_heap hL 1; have q2 := cell_heap hL 2; clear hb))
    go_ret
    exact ⟨by first | rfl | simp, hbel⟩
  have dh3 : decide (60 < (n3 : Int)) = false := decide_eq_false (by omega)
  have dh3n : decide (60 < n3) = false := decide_eq_false (by omega)
  have hlu : ∀ m ∈ up, lightM m = true := by
    have := HLU.out
    unfold lightMs at this
    rw [Bool.and_eq_true] at this
    exact List.all_eq_true.1 this.2
  have hlm : ∀ m ∈ ms, lightM m = true := by
    have := HLM.out
    unfold lightMs at this
    rw [Bool.and_eq_true] at this
    exact List.all_eq_true.1 this.2
  have C1 := fun W (hb : Below w.heap.size w W) => bt_cut lg lb lc a n cap up b n2 cap2 ms c n3 cap3 gs W (hu.below hb) hun (fun m hm => (huo m hm).below hb) hlu (hr.below hb) hn (fun m hm => (hok m hm).below hb) hlm (by omega) (hg.row.below hb) hg.length (fun z hz => wf_i64 (hg.wf z hz).1 (hg.wf z hz).2)
  have C2 := fun W (hb : Below w.heap.size w W) => refCut_any lg lb lc a n cap up b n2 cap2 ms c n3 cap3 gs W (hu.below hb) hun hucap hucm hua (fun m hm => (huo m hm).below hb) hlu (hr.below hb) hn (fun m hm => (hok m hm).below hb) hlm (by omega) (hg.row.below hb) hg.length (fun z hz => wf_i64 (hg.wf z hz).1 (hg.wf z hz).2) (by unfold maxLen; omega)
  have C3 := fun W (hb : Below w.heap.size w W) => btFits_any lg lb lc b n2 cap2 ms W (hr.below hb) (fun m hm => (hok m hm).below hb) hlm hn (by omega)
  have C4 := fun W (hb : Below w.heap.size w W) => refFitsW_any lg lb lc (cap := cap2) (hr.below hb) (fun m hm => (hok m hm).below hb) hlm hn
  obtain ⟨fF, hfF⟩ : ∃ x, fitsW (lg, lb, lc) ms = x := ⟨_, rfl⟩
  simp only [hfF] at C3 C4
  obtain ⟨⟨X, S⟩, hC⟩ : ∃ x, cutF (lg, lb, lc) up ms gs = x := ⟨_, rfl⟩
  unfold cutPost at C1
  unfold refPost at C2
  simp only [hC] at C1 C2
  obtain ⟨nX, hnX⟩ : ∃ x, X.length = x := ⟨_, rfl⟩
  obtain ⟨nS, hnS⟩ : ∃ x, S.length = x := ⟨_, rfl⟩
  simp only [hnX, hnS] at C2
  have HNX := Lib.hid hnX
  have HNS := Lib.hid hnS
  clear hC hfF hlu hlm hnX hnS q0 q1 q2
  go_upto_region 6 with (first | (go_at_call 38; refine (first28_any _).mono ?_; rintro e w2 ⟨rfl, hb⟩; have hL := cells_of hL hb hLl; have hLl := Nat.lt_of_lt_of_le hLl hb.size; have hbel := hbel.trans (hb.mono hbel.size); have q0 := cell_heap hL 0; have q1 := cell_heap hL 1; have q2 := cell_heap hL 2; clear hb) | (go_at_call 27; with_reducible refine (CLu _ hbel).mono ?_; rintro e w2 ⟨rfl, hb⟩; have hL := cells_of hL hb hLl; have hLl := Nat.lt_of_lt_of_le hLl hb.size; have hbel := hbel.trans (hb.mono hbel.size); have q0 := cell_heap hL 0; have q1 := cell_heap hL 1; have q2 := cell_heap hL 2; clear hb) | (go_at_call 27; with_reducible refine (CLm _ hbel).mono ?_; rintro e w2 ⟨rfl, hb⟩; have hL := cells_of hL hb hLl; have hLl := Nat.lt_of_lt_of_le hLl hb.size; have hbel := hbel.trans (hb.mono hbel.size); have q0 := cell_heap hL 0; have q1 := cell_heap hL 1; have q2 := cell_heap hL 2; clear hb) | (refine wpList_load_mid rfl 58 (.tmp 4) rfl w.heap.size 0 rfl (#[.int .i64 (lg), .int .i64 (lb), .int .i64 (lc)] : Array Value).toList _ (rangeAt_row5 hL) Try.underlying58 rfl (by rfl) ?_; rw [Array.toArray_toList]) | (go_at_call 39; refine (C1 _ hbel).mono ?_; rintro e w3 ⟨tv, sv, vs, base, rfl, hN, hB, hb⟩; have hL := cells_of hL hb hLl; have hLl := Nat.lt_of_lt_of_le hLl hb.size; have hbel := hbel.trans (hb.mono hbel.size); have q0 := cell_heap hL 0; have q1 := cell_heap hL 1; have q2 := cell_heap hL 2; clear hb; clear q0 q1 q2))
  obtain ⟨⟨a1, c1, rfl, hL1, hm1⟩, s1, c2, rfl, hS1, hm2⟩ := hN.ll
  have h1v : Value.slice a1 X.length c1 = .slice a1 nX c1 := by rw [HNX.out]
  have h2v : Value.slice s1 S.length c2 = .slice s1 nS c2 := by rw [HNS.out]
  simp only [h1v, h2v]
  clear h1v h2v hN hB
  go_upto_region 7 with (first | (refine wpList_load_mid rfl 58 (.tmp 4) rfl w.heap.size 0 rfl (#[.int .i64 (lg), .int .i64 (lb), .int .i64 (lc)] : Array Value).toList _ (rangeAt_row5 hL) Try.underlying58 rfl (by rfl) ?_; rw [Array.toArray_toList]) | (go_at_call 40; refine (C2 _ hbel).mono ?_; rintro e w4 ⟨a2, s2, c3, c4, us, rfl, hL2, hm3, hS2, hm4, hb⟩; have hL1 := hL1.below (hb.mono (Nat.le_refl _)); have hS1 := hS1.below (hb.mono (Nat.le_refl _)); have hL := cells_of hL hb hLl; have hLl := Nat.lt_of_lt_of_le hLl hb.size; have hbel := hbel.trans (hb.mono hbel.size); have q0 := cell_heap hL 0; have q1 := cell_heap hL 1; have q2 := cell_heap hL 2; clear hb; clear q0 q1 q2))
  refine wp_region_facts [Fact.eq (.slice a1 nX c1), Fact.eq (.slice a2 nX c3), Fact.eq (.bool true), Fact.eq (.bool true), Fact.eq (.slice s1 nS c2), Fact.eq (.slice s2 nS c4), Fact.eq (.bool true), Fact.eq (.bool true), Fact.eq (.bool true), Fact.eq (.agg #[.int .i64 (lg), .int .i64 (lb), .int .i64 (lc)]), Fact.eq (.slice b n2 cap2), Fact.eq (.bool fF), Fact.eq (.agg #[.int .i64 (lg), .int .i64 (lb), .int .i64 (lc)]), Fact.eq (.slice b n2 cap2), Fact.eq (.bool fF), Fact.eq (.bool true), Fact.eq (.bool true), Fact.eq (.bool true)] (by kernel_rfl) (by kernel_rfl) (by kernel_rfl) (by kernel_rfl) (fun x => by simp only [fillFrom, Act.put, List.setIfInBounds_toArray, List.set_cons_succ, List.set_cons_zero]; rfl) ?_ ?_
  · refine ⟨?_, ?_, ?_, ?_, ?_, ?_, ?_, ?_, ?_, ?_, ?_, ?_, ?_, ?_, ?_, ?_, ?_, ?_, trivial⟩
    · intro x w' hbw hd
      clear hd
      go_wp2_with fail
      exact frPost_mk rfl (by repeat (first | assumption | exact Below.refl _ _ | refine bch ?_ (by assumption) | refine Below.alloc ?_ (by simp) _)) rfl
    · intro x w' hbw hd
      clear hd
      go_wp2_with fail
      exact frPost_mk rfl (by repeat (first | assumption | exact Below.refl _ _ | refine bch ?_ (by assumption) | refine Below.alloc ?_ (by simp) _)) rfl
    · intro x w' hbw hd
      have d0 : x 0 = .slice a1 nX c1 := hd 0 rfl
      have d1 : x 1 = .slice a2 nX c3 := hd 1 rfl
      clear hd
      have CC := lists_any a1 a2 nX nX c1 c3 X X vs us w' (hL1.below hbw) (hL2.below hbw) HNX.out HNX.out (by rw [← HNX.out]; exact hm1)
      rw [beq_self_eq_true] at CC
      go_wp2_with (first | (go_at_call 41; refine CC.mono ?_; rintro e wx ⟨rfl, hbx⟩))
      exact frPost_mk rfl (by repeat (first | assumption | exact Below.refl _ _ | refine bch ?_ (by assumption) | refine Below.alloc ?_ (by simp) _)) rfl
    · intro x w' hbw hd
      have d2 : x 2 = .bool true := hd 2 rfl
      clear hd
      go_wp2_with fail
      exact frPost_mk rfl (by repeat (first | assumption | exact Below.refl _ _ | refine bch ?_ (by assumption) | refine Below.alloc ?_ (by simp) _)) rfl
    · intro x w' hbw hd
      have d3 : x 3 = .bool true := hd 3 rfl
      clear hd
      go_wp2_with fail
      exact frPost_mk rfl (by repeat (first | assumption | exact Below.refl _ _ | refine bch ?_ (by assumption) | refine Below.alloc ?_ (by simp) _)) rfl
    · intro x w' hbw hd
      have d3 : x 3 = .bool true := hd 3 rfl
      clear hd
      go_wp2_with fail
      exact frPost_mk rfl (by repeat (first | assumption | exact Below.refl _ _ | refine bch ?_ (by assumption) | refine Below.alloc ?_ (by simp) _)) rfl
    · intro x w' hbw hd
      have d3 : x 3 = .bool true := hd 3 rfl
      have d4 : x 4 = .slice s1 nS c2 := hd 4 rfl
      have d5 : x 5 = .slice s2 nS c4 := hd 5 rfl
      clear hd
      have CC := ints_any (cap := c2) (cap' := c4) (hS1.below hbw) (hS2.below hbw) HNS.out HNS.out (by rw [← HNS.out]; exact hm2) (by rw [← HNS.out]; exact hm2)
      rw [beq_self_eq_true] at CC
      go_wp2_with (first | (go_at_call 42; refine CC.mono ?_; rintro e wx ⟨rfl, hbx⟩))
      exact frPost_mk rfl (by repeat (first | assumption | exact Below.refl _ _ | refine bch ?_ (by assumption) | refine Below.alloc ?_ (by simp) _)) rfl
    · intro x w' hbw hd
      have d3 : x 3 = .bool true := hd 3 rfl
      have d6 : x 6 = .bool true := hd 6 rfl
      clear hd
      go_wp2_with fail
      exact frPost_mk rfl (by repeat (first | assumption | exact Below.refl _ _ | refine bch ?_ (by assumption) | refine Below.alloc ?_ (by simp) _)) rfl
    · intro x w' hbw hd
      have d7 : x 7 = .bool true := hd 7 rfl
      clear hd
      go_wp2_with fail
      exact frPost_mk rfl (by repeat (first | assumption | exact Below.refl _ _ | refine bch ?_ (by assumption) | refine Below.alloc ?_ (by simp) _)) rfl
    · intro x w' hbw hd
      have d8 : x 8 = .bool true := hd 8 rfl
      clear hd
      have hLr := cells_of hL hbw hLl
      go_wp2_with (first | (refine wpList_load_midG 58 (.tmp 4) rfl w.heap.size 0 rfl (#[.int .i64 (lg), .int .i64 (lb), .int .i64 (lc)] : Array Value).toList _ (rangeAt_row5 hLr) Try.underlying58 rfl (by rfl) (by first | rfl | (simp [Region.wanted, yielded, *]; done)) ?_; rw [Array.toArray_toList]))
      exact frPost_mk rfl (by repeat (first | assumption | exact Below.refl _ _ | refine bch ?_ (by assumption) | refine Below.alloc ?_ (by simp) _)) rfl
    · intro x w' hbw hd
      have d8 : x 8 = .bool true := hd 8 rfl
      clear hd
      go_wp2_with fail
      exact frPost_mk rfl (by repeat (first | assumption | exact Below.refl _ _ | refine bch ?_ (by assumption) | refine Below.alloc ?_ (by simp) _)) rfl
    · intro x w' hbw hd
      have d8 : x 8 = .bool true := hd 8 rfl
      have d9 : x 9 = .agg #[.int .i64 (lg), .int .i64 (lb), .int .i64 (lc)] := hd 9 rfl
      have d10 : x 10 = .slice b n2 cap2 := hd 10 rfl
      clear hd
      have CC := C3 w' (hbel.trans (hbw.mono hbel.size))
      go_wp2_with (first | (go_at_call 43; refine CC.mono ?_; rintro e wx ⟨rfl, hbx⟩))
      exact frPost_mk rfl (by repeat (first | assumption | exact Below.refl _ _ | refine bch ?_ (by assumption) | refine Below.alloc ?_ (by simp) _)) rfl
    · intro x w' hbw hd
      have d8 : x 8 = .bool true := hd 8 rfl
      clear hd
      have hLr := cells_of hL hbw hLl
      go_wp2_with (first | (refine wpList_load_midG 58 (.tmp 4) rfl w.heap.size 0 rfl (#[.int .i64 (lg), .int .i64 (lb), .int .i64 (lc)] : Array Value).toList _ (rangeAt_row5 hLr) Try.underlying58 rfl (by rfl) (by first | rfl | (simp [Region.wanted, yielded, *]; done)) ?_; rw [Array.toArray_toList]))
      exact frPost_mk rfl (by repeat (first | assumption | exact Below.refl _ _ | refine bch ?_ (by assumption) | refine Below.alloc ?_ (by simp) _)) rfl
    · intro x w' hbw hd
      have d8 : x 8 = .bool true := hd 8 rfl
      clear hd
      go_wp2_with fail
      exact frPost_mk rfl (by repeat (first | assumption | exact Below.refl _ _ | refine bch ?_ (by assumption) | refine Below.alloc ?_ (by simp) _)) rfl
    · intro x w' hbw hd
      have d8 : x 8 = .bool true := hd 8 rfl
      have d12 : x 12 = .agg #[.int .i64 (lg), .int .i64 (lb), .int .i64 (lc)] := hd 12 rfl
      have d13 : x 13 = .slice b n2 cap2 := hd 13 rfl
      clear hd
      have CC := C4 w' (hbel.trans (hbw.mono hbel.size))
      go_wp2_with (first | (go_at_call 44; refine CC.mono ?_; rintro e wx ⟨rfl, hbx⟩))
      exact frPost_mk rfl (by repeat (first | assumption | exact Below.refl _ _ | refine bch ?_ (by assumption) | refine Below.alloc ?_ (by simp) _)) rfl
    · intro x w' hbw hd
      have d8 : x 8 = .bool true := hd 8 rfl
      have d11 : x 11 = .bool fF := hd 11 rfl
      have d14 : x 14 = .bool fF := hd 14 rfl
      clear hd
      have e9 : (fF == fF) = true := by simp
      go_wp2_with (first | fail)
      exact frPost_mk rfl (by repeat (first | assumption | exact Below.refl _ _ | refine bch ?_ (by assumption) | refine Below.alloc ?_ (by simp) _)) rfl
    · intro x w' hbw hd
      have d8 : x 8 = .bool true := hd 8 rfl
      have d15 : x 15 = .bool true := hd 15 rfl
      clear hd
      go_wp2_with fail
      exact frPost_mk rfl (by repeat (first | assumption | exact Below.refl _ _ | refine bch ?_ (by assumption) | refine Below.alloc ?_ (by simp) _)) rfl
    · intro x w' hbw hd
      have d16 : x 16 = .bool true := hd 16 rfl
      clear hd
      go_wp2_with fail
      exact frPost_mk rfl (by repeat (first | assumption | exact Below.refl _ _ | refine bch ?_ (by assumption) | refine Below.alloc ?_ (by simp) _)) rfl
  intro x wf hbw hall
  have d17 : x 17 = .bool true := hall 17 (by decide)
  clear hall
  simp only [d17]
  have hbel := hbel.trans (hbw.mono hbel.size)
  go_wp2
  go_ret
  exact ⟨by first | rfl | simp, hbel⟩

end Go.Proofs.Ythipnkbfdkmhaaa
namespace Go.Proofs.Ythipnkbfdkmhaaa
open Go.RowKit Go.ChangeShapes Go.WideShapes Go.Deep
theorem nil_cap {H : Type} {enc : TypeId × Value → H} {P : Program} {w : World} {base : Nat} {spare : Nat → Bool} {held : Bool} {t e : TypeId} {fuel : Nat} {cs : List Value} {x : DataW H × List MemPlace} {a : Option Addr} {len cap : Nat}
    (hcs : cs = [.slice a len cap]) (ht : P.underlying t = some (.slice e)) (h : DataW.trod enc P w base spare held fuel t cs = some x) : a = none → len = 0 ∧ cap = 0 := by
  intro ha
  subst ha
  rcases open_slice ht h with ⟨h1, _⟩ | ⟨a, l, c, m, n, D, Pl, h1, _⟩
  · rw [hcs] at h1; simp at h1; exact h1
  · rw [hcs] at h1; simp at h1
end Go.Proofs.Ythipnkbfdkmhaaa
