/- Lists of events that are the same; blocks that are the same. -/
import Derived.Test.YtcbacchelabljaaBlkS
import Derived.WalkKit
import Derived.ProofKit
import Derived.Handy
import Derived.Below
import Derived.Lib.Hide
import Derived.IntWalk
import Derived.Outline
import Derived.WalkLawsBesides
import Derived.WalkSpells
namespace Go.Proofs.Ytcbacchelabljaa
open Go.RowKit
attribute [local go_sem] strV
set_option linter.unusedVariables false

def evsB : List Ev → List Ev → Bool
  | [], [] => true
  | x :: xs, y :: ys => evB x y && evsB xs ys
  | _, _ => false
theorem evsB_iff : ∀ l m : List Ev, evsB l m = true ↔ l = m
  | [], [] => by simp [evsB]
  | [], _ :: _ => by simp [evsB]
  | _ :: _, [] => by simp [evsB]
  | x :: xs, y :: ys => by
    unfold evsB
    rw [Bool.and_eq_true, evB_iff, evsB_iff xs ys, List.cons.injEq]
theorem evsB_ne {l m : List Ev} (h : l ≠ m) : evsB l m = false := by
  cases h9 : evsB l m
  · rfl
  · exact absurd ((evsB_iff _ _).1 h9) h
theorem ba_eq {x y : ByteArray} : (x.toList == y.toList) = true ↔ x = y := by
  constructor
  · intro h
    simp only [beq_iff_eq, ByteArray.toList_eq] at h
    apply ByteArray.ext; apply Array.ext'; exact h
  · rintro rfl; simp
theorem ba_eq' {x y : ByteArray} : x.toList = y.toList ↔ x = y := by
  rw [← ba_eq, beq_iff_eq]
def sameBlk (a b : Blk) : Bool := (a.ch.toList == b.ch.toList) && (a.ht == b.ht) && (a.tm == b.tm) && evsB a.evs b.evs
theorem sameBlk_iff {a b : Blk} : sameBlk a b = true ↔ a = b := by
  cases a; cases b
  unfold sameBlk
  simp only [Bool.and_eq_true, ba_eq', beq_iff_eq, evsB_iff, Blk.mk.injEq, and_assoc]

set_option maxRecDepth 100000 in
set_option maxHeartbeats 6400000 in
theorem evsEq_any (a1 a2 : Option Addr) (n1 n2 c1 c2 : Nat) (es fs : List Ev) (w : World) (h1 : RowAt w a1 (es.flatMap Ev.cells)) (h2 : RowAt w a2 (fs.flatMap Ev.cells)) (hn : es.length = n1) (hm : fs.length = n2) (hnm : n1 ≤ maxLen) (hmm : n2 ≤ maxLen) :
    Calls Try.prog 44 #[.slice a1 n1 c1, .slice a2 n2 c2] w fun e w' => e = .returned (.bool (evsB es fs)) ∧ Below w.heap.size w w' := by
  by_cases hnn : n1 = n2
  · subst hnn
    obtain ⟨r, hF⟩ : ∃ r, evsB es fs = r := ⟨_, rfl⟩
    rw [hF]
    have HF := Lib.hid hF
    have HN := Lib.hid hn
    have HM := Lib.hid hm
    clear hF hn hm hmm
    unfold maxLen at hnm
    have e0 : ((n1 : Int) != (n1 : Int)) = false := by simp
    have e0n : (n1 != n1) = false := by simp
    go_enter Try.func44, Try.ntmps44
    go_upto_region 4 with fail
    go_loopw [13] (fun i wr => ∃ k : Nat, k ≤ n1 ∧ i = .int .i64 k ∧ Hid (es.take k = fs.take k) ∧ Below w.heap.size w wr) (fun i _ => n1 - (intOf i).toNat)
    case atStart => exact ⟨0, Nat.zero_le _, rfl, Lib.hid rfl, Below.refl _ _⟩
    case round =>
    obtain ⟨k, hk, rfl, HT, hbel⟩ := hrel
    by_cases hlt : k < n1
    · have d1 : decide ((k : Int) < (n1 : Int)) = true := decide_eq_true (by omega)
      have d1n : decide (k < n1) = true := decide_eq_true hlt
      have hkl : k < es.length := by rw [HN.out]; exact hlt
      have hkm : k < fs.length := by rw [HM.out]; exact hlt
      obtain ⟨b1, o1, rfl, hb1, hg1⟩ := ev_range (h1.below hbel) hkl
      obtain ⟨b2, o2, rfl, hb2, hg2⟩ := ev_range (h2.below hbel) hkm
      obtain ⟨⟨kd, sp, sc, dp, dc, sq, da, th, ta, ack, ep, ec, eh⟩, hp⟩ : ∃ p, es[k] = p := ⟨_, rfl⟩
      obtain ⟨⟨kd2, sp2, sc2, dp2, dc2, sq2, da2, th2, ta2, ack2, ep2, ec2, eh2⟩, hp2⟩ : ∃ p, fs[k] = p := ⟨_, rfl⟩
      rw [hp] at hg1
      rw [hp2] at hg2
      have l1 := fun m => load_ev hg1 hb1 m
      have l2 := fun m => load_ev hg2 hb2 m
      simp only [Ev.row] at l1 l2
      have hEQ := run_equal_ev kd kd2 sp sp2 sc sc2 dp dp2 dc dc2 sq sq2 da da2 th th2 ta ta2 ack ack2 ep ep2 ec ec2 eh eh2
      obtain ⟨eb, heb⟩ : ∃ b, evB ⟨kd, sp, sc, dp, dc, sq, da, th, ta, ack, ep, ec, eh⟩ ⟨kd2, sp2, sc2, dp2, dc2, sq2, da2, th2, ta2, ack2, ep2, ec2, eh2⟩ = b := ⟨_, rfl⟩
      rw [heb] at hEQ
      have n0 : (0 : Int) ≤ (k : Int) := by omega
      have n1' : (k : Int) < (n1 : Int) := by omega
      have n2' : ((k : Nat) : Int).toNat = k := by omega
      cases eb
      · have hbad : r = false := by
          rw [← HF.out]
          refine evsB_ne (fun q => ?_)
          have : (⟨kd, sp, sc, dp, dc, sq, da, th, ta, ack, ep, ec, eh⟩ : Ev) = ⟨kd2, sp2, sc2, dp2, dc2, sq2, da2, th2, ta2, ack2, ep2, ec2, eh2⟩ := by subst q; rw [← hp, ← hp2]
          rw [(evB_iff _ _).2 this] at heb; cases heb
        subst hbad
        clear heb hp hp2 hg1 hg2
        go_upto_region 6 with fail
        refine wp_region_below (by kernel_rfl) (by kernel_rfl) ?_
        repeat (first | (go_big_quiet_want; refine qload9 (v := .agg #[.int .i64 kd, .string sp, .int .i64 sc, .string dp, .int .i64 dc, .int .i64 sq, .string da, .int .i64 th, .int .i64 ta, .string ack, .string ep, .int .i64 ec, .int .i64 eh]) 43 (.tmp 18) rfl (by rfl) (by rintro _ ⟨m, rfl⟩; exact l1 m) ?_; simp only [Act.put, List.setIfInBounds_toArray, List.set_cons_succ, List.set_cons_zero]; go_big_quiet_on) | (go_big_quiet_want; refine qload9 (v := .agg #[.int .i64 kd2, .string sp2, .int .i64 sc2, .string dp2, .int .i64 dc2, .int .i64 sq2, .string da2, .int .i64 th2, .int .i64 ta2, .string ack2, .string ep2, .int .i64 ec2, .int .i64 eh2]) 43 (.tmp 22) rfl (by rfl) (by rintro _ ⟨m, rfl⟩; exact l2 m) ?_; simp only [Act.put, List.setIfInBounds_toArray, List.set_cons_succ, List.set_cons_zero]; go_big_quiet_on) | (go_big_quiet_step (fail)))
        intro w9 hw9
        have hb9 := beyond_below hw9
        go_wp2
        go_ret
        exact ⟨rfl, hbel.trans (hb9.mono hbel.size)⟩
      · have hsame : es.take (k + 1) = fs.take (k + 1) := by rw [List.take_succ_eq_append_getElem hkl, List.take_succ_eq_append_getElem hkm, HT.out, hp, hp2, (evB_iff _ _).1 heb]
        have HS := Lib.hid hsame
        clear heb hp hp2 hg1 hg2 hsame
        go_upto_region 6 with fail
        refine wp_region_below (by kernel_rfl) (by kernel_rfl) ?_
        repeat (first | (go_big_quiet_want; refine qload9 (v := .agg #[.int .i64 kd, .string sp, .int .i64 sc, .string dp, .int .i64 dc, .int .i64 sq, .string da, .int .i64 th, .int .i64 ta, .string ack, .string ep, .int .i64 ec, .int .i64 eh]) 43 (.tmp 18) rfl (by rfl) (by rintro _ ⟨m, rfl⟩; exact l1 m) ?_; simp only [Act.put, List.setIfInBounds_toArray, List.set_cons_succ, List.set_cons_zero]; go_big_quiet_on) | (go_big_quiet_want; refine qload9 (v := .agg #[.int .i64 kd2, .string sp2, .int .i64 sc2, .string dp2, .int .i64 dc2, .int .i64 sq2, .string da2, .int .i64 th2, .int .i64 ta2, .string ack2, .string ep2, .int .i64 ec2, .int .i64 eh2]) 43 (.tmp 22) rfl (by rfl) (by rintro _ ⟨m, rfl⟩; exact l2 m) ?_; simp only [Act.put, List.setIfInBounds_toArray, List.set_cons_succ, List.set_cons_zero]; go_big_quiet_on) | (go_big_quiet_step (fail)))
        intro w9 hw9
        have hb9 := beyond_below hw9
        go_wp2
        go_roundw
        case rel => exact ⟨k + 1, by omega, by go_num, HS, hbel.trans (hb9.mono hbel.size)⟩
        case measure => (simp [intOf]) <;> omega
    · have d1 : decide ((k : Int) < (n1 : Int)) = false := decide_eq_false (by omega)
      have d1n : decide (k < n1) = false := decide_eq_false hlt
      have hgood : r = true := by
        have := HT.out
        rw [List.take_of_length_le (by rw [HN.out]; omega), List.take_of_length_le (by rw [HM.out]; omega)] at this
        rw [← HF.out]; exact (evsB_iff _ _).2 this
      subst hgood
      go_wp2
      go_ret
      exact ⟨rfl, hbel⟩
  · have e0 : ((n1 : Int) != (n2 : Int)) = true := by simpa using fun h => hnn (by omega)
    have e0n : (n1 != n2) = true := by simpa using hnn
    rw [evsB_ne (fun q => hnn (by rw [← hn, ← hm, q]))]
    clear hn hm hnn
    go_enter Try.func44, Try.ntmps44
    go_wp2
    go_ret
    exact ⟨rfl, Below.refl _ _⟩
set_option maxRecDepth 100000 in
set_option maxHeartbeats 12800000 in
theorem blkSameG_any (ch : ByteArray) (ht tm : Int) (a1 : Option Addr) (n1 c1 : Nat) (es : List Ev) (ch2 : ByteArray) (ht2 tm2 : Int) (a2 : Option Addr) (n2 c2 : Nat) (fs : List Ev) (w : World) (h1 : RowAt w a1 (es.flatMap Ev.cells)) (h2 : RowAt w a2 (fs.flatMap Ev.cells)) (hn : es.length = n1) (hm : fs.length = n2) (hnm : n1 ≤ maxLen) (hmm : n2 ≤ maxLen) :
    Calls Try.prog 17 #[.agg #[.string ch, .int .i64 ht, .int .i64 tm, .slice a1 n1 c1], .agg #[.string ch2, .int .i64 ht2, .int .i64 tm2, .slice a2 n2 c2]] w fun e w' => e = .returned (.bool (sameBlk ⟨ch, ht, tm, es⟩ ⟨ch2, ht2, tm2, fs⟩)) ∧ Below w.heap.size w w' := by
  have hg0 := al2_0 w (.cells #[.string ch, .int .i64 ht, .int .i64 tm, .slice a1 n1 c1] 24) (.cells #[.string ch2, .int .i64 ht2, .int .i64 tm2, .slice a2 n2 c2] 24)
  have hh0 := al2_1 w (.cells #[.string ch, .int .i64 ht, .int .i64 tm, .slice a1 n1 c1] 24) (.cells #[.string ch2, .int .i64 ht2, .int .i64 tm2, .slice a2 n2 c2] 24)
  have hbA := al2_below w (.cells #[.string ch, .int .i64 ht, .int .i64 tm, .slice a1 n1 c1] 24) (.cells #[.string ch2, .int .i64 ht2, .int .i64 tm2, .slice a2 n2 c2] 24)
  obtain ⟨k0, e0⟩ : ∃ b, (ch.toList == ch2.toList) = b := ⟨_, rfl⟩
  obtain ⟨k1, e1⟩ : ∃ b, (ht == ht2) = b := ⟨_, rfl⟩
  obtain ⟨k2, e2⟩ : ∃ b, (tm == tm2) = b := ⟨_, rfl⟩
  obtain ⟨k3, e3⟩ : ∃ b, evsB es fs = b := ⟨_, rfl⟩
  have hS : sameBlk ⟨ch, ht, tm, es⟩ ⟨ch2, ht2, tm2, fs⟩ = (k0 && k1 && k2 && k3) := by unfold sameBlk; simp only [e0, e1, e2, e3]
  obtain ⟨r, hr⟩ : ∃ r, (k0 && k1 && k2 && k3) = r := ⟨_, rfl⟩
  rw [hS, hr]
  have HR := Lib.hid hr
  clear hS hr
  have CE := fun W (hb : Below w.heap.size w W) => evsEq_any a1 a2 n1 n2 c1 c2 es fs W (h1.below hb) (h2.below hb) hn hm hnm hmm
  simp only [e3] at CE
  have HN := Lib.hid hn
  have HM := Lib.hid hm
  clear e3 hn hm
  go_enter Try.func17, Try.ntmps17
  go_upto_region 1 with fail
  refine wp_nameE _ (fun W1 hX => ?_)
  have hg : W1.heap[w.heap.size]? = some (.cells #[.string ch, .int .i64 ht, .int .i64 tm, .slice a1 n1 c1] 24 (0, 0)) := by rw [hX]; exact hg0
  have hh : W1.heap[w.heap.size + 1]? = some (.cells #[.string ch2, .int .i64 ht2, .int .i64 tm2, .slice a2 n2 c2] 24 (0, 0)) := by rw [hX]; exact hh0
  have hbel : Below w.heap.size w W1 := by rw [hX]; exact hbA
  clear hX hg0 hh0 hbA
  have hgl : w.heap.size < W1.heap.size := (Array.getElem?_eq_some_iff.1 hg).1
  have hhl : w.heap.size + 1 < W1.heap.size := (Array.getElem?_eq_some_iff.1 hh).1
  have q0 := cell_heap hg 0; have q1 := cell_heap hg 1; have q2 := cell_heap hg 2; have q3 := cell_heap hg 3; have r0 := cell_heap hh 0; have r1 := cell_heap hh 1; have r2 := cell_heap hh 2; have r3 := cell_heap hh 3
  cases k0
  · obtain rfl : false = r := by rw [← HR.out]; simp
    go_wp2
    go_ret
    exact ⟨rfl, hbel⟩
  cases k1
  · obtain rfl : false = r := by rw [← HR.out]; simp
    go_wp2
    go_ret
    exact ⟨rfl, hbel⟩
  cases k2
  · obtain rfl : false = r := by rw [← HR.out]; simp
    go_wp2
    go_ret
    exact ⟨rfl, hbel⟩
  obtain rfl : k3 = r := by rw [← HR.out]; simp
  go_wp2_with (go_at_call 44; refine (CE _ hbel).mono ?_; rintro e w2 ⟨rfl, hb⟩; have hbel := hbel.trans (hb.mono hbel.size))
  go_ret
  exact ⟨rfl, hbel⟩
set_option maxRecDepth 100000 in
set_option maxHeartbeats 12800000 in
theorem refSameBlk_any (ch : ByteArray) (ht tm : Int) (a1 : Option Addr) (n1 c1 : Nat) (es : List Ev) (ch2 : ByteArray) (ht2 tm2 : Int) (a2 : Option Addr) (n2 c2 : Nat) (fs : List Ev) (w : World) (h1 : RowAt w a1 (es.flatMap Ev.cells)) (h2 : RowAt w a2 (fs.flatMap Ev.cells)) (hn : es.length = n1) (hm : fs.length = n2) (hnm : n1 ≤ maxLen) (hmm : n2 ≤ maxLen) :
    Calls Try.prog 18 #[.agg #[.string ch, .int .i64 ht, .int .i64 tm, .slice a1 n1 c1], .agg #[.string ch2, .int .i64 ht2, .int .i64 tm2, .slice a2 n2 c2]] w fun e w' => e = .returned (.bool (sameBlk ⟨ch, ht, tm, es⟩ ⟨ch2, ht2, tm2, fs⟩)) ∧ Below w.heap.size w w' := by
  have hg0 := al2_0 w (.cells #[.string ch, .int .i64 ht, .int .i64 tm, .slice a1 n1 c1] 24) (.cells #[.string ch2, .int .i64 ht2, .int .i64 tm2, .slice a2 n2 c2] 24)
  have hh0 := al2_1 w (.cells #[.string ch, .int .i64 ht, .int .i64 tm, .slice a1 n1 c1] 24) (.cells #[.string ch2, .int .i64 ht2, .int .i64 tm2, .slice a2 n2 c2] 24)
  have hbA := al2_below w (.cells #[.string ch, .int .i64 ht, .int .i64 tm, .slice a1 n1 c1] 24) (.cells #[.string ch2, .int .i64 ht2, .int .i64 tm2, .slice a2 n2 c2] 24)
  obtain ⟨k0, e0⟩ : ∃ b, (ch.toList == ch2.toList) = b := ⟨_, rfl⟩
  obtain ⟨k1, e1⟩ : ∃ b, (ht == ht2) = b := ⟨_, rfl⟩
  obtain ⟨k2, e2⟩ : ∃ b, (tm == tm2) = b := ⟨_, rfl⟩
  obtain ⟨k3, e3⟩ : ∃ b, evsB es fs = b := ⟨_, rfl⟩
  have hS : sameBlk ⟨ch, ht, tm, es⟩ ⟨ch2, ht2, tm2, fs⟩ = (k0 && k1 && k2 && k3) := by unfold sameBlk; simp only [e0, e1, e2, e3]
  obtain ⟨r, hr⟩ : ∃ r, (k0 && k1 && k2 && k3) = r := ⟨_, rfl⟩
  rw [hS, hr]
  have HR := Lib.hid hr
  clear hS hr
  have g0 : (ch.toList != ch2.toList) = !k0 := by rw [← e0]; rfl
  have g1 : (ht != ht2) = !k1 := by rw [← e1]; rfl
  have g2 : (tm != tm2) = !k2 := by rw [← e2]; rfl
  have HF := Lib.hid e3
  have HN := Lib.hid hn
  have HM := Lib.hid hm
  clear e3
  unfold maxLen at hnm
  go_enter Try.func18, Try.ntmps18
  go_upto_region 1 with fail
  refine wp_nameE _ (fun W1 hX => ?_)
  have hg : W1.heap[w.heap.size]? = some (.cells #[.string ch, .int .i64 ht, .int .i64 tm, .slice a1 n1 c1] 24 (0, 0)) := by rw [hX]; exact hg0
  have hh : W1.heap[w.heap.size + 1]? = some (.cells #[.string ch2, .int .i64 ht2, .int .i64 tm2, .slice a2 n2 c2] 24 (0, 0)) := by rw [hX]; exact hh0
  have hbel : Below w.heap.size w W1 := by rw [hX]; exact hbA
  clear hX hg0 hh0 hbA
  have hgl : w.heap.size < W1.heap.size := (Array.getElem?_eq_some_iff.1 hg).1
  have hhl : w.heap.size + 1 < W1.heap.size := (Array.getElem?_eq_some_iff.1 hh).1
  have q0 := cell_heap hg 0; have q1 := cell_heap hg 1; have q2 := cell_heap hg 2; have q3 := cell_heap hg 3; have r0 := cell_heap hh 0; have r1 := cell_heap hh 1; have r2 := cell_heap hh 2; have r3 := cell_heap hh 3
  cases k0
  · obtain rfl : false = r := by rw [← HR.out]; simp
    simp only [Bool.not_false] at g0
    go_wp2
    go_ret
    exact ⟨rfl, hbel⟩
  cases k1
  · obtain rfl : false = r := by rw [← HR.out]; simp
    simp only [Bool.not_false, Bool.not_true] at g0 g1
    go_wp2
    go_ret
    exact ⟨rfl, hbel⟩
  cases k2
  · obtain rfl : false = r := by rw [← HR.out]; simp
    simp only [Bool.not_false, Bool.not_true] at g0 g1 g2
    go_wp2
    go_ret
    exact ⟨rfl, hbel⟩
  simp only [Bool.not_true] at g0 g1 g2
  by_cases hnn : n1 = n2
  · subst hnn
    have e9 : ((n1 : Int) != (n1 : Int)) = false := by simp
    have e9n : (n1 != n1) = false := by simp
    clear hn hm
    have HF : Hid (evsB es fs = r) := Lib.hid (by rw [HF.out, ← HR.out]; simp)
    clear HR
    go_upto_region 4 with fail
    go_loopw [5] (fun i wr => ∃ k : Nat, k ≤ n1 ∧ i = .int .i64 k ∧ Hid (es.take k = fs.take k) ∧ Below W1.heap.size W1 wr) (fun i _ => n1 - (intOf i).toNat)
    case atStart => exact ⟨0, Nat.zero_le _, rfl, Lib.hid rfl, Below.refl _ _⟩
    case round =>
    obtain ⟨k, hk, rfl, HT, hb⟩ := hrel
    have hg := cells_of hg hb hgl; have hh := cells_of hh hb hhl; have hgl := Nat.lt_of_lt_of_le hgl hb.size; have hhl := Nat.lt_of_lt_of_le hhl hb.size; have hbel := hbel.trans (hb.mono hbel.size); have q0 := cell_heap hg 0; have q1 := cell_heap hg 1; have q2 := cell_heap hg 2; have q3 := cell_heap hg 3; have r0 := cell_heap hh 0; have r1 := cell_heap hh 1; have r2 := cell_heap hh 2; have r3 := cell_heap hh 3
    have hcb := (beyond_cells (W := wr)).1
    have hfb := (beyond_cells (W := wr)).2
    by_cases hlt : k < n1
    · have d1 : decide ((k : Int) < (n1 : Int)) = true := decide_eq_true (by omega)
      have d1n : decide (k < n1) = true := decide_eq_true hlt
      have hkl : k < es.length := by rw [HN.out]; exact hlt
      have hkm : k < fs.length := by rw [HM.out]; exact hlt
      obtain ⟨b1, o1, rfl, hb1, hg1⟩ := ev_range (h1.below hbel) hkl
      obtain ⟨b2, o2, rfl, hb2, hg2⟩ := ev_range (h2.below hbel) hkm
      obtain ⟨⟨kd, sp, sc, dp, dc, sq, da, th, ta, ack, ep, ec, eh⟩, hp⟩ : ∃ p, es[k] = p := ⟨_, rfl⟩
      obtain ⟨⟨kd2, sp2, sc2, dp2, dc2, sq2, da2, th2, ta2, ack2, ep2, ec2, eh2⟩, hp2⟩ : ∃ p, fs[k] = p := ⟨_, rfl⟩
      rw [hp] at hg1
      rw [hp2] at hg2
      have l1 := fun m => load_ev hg1 hb1 m
      have l2 := fun m => load_ev hg2 hb2 m
      simp only [Ev.row] at l1 l2
      have hEQ := run_equal_ev kd kd2 sp sp2 sc sc2 dp dp2 dc dc2 sq sq2 da da2 th th2 ta ta2 ack ack2 ep ep2 ec ec2 eh eh2
      obtain ⟨eb, heb⟩ : ∃ b, evB ⟨kd, sp, sc, dp, dc, sq, da, th, ta, ack, ep, ec, eh⟩ ⟨kd2, sp2, sc2, dp2, dc2, sq2, da2, th2, ta2, ack2, ep2, ec2, eh2⟩ = b := ⟨_, rfl⟩
      rw [heb] at hEQ
      have n0 : (0 : Int) ≤ (k : Int) := by omega
      have n1' : (k : Int) < (n1 : Int) := by omega
      have n2' : ((k : Nat) : Int).toNat = k := by omega
      cases eb
      · have hbad : r = false := by
          rw [← HF.out]
          refine evsB_ne (fun q => ?_)
          have : (⟨kd, sp, sc, dp, dc, sq, da, th, ta, ack, ep, ec, eh⟩ : Ev) = ⟨kd2, sp2, sc2, dp2, dc2, sq2, da2, th2, ta2, ack2, ep2, ec2, eh2⟩ := by subst q; rw [← hp, ← hp2]
          rw [(evB_iff _ _).2 this] at heb; cases heb
        subst hbad
        clear heb hp hp2 hg1 hg2
        go_upto_region 6 with fail
        refine wp_region_below (by kernel_rfl) (by kernel_rfl) ?_
        repeat (first | (go_big_quiet_want; refine qload9 (v := .agg #[.int .i64 kd, .string sp, .int .i64 sc, .string dp, .int .i64 dc, .int .i64 sq, .string da, .int .i64 th, .int .i64 ta, .string ack, .string ep, .int .i64 ec, .int .i64 eh]) 43 (.tmp 44) rfl (by rfl) (by rintro _ ⟨m, rfl⟩; exact l1 m) ?_; simp only [Act.put, List.setIfInBounds_toArray, List.set_cons_succ, List.set_cons_zero]; go_big_quiet_on) | (go_big_quiet_want; refine qload9 (v := .agg #[.int .i64 kd2, .string sp2, .int .i64 sc2, .string dp2, .int .i64 dc2, .int .i64 sq2, .string da2, .int .i64 th2, .int .i64 ta2, .string ack2, .string ep2, .int .i64 ec2, .int .i64 eh2]) 43 (.tmp 49) rfl (by rfl) (by rintro _ ⟨m, rfl⟩; exact l2 m) ?_; simp only [Act.put, List.setIfInBounds_toArray, List.set_cons_succ, List.set_cons_zero]; go_big_quiet_on) | (go_big_quiet_step (fail)))
        intro w9 hw9
        have hb9 := beyond_below hw9
        go_wp2
        go_ret
        exact ⟨rfl, hbel.trans (hb9.mono hbel.size)⟩
      · have hsame : es.take (k + 1) = fs.take (k + 1) := by rw [List.take_succ_eq_append_getElem hkl, List.take_succ_eq_append_getElem hkm, HT.out, hp, hp2, (evB_iff _ _).1 heb]
        have HS := Lib.hid hsame
        clear heb hp hp2 hg1 hg2 hsame
        go_upto_region 6 with fail
        refine wp_region_below (by kernel_rfl) (by kernel_rfl) ?_
        repeat (first | (go_big_quiet_want; refine qload9 (v := .agg #[.int .i64 kd, .string sp, .int .i64 sc, .string dp, .int .i64 dc, .int .i64 sq, .string da, .int .i64 th, .int .i64 ta, .string ack, .string ep, .int .i64 ec, .int .i64 eh]) 43 (.tmp 44) rfl (by rfl) (by rintro _ ⟨m, rfl⟩; exact l1 m) ?_; simp only [Act.put, List.setIfInBounds_toArray, List.set_cons_succ, List.set_cons_zero]; go_big_quiet_on) | (go_big_quiet_want; refine qload9 (v := .agg #[.int .i64 kd2, .string sp2, .int .i64 sc2, .string dp2, .int .i64 dc2, .int .i64 sq2, .string da2, .int .i64 th2, .int .i64 ta2, .string ack2, .string ep2, .int .i64 ec2, .int .i64 eh2]) 43 (.tmp 49) rfl (by rfl) (by rintro _ ⟨m, rfl⟩; exact l2 m) ?_; simp only [Act.put, List.setIfInBounds_toArray, List.set_cons_succ, List.set_cons_zero]; go_big_quiet_on) | (go_big_quiet_step (fail)))
        intro w9 hw9
        have hb9 := beyond_below hw9
        go_wp2
        go_roundw
        case rel => exact ⟨k + 1, by omega, by go_num, HS, hb.trans (hb9.mono hb.size)⟩
        case measure => (simp [intOf]) <;> omega
    · have d1 : decide ((k : Int) < (n1 : Int)) = false := decide_eq_false (by omega)
      have d1n : decide (k < n1) = false := decide_eq_false hlt
      have hgood : r = true := by
        have := HT.out
        rw [List.take_of_length_le (by rw [HN.out]; omega), List.take_of_length_le (by rw [HM.out]; omega)] at this
        rw [← HF.out]; exact (evsB_iff _ _).2 this
      subst hgood
      go_wp2
      go_ret
      exact ⟨rfl, hbel⟩
  · have e9 : ((n1 : Int) != (n2 : Int)) = true := by simpa using fun h => hnn (by omega)
    have e9n : (n1 != n2) = true := by simpa using hnn
    have hk3 : k3 = false := by rw [← HF.out]; exact evsB_ne (fun q => hnn (by rw [← hn, ← hm, q]))
    subst hk3
    obtain rfl : false = r := by rw [← HR.out]; simp
    clear hn hm hnn
    go_wp2
    go_ret
    exact ⟨rfl, hbel⟩
end Go.Proofs.Ytcbacchelabljaa
