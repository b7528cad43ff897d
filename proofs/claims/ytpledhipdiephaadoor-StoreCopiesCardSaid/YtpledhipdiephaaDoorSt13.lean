/- Root of a copied store; ligkeep.Pairs; two stores side by side. -/
import Derived.Test.YtpledhipdiephaaDoorSt12
import Derived.Deep.Cut
import Derived.BigRegion
import Derived.RegionTactic
import Derived.BigQuiet
import Derived.Deep.QuietTactic
import Derived.Deep.MidRow
import Derived.Deep.RegionLaw
import Derived.OneCell
import Derived.Deep.RegionHeld
import Derived.LoopTactic
import Derived.BigFrame
import Derived.WalkKit
import Derived.ProofKit
import Derived.Handy
import Derived.Below
import Derived.Lib.Hide
import Derived.IntWalk
import Derived.Outline
import Derived.WalkLawsBesides
import Derived.WalkSpells
namespace Go.Proofs.YtpledhipdiephaaDoor
open Go.RowKit
attribute [local go_sem] strV
set_option linter.unusedVariables false
set_option linter.unusedSimpArgs false
set_option maxRecDepth 100000 in
set_option maxHeartbeats 6400000 in
theorem rootC_any (B g : Nat) (r : Option Nat) (l : List Pr) (w : World) (hW : SW w) (h : StC w B g r l) (hn6 : l.length ≤ 100000) :
    Calls Tryd.prog 16 #[.pointer (some ⟨g, 0, none⟩)] w fun e w' => e = .returned (.agg (rootL l)) ∧ Below w.heap.size w w' := by
  obtain ⟨hgd, _, a, cap, hg, hown, _⟩ := h
  obtain ⟨_, _, e9, hr, hcap, hcm, hnone⟩ := own_sliceN hown
  cases e9
  have hsz : ∀ p ∈ l, p.k.size ≤ 1000000 ∧ p.v.size ≤ 1000000 := fun p hp => by have := goodL_fits hgd hp; omega
  have CR := fun W (hb : Below w.heap.size w W) => proofRoot_any a l.length cap l W (hW.below hb) (hr.below hb) rfl (by omega) hcap hsz
  have hq := heap_push w #[Value.int .u8 0, Value.int .u8 0, Value.int .u8 0, Value.int .u8 0, Value.int .u8 0, Value.int .u8 0, Value.int .u8 0, Value.int .u8 0, Value.int .u8 0, Value.int .u8 0, Value.int .u8 0, Value.int .u8 0, Value.int .u8 0, Value.int .u8 0, Value.int .u8 0, Value.int .u8 0, Value.int .u8 0, Value.int .u8 0, Value.int .u8 0, Value.int .u8 0, Value.int .u8 0, Value.int .u8 0, Value.int .u8 0, Value.int .u8 0, Value.int .u8 0, Value.int .u8 0, Value.int .u8 0, Value.int .u8 0, Value.int .u8 0, Value.int .u8 0, Value.int .u8 0, Value.int .u8 0] 35
  have hb0 : Below w.heap.size w (w.alloc (.cells #[Value.int .u8 0, Value.int .u8 0, Value.int .u8 0, Value.int .u8 0, Value.int .u8 0, Value.int .u8 0, Value.int .u8 0, Value.int .u8 0, Value.int .u8 0, Value.int .u8 0, Value.int .u8 0, Value.int .u8 0, Value.int .u8 0, Value.int .u8 0, Value.int .u8 0, Value.int .u8 0, Value.int .u8 0, Value.int .u8 0, Value.int .u8 0, Value.int .u8 0, Value.int .u8 0, Value.int .u8 0, Value.int .u8 0, Value.int .u8 0, Value.int .u8 0, Value.int .u8 0, Value.int .u8 0, Value.int .u8 0, Value.int .u8 0, Value.int .u8 0, Value.int .u8 0, Value.int .u8 0] 35)) := Below.alloc (Below.refl _ _) (Nat.le_refl _) _
  have hc : (w.alloc (.cells #[Value.int .u8 0, Value.int .u8 0, Value.int .u8 0, Value.int .u8 0, Value.int .u8 0, Value.int .u8 0, Value.int .u8 0, Value.int .u8 0, Value.int .u8 0, Value.int .u8 0, Value.int .u8 0, Value.int .u8 0, Value.int .u8 0, Value.int .u8 0, Value.int .u8 0, Value.int .u8 0, Value.int .u8 0, Value.int .u8 0, Value.int .u8 0, Value.int .u8 0, Value.int .u8 0, Value.int .u8 0, Value.int .u8 0, Value.int .u8 0, Value.int .u8 0, Value.int .u8 0, Value.int .u8 0, Value.int .u8 0, Value.int .u8 0, Value.int .u8 0, Value.int .u8 0, Value.int .u8 0] 35)).cell? ⟨g, 0, none⟩ = some (.slice a l.length cap) := cell_heap (cells_of hg hb0 (row_lt hg)) 0
  obtain ⟨R, hR⟩ := rootL_of l
  have CR : ∀ W (hb : Below w.heap.size w W), Calls Tryd.prog 52 #[.slice a l.length cap] W fun e w' => e = .returned (.agg (hrow R.1)) ∧ Below W.heap.size W w' := fun W hb => by rw [← hR]; exact CR W hb
  rw [hR]
  have hRs : (hrow R.1).size = 32 := by rw [hrow_size]; exact R.2
  have hRo := hrow_one R.1
  clear hR hsz
  go_enter Tryd.func16, Tryd.ntmps16
  go_upto_region 1 with fail
  refine wp_nameE _ (fun W1 hX => ?_)
  have y2 : W1.heap[w.heap.size]? = some (.cells #[Value.int .u8 0, Value.int .u8 0, Value.int .u8 0, Value.int .u8 0, Value.int .u8 0, Value.int .u8 0, Value.int .u8 0, Value.int .u8 0, Value.int .u8 0, Value.int .u8 0, Value.int .u8 0, Value.int .u8 0, Value.int .u8 0, Value.int .u8 0, Value.int .u8 0, Value.int .u8 0, Value.int .u8 0, Value.int .u8 0, Value.int .u8 0, Value.int .u8 0, Value.int .u8 0, Value.int .u8 0, Value.int .u8 0, Value.int .u8 0, Value.int .u8 0, Value.int .u8 0, Value.int .u8 0, Value.int .u8 0, Value.int .u8 0, Value.int .u8 0, Value.int .u8 0, Value.int .u8 0] 35 (0, 0)) := by rw [hX]; exact hq
  have hbel : Below w.heap.size w W1 := by rw [hX]; exact hb0
  have hc : W1.cell? ⟨g, 0, none⟩ = some (.slice a l.length cap) := by rw [hX]; exact hc
  clear hX hq hb0
  have hy2 := (Array.getElem?_eq_some_iff.1 y2).1
  go_wp2_with (first | (go_at_call 52; refine (CR _ hbel).mono ?_; rintro e w4 ⟨rfl, hb⟩; have y2 := cells_of y2 hb hy2; have hbel := hbel.trans (hb.mono hbel.size); have hy2 := Nat.lt_of_lt_of_le hy2 hb.size; clear hb) | (refine wpList_storeRowTo (Z := hrow R.1) rfl (.tmp 2) (.tmp 7) 35 rfl (by rw [hRs]; kernel_rfl) rfl rfl y2 (by rw [hRs]; rfl) hRo ?_))
  have hrd := run_loadVar_row (P := Tryd.prog) _ _ 35 35 _ (0, 0) _ (setRow_heap _ _ _ _ _ _ y2) Tryd.underlying35 rfl (by rw [hRs]; kernel_rfl)
  refine bodyPost_ret (v := .agg (hrow R.1)) ?_ rfl ?_
  · simp [results, Tryd.results16, asAddr, Act.put, hrd]
    try rfl
  exact ⟨rfl, below_setRow hbel (Nat.le_refl _) _⟩
set_option maxRecDepth 100000 in
set_option maxHeartbeats 6400000 in
theorem pairsSame_any (a1 : Option Addr) (n c1 : Nat) (a2 : Option Addr) (c2 : Nat) (l : List Pr) (w : World) (hr1 : RowAt w a1 (l.flatMap Pr.cells)) (hr2 : RowAt w a2 (l.flatMap Pr.cells)) (hn : l.length = n) (hm : n ≤ 1000000) :
    Calls Tryd.prog 20 #[.slice a1 n c1, .slice a2 n c2] w fun e w' => e = .returned (.bool true) ∧ Below w.heap.size w w' := by
  have HN := Lib.hid hn
  clear hn
  go_enter Tryd.func20, Tryd.ntmps20
  go_wp2
  go_loopw [5] (fun i wr => ∃ k : Nat, k ≤ n ∧ i = .int .i64 k ∧ Below w.heap.size w wr) (fun i _ => n - (intOf i).toNat)
  case atStart => exact ⟨0, Nat.zero_le _, rfl, Below.refl _ _⟩
  case round =>
    obtain ⟨k, hk, rfl, hbel⟩ := hrel
    by_cases hlt : k < n
    rotate_left
    · obtain rfl : n = k := by omega
      have d1 : decide ((n : Int) < (n : Int)) = false := decide_eq_false (by omega)
      have d1n : decide (n < n) = false := decide_eq_false (by omega)
      go_wp2
      go_ret
      exact ⟨by first | rfl | simp, hbel⟩
    have hkl : k < l.length := by rw [HN.out]; exact hlt
    obtain ⟨b1, o1, rfl, hb1, hg1⟩ := pr_range hr1 hkl
    obtain ⟨b2, o2, rfl, hb2, hg2⟩ := pr_range hr2 hkl
    obtain ⟨⟨pk, pv⟩, hp9⟩ : ∃ p, l[k] = p := ⟨_, rfl⟩
    rw [hp9] at hg1 hg2
    have q0 : w.cell? ⟨b1, o1 + k * 2, none⟩ = some (.string pk) := hg1 0 _ rfl
    have q1 : w.cell? ⟨b1, o1 + k * 2 + 1, none⟩ = some (.string pv) := hg1 1 _ rfl
    have p0 : w.cell? ⟨b2, o2 + k * 2, none⟩ = some (.string pk) := hg2 0 _ rfl
    have p1 : w.cell? ⟨b2, o2 + k * 2 + 1, none⟩ = some (.string pv) := hg2 1 _ rfl
    have d1 : decide ((k : Int) < (n : Int)) = true := decide_eq_true (by omega)
    have d1n : decide (k < n) = true := decide_eq_true hlt
    have k0 : (0 : Int) ≤ (k : Int) := by omega
    have k1 : (k : Int) < (n : Int) := by omega
    have k2 : ((k : Nat) : Int).toNat = k := by omega
    clear hp9 hg1 hg2
    go_upto_region 6 with fail
    refine wp_region_held_drew (S := fun X => Below w.heap.size w X) (by kernel_rfl) (hbel.drew) (fun hS0 => ?_)
    refine wpAnyH_take (i := 0) (v := .slice (some ⟨b1, o1, none⟩) n c1) rfl (by kernel_rfl) (by kernel_rfl) (by kernel_rfl) (fun _ _ _ h => h) (Yields.yieldsIf (Or.inl ⟨by rfl, fun w9 => by (go_simp; first | done | with_reducible rfl | (intro h9; exfalso; omega))⟩)) hS0 ?_
    change wpAnyH _ _ _ _ _ _ _ (Act.put _ (some 17) _) _; dsimp only [Act.put]; simp only [List.setIfInBounds_toArray, List.set_cons_succ, List.set_cons_zero]
    refine wpAnyH_take (i := 1) (v := .int .i64 (k : Int)) rfl (by kernel_rfl) (by kernel_rfl) (by kernel_rfl) (fun _ _ _ h => h) (Yields.yieldsIf (Or.inl ⟨by rfl, fun w9 => by (go_simp; first | done | with_reducible rfl | (intro h9; exfalso; omega))⟩)) hS0 ?_
    change wpAnyH _ _ _ _ _ _ _ (Act.put _ (some 18) _) _; dsimp only [Act.put]; simp only [List.setIfInBounds_toArray, List.set_cons_succ, List.set_cons_zero]
    refine wpAnyH_take (i := 2) (v := .pointer (some ⟨b1, o1 + k * 2, none⟩)) rfl (by kernel_rfl) (by kernel_rfl) (by kernel_rfl) (fun _ _ _ h => h) (Yields.yieldsIf (Or.inl ⟨by rfl, fun w9 => by (go_simp; first | done | with_reducible rfl | (intro h9; exfalso; omega))⟩)) hS0 ?_
    change wpAnyH _ _ _ _ _ _ _ (Act.put _ (some 19) _) _; dsimp only [Act.put]; simp only [List.setIfInBounds_toArray, List.set_cons_succ, List.set_cons_zero]
    refine wpAnyH_take (i := 3) (v := .pointer (some ⟨b1, o1 + k * 2, none⟩)) rfl (by kernel_rfl) (by kernel_rfl) (by kernel_rfl) (fun _ _ _ h => h) (Yields.yieldsIf (Or.inl ⟨by rfl, fun w9 => by (go_simp; first | done | with_reducible rfl | (intro h9; exfalso; omega))⟩)) hS0 ?_
    change wpAnyH _ _ _ _ _ _ _ (Act.put _ (some 20) _) _; dsimp only [Act.put]; simp only [List.setIfInBounds_toArray, List.set_cons_succ, List.set_cons_zero]
    refine wpAnyH_take (i := 4) (v := .string pk) rfl (by kernel_rfl) (by kernel_rfl) (by kernel_rfl) (fun _ _ _ h => h) (Or.inl ⟨by rfl, fun w9 hS9 => by have hc9 := (hS9.cell hb1).trans q0; go_simp; try with_reducible rfl⟩) hS0 ?_
    change wpAnyH _ _ _ _ _ _ _ (Act.put _ (some 21) _) _; dsimp only [Act.put]; simp only [List.setIfInBounds_toArray, List.set_cons_succ, List.set_cons_zero]
    refine wpAnyH_take (i := 5) (v := .slice (some ⟨b2, o2, none⟩) n c2) rfl (by kernel_rfl) (by kernel_rfl) (by kernel_rfl) (fun _ _ _ h => h) (Yields.yieldsIf (Or.inl ⟨by rfl, fun w9 => by (go_simp; first | done | with_reducible rfl | (intro h9; exfalso; omega))⟩)) hS0 ?_
    change wpAnyH _ _ _ _ _ _ _ (Act.put _ (some 22) _) _; dsimp only [Act.put]; simp only [List.setIfInBounds_toArray, List.set_cons_succ, List.set_cons_zero]
    refine wpAnyH_take (i := 6) (v := .int .i64 (k : Int)) rfl (by kernel_rfl) (by kernel_rfl) (by kernel_rfl) (fun _ _ _ h => h) (Yields.yieldsIf (Or.inl ⟨by rfl, fun w9 => by (go_simp; first | done | with_reducible rfl | (intro h9; exfalso; omega))⟩)) hS0 ?_
    change wpAnyH _ _ _ _ _ _ _ (Act.put _ (some 23) _) _; dsimp only [Act.put]; simp only [List.setIfInBounds_toArray, List.set_cons_succ, List.set_cons_zero]
    refine wpAnyH_take (i := 7) (v := .pointer (some ⟨b2, o2 + k * 2, none⟩)) rfl (by kernel_rfl) (by kernel_rfl) (by kernel_rfl) (fun _ _ _ h => h) (Yields.yieldsIf (Or.inl ⟨by rfl, fun w9 => by (go_simp; first | done | with_reducible rfl | (intro h9; exfalso; omega))⟩)) hS0 ?_
    change wpAnyH _ _ _ _ _ _ _ (Act.put _ (some 24) _) _; dsimp only [Act.put]; simp only [List.setIfInBounds_toArray, List.set_cons_succ, List.set_cons_zero]
    refine wpAnyH_take (i := 8) (v := .pointer (some ⟨b2, o2 + k * 2, none⟩)) rfl (by kernel_rfl) (by kernel_rfl) (by kernel_rfl) (fun _ _ _ h => h) (Yields.yieldsIf (Or.inl ⟨by rfl, fun w9 => by (go_simp; first | done | with_reducible rfl | (intro h9; exfalso; omega))⟩)) hS0 ?_
    change wpAnyH _ _ _ _ _ _ _ (Act.put _ (some 25) _) _; dsimp only [Act.put]; simp only [List.setIfInBounds_toArray, List.set_cons_succ, List.set_cons_zero]
    refine wpAnyH_take (i := 9) (v := .string pk) rfl (by kernel_rfl) (by kernel_rfl) (by kernel_rfl) (fun _ _ _ h => h) (Or.inl ⟨by rfl, fun w9 hS9 => by have hc9 := (hS9.cell hb2).trans p0; go_simp; try with_reducible rfl⟩) hS0 ?_
    change wpAnyH _ _ _ _ _ _ _ (Act.put _ (some 26) _) _; dsimp only [Act.put]; simp only [List.setIfInBounds_toArray, List.set_cons_succ, List.set_cons_zero]
    refine wpAnyH_take (i := 10) (v := .bool false) rfl (by kernel_rfl) (by kernel_rfl) (by kernel_rfl) (fun _ _ _ h => h) (Yields.yieldsIf (Or.inl ⟨by rfl, fun w9 => by (go_simp; first | done | with_reducible rfl | (intro h9; exfalso; omega))⟩)) hS0 ?_
    change wpAnyH _ _ _ _ _ _ _ (Act.put _ (some 27) _) _; dsimp only [Act.put]; simp only [List.setIfInBounds_toArray, List.set_cons_succ, List.set_cons_zero]
    refine wpAnyH_take (i := 11) (v := .bool false) rfl (by kernel_rfl) (by kernel_rfl) (by kernel_rfl) (fun _ _ _ h => h) (Yields.yieldsIf (Or.inl ⟨by rfl, fun w9 => by (go_simp; first | done | with_reducible rfl | (intro h9; exfalso; omega))⟩)) hS0 ?_
    change wpAnyH _ _ _ _ _ _ _ (Act.put _ (some 28) _) _; dsimp only [Act.put]; simp only [List.setIfInBounds_toArray, List.set_cons_succ, List.set_cons_zero]
    refine wpAnyH_take (i := 12) (v := .slice (some ⟨b1, o1, none⟩) n c1) rfl (by kernel_rfl) (by kernel_rfl) (by kernel_rfl) (fun _ _ _ h => h) (Yields.yieldsIf (Or.inl ⟨by rfl, fun w9 => by (go_simp; first | done | with_reducible rfl | (intro h9; exfalso; omega))⟩)) hS0 ?_
    change wpAnyH _ _ _ _ _ _ _ (Act.put _ (some 29) _) _; dsimp only [Act.put]; simp only [List.setIfInBounds_toArray, List.set_cons_succ, List.set_cons_zero]
    refine wpAnyH_take (i := 13) (v := .int .i64 (k : Int)) rfl (by kernel_rfl) (by kernel_rfl) (by kernel_rfl) (fun _ _ _ h => h) (Yields.yieldsIf (Or.inl ⟨by rfl, fun w9 => by (go_simp; first | done | with_reducible rfl | (intro h9; exfalso; omega))⟩)) hS0 ?_
    change wpAnyH _ _ _ _ _ _ _ (Act.put _ (some 30) _) _; dsimp only [Act.put]; simp only [List.setIfInBounds_toArray, List.set_cons_succ, List.set_cons_zero]
    refine wpAnyH_take (i := 14) (v := .pointer (some ⟨b1, o1 + k * 2, none⟩)) rfl (by kernel_rfl) (by kernel_rfl) (by kernel_rfl) (fun _ _ _ h => h) (Yields.yieldsIf (Or.inl ⟨by rfl, fun w9 => by (go_simp; first | done | with_reducible rfl | (intro h9; exfalso; omega))⟩)) hS0 ?_
    change wpAnyH _ _ _ _ _ _ _ (Act.put _ (some 31) _) _; dsimp only [Act.put]; simp only [List.setIfInBounds_toArray, List.set_cons_succ, List.set_cons_zero]
    refine wpAnyH_take (i := 15) (v := .pointer (some ⟨b1, o1 + k * 2 + 1, none⟩)) rfl (by kernel_rfl) (by kernel_rfl) (by kernel_rfl) (fun _ _ _ h => h) (Yields.yieldsIf (Or.inl ⟨by rfl, fun w9 => by (go_simp; first | done | with_reducible rfl | (intro h9; exfalso; omega))⟩)) hS0 ?_
    change wpAnyH _ _ _ _ _ _ _ (Act.put _ (some 32) _) _; dsimp only [Act.put]; simp only [List.setIfInBounds_toArray, List.set_cons_succ, List.set_cons_zero]
    refine wpAnyH_take (i := 16) (v := .string pv) rfl (by kernel_rfl) (by kernel_rfl) (by kernel_rfl) (fun _ _ _ h => h) (Or.inl ⟨by rfl, fun w9 hS9 => by have hc9 := (hS9.cell hb1).trans q1; go_simp; try with_reducible rfl⟩) hS0 ?_
    change wpAnyH _ _ _ _ _ _ _ (Act.put _ (some 33) _) _; dsimp only [Act.put]; simp only [List.setIfInBounds_toArray, List.set_cons_succ, List.set_cons_zero]
    refine wpAnyH_take (i := 17) (v := .slice (some ⟨b2, o2, none⟩) n c2) rfl (by kernel_rfl) (by kernel_rfl) (by kernel_rfl) (fun _ _ _ h => h) (Yields.yieldsIf (Or.inl ⟨by rfl, fun w9 => by (go_simp; first | done | with_reducible rfl | (intro h9; exfalso; omega))⟩)) hS0 ?_
    change wpAnyH _ _ _ _ _ _ _ (Act.put _ (some 34) _) _; dsimp only [Act.put]; simp only [List.setIfInBounds_toArray, List.set_cons_succ, List.set_cons_zero]
    refine wpAnyH_take (i := 18) (v := .int .i64 (k : Int)) rfl (by kernel_rfl) (by kernel_rfl) (by kernel_rfl) (fun _ _ _ h => h) (Yields.yieldsIf (Or.inl ⟨by rfl, fun w9 => by (go_simp; first | done | with_reducible rfl | (intro h9; exfalso; omega))⟩)) hS0 ?_
    change wpAnyH _ _ _ _ _ _ _ (Act.put _ (some 35) _) _; dsimp only [Act.put]; simp only [List.setIfInBounds_toArray, List.set_cons_succ, List.set_cons_zero]
    refine wpAnyH_take (i := 19) (v := .pointer (some ⟨b2, o2 + k * 2, none⟩)) rfl (by kernel_rfl) (by kernel_rfl) (by kernel_rfl) (fun _ _ _ h => h) (Yields.yieldsIf (Or.inl ⟨by rfl, fun w9 => by (go_simp; first | done | with_reducible rfl | (intro h9; exfalso; omega))⟩)) hS0 ?_
    change wpAnyH _ _ _ _ _ _ _ (Act.put _ (some 36) _) _; dsimp only [Act.put]; simp only [List.setIfInBounds_toArray, List.set_cons_succ, List.set_cons_zero]
    refine wpAnyH_take (i := 20) (v := .pointer (some ⟨b2, o2 + k * 2 + 1, none⟩)) rfl (by kernel_rfl) (by kernel_rfl) (by kernel_rfl) (fun _ _ _ h => h) (Yields.yieldsIf (Or.inl ⟨by rfl, fun w9 => by (go_simp; first | done | with_reducible rfl | (intro h9; exfalso; omega))⟩)) hS0 ?_
    change wpAnyH _ _ _ _ _ _ _ (Act.put _ (some 37) _) _; dsimp only [Act.put]; simp only [List.setIfInBounds_toArray, List.set_cons_succ, List.set_cons_zero]
    refine wpAnyH_take (i := 21) (v := .string pv) rfl (by kernel_rfl) (by kernel_rfl) (by kernel_rfl) (fun _ _ _ h => h) (Or.inl ⟨by rfl, fun w9 hS9 => by have hc9 := (hS9.cell hb2).trans p1; go_simp; try with_reducible rfl⟩) hS0 ?_
    change wpAnyH _ _ _ _ _ _ _ (Act.put _ (some 38) _) _; dsimp only [Act.put]; simp only [List.setIfInBounds_toArray, List.set_cons_succ, List.set_cons_zero]
    refine wpAnyH_take (i := 22) (v := .bool false) rfl (by kernel_rfl) (by kernel_rfl) (by kernel_rfl) (fun _ _ _ h => h) (Yields.yieldsIf (Or.inl ⟨by rfl, fun w9 => by (go_simp; first | done | with_reducible rfl | (intro h9; exfalso; omega))⟩)) hS0 ?_
    change wpAnyH _ _ _ _ _ _ _ (Act.put _ (some 39) _) _; dsimp only [Act.put]; simp only [List.setIfInBounds_toArray, List.set_cons_succ, List.set_cons_zero]
    refine wpAnyH_take (i := 23) (v := .bool false) rfl (by kernel_rfl) (by kernel_rfl) (by kernel_rfl) (fun _ _ _ h => h) (Yields.yieldsIf (Or.inl ⟨by rfl, fun w9 => by (go_simp; first | done | with_reducible rfl | (intro h9; exfalso; omega))⟩)) hS0 ?_
    change wpAnyH _ _ _ _ _ _ _ (Act.put _ (some 40) _) _; dsimp only [Act.put]; simp only [List.setIfInBounds_toArray, List.set_cons_succ, List.set_cons_zero]
    refine wpAnyH_done (by kernel_rfl) ?_ _
    go_wp2
    go_roundw
    case rel => exact ⟨k + 1, by omega, by go_num, hS0⟩
    case measure => (simp [intOf]) <;> omega
/-- Two stores side by side, above B, one of them perhaps a copy. -/
def Duo (B : Nat) (w : World) (g1 : Nat) (l1 : List Pr) (g2 : Nat) (l2 : List Pr) : Prop := ∃ r1 r2, StC w B g1 r1 l1 ∧ StC w B g2 r2 l2 ∧ g1 ≠ g2 ∧ (r1 = none ∨ r2 = none ∨ r1 ≠ r2) ∧ B ≤ w.heap.size
theorem Duo.symm {B g1 g2 : Nat} {w : World} {l1 l2 : List Pr} (h : Duo B w g1 l1 g2 l2) : Duo B w g2 l2 g1 l1 := by
  obtain ⟨r1, r2, h1, h2, h3, h4, h7⟩ := h
  refine ⟨r2, r1, h2, h1, h3.symm, ?_, h7⟩
  rcases h4 with h4 | h4 | h4
  · exact .inr (.inl h4)
  · exact .inl h4
  · exact .inr (.inr h4.symm)
theorem Duo.kept {B g1 g2 : Nat} {w w' : World} {l1 l2 : List Pr} (h : Duo B w g1 l1 g2 l2) (hb : Below w.heap.size w w') : Duo B w' g1 l1 g2 l2 := by
  obtain ⟨r1, r2, h1, h2, h3, h4, h7⟩ := h
  exact ⟨r1, r2, h1.kept hb, h2.kept hb, h3, h4, Nat.le_trans h7 hb.size⟩
theorem Duo.base {B g1 g2 : Nat} {w : World} {l1 l2 : List Pr} (h : Duo B w g1 l1 g2 l2) : B ≤ w.heap.size := by
  obtain ⟨r1, r2, h1, h2, h3, h4, h7⟩ := h
  exact h7
theorem Duo.left {B g1 g2 : Nat} {w : World} {l1 l2 : List Pr} (h : Duo B w g1 l1 g2 l2) : ∃ r, StC w B g1 r l1 := by
  obtain ⟨r1, r2, h1, _⟩ := h
  exact ⟨r1, h1⟩
theorem Duo.set {B g1 g2 : Nat} {w w' : World} {l1 l2 l1' : List Pr} {r1 r2 r1' : Option Nat} (h1 : StC w B g1 r1 l1) (h2 : StC w B g2 r2 l2) (h3 : g1 ≠ g2) (h4 : r1 = none ∨ r2 = none ∨ r1 ≠ r2) (h7 : B ≤ w.heap.size)
    (k1 : StC w' B g1 r1' l1') (k2 : Fr w w' g1 r1) (k3 : r1' = r1 ∨ ∃ k, r1' = some k ∧ w.heap.size ≤ k) : Duo B w' g1 l1' g2 l2 ∧ Below B w w' := by
  have hne1 : r1 ≠ some g2 := fun e => by
    obtain ⟨_, _, R, hR⟩ := h1.row g2 e
    obtain ⟨_, _, a, c, hg, _⟩ := h2
    rw [hg] at hR
    simp only [Option.some.injEq, Obj.cells.injEq] at hR
    exact absurd hR.2.1 (by decide)
  have hne2 : r2 ≠ some g1 := fun e => by
    obtain ⟨_, _, R, hR⟩ := h2.row g1 e
    obtain ⟨_, _, a, c, hg, _⟩ := h1
    rw [hg] at hR
    simp only [Option.some.injEq, Obj.cells.injEq] at hR
    exact absurd hR.2.1 (by decide)
  have q2 : StC w' B g2 r2 l2 := by
    refine h2.other k2 h3.symm hne1 hne2 ?_
    rcases h4 with h4 | h4 | h4
    · cases hr : r2 with
      | none => exact .inl rfl
      | some k => right; rw [h4]; simp
    · exact .inl h4
    · exact .inr h4.symm
  have hb : Below B w w' := k2.below h1.2.1 (fun k e => (h1.row k e).1) h7
  refine ⟨⟨r1', r2, k1, q2, h3, ?_, Nat.le_trans h7 k2.size⟩, hb⟩
  rcases k3 with k3 | ⟨k, k3, k4⟩
  · rw [k3]; exact h4
  · cases hr : r2 with
    | none => exact .inr (.inl rfl)
    | some j =>
      have := (h2.row j hr).2.1
      right; right; rw [k3]; intro e; have := Option.some.inj e; omega
theorem Duo.setL_any {B g1 g2 : Nat} {w : World} {l1 l2 : List Pr} (h : Duo B w g1 l1 g2 l2) (hn : l1.length ≤ 100000) (key val : ByteArray) :
    Calls Tryd.prog 13 #[.pointer (some ⟨g1, 0, none⟩), .string key, .string val] w fun e w' => e = .returned (.int .i64 (setE key val)) ∧ Duo B w' g1 (setS l1 key val) g2 l2 ∧ Below B w w' := by
  obtain ⟨r1, r2, h1, h2, h3, h4, h7⟩ := h
  refine (setC_any B g1 r1 l1 key val w h1 hn).mono ?_
  rintro e w' ⟨rfl, r1', k1, k2, k3⟩
  exact ⟨rfl, Duo.set h1 h2 h3 h4 h7 k1 k2 k3⟩
theorem Duo.dropL_any {B g1 g2 : Nat} {w : World} {l1 l2 : List Pr} (h : Duo B w g1 l1 g2 l2) (hn : l1.length ≤ 100000) (key : ByteArray) :
    Calls Tryd.prog 15 #[.pointer (some ⟨g1, 0, none⟩), .string key] w fun e w' => e = .returned (.bool (foundL l1 key)) ∧ Duo B w' g1 (dropL l1 key) g2 l2 ∧ Below B w w' := by
  obtain ⟨r1, r2, h1, h2, h3, h4, h7⟩ := h
  refine (dropC_any B g1 r1 l1 key w h1 hn).mono ?_
  rintro e w' ⟨rfl, k1, k2⟩
  exact ⟨rfl, Duo.set h1 h2 h3 h4 h7 k1 k2 (.inl rfl)⟩
theorem StC.lower {w : World} {B B' g : Nat} {r : Option Nat} {l : List Pr} (h : StC w B g r l) (hB : B' ≤ B) : StC w B' g r l := by
  obtain ⟨h1, h0, a, cap, h2, h3, h4⟩ := h
  exact ⟨h1, Nat.le_trans hB h0, a, cap, h2, own_lower h3 hB, h4⟩
theorem Duo.copy {B g : Nat} {r : Option Nat} {l : List Pr} {w : World} (h : StC w B g r l) (hn : l.length ≤ 100000) (hB : B ≤ w.heap.size) :
    Calls Tryd.prog 18 #[.pointer (some ⟨g, 0, none⟩)] w fun e w' => ∃ g2, e = .returned (.pointer (some ⟨g2, 0, none⟩)) ∧ Duo B w' g l g2 l ∧ Below w.heap.size w w' := by
  refine (copyC_any B g r l w h hn).mono ?_
  rintro e w' ⟨g2, r2, rfl, hc, hb⟩
  have hg := h.lt
  have hg2 := hc.2.1
  refine ⟨g2, rfl, ⟨r, r2, h.kept hb, hc.lower hB, by omega, ?_, Nat.le_trans hB hb.size⟩, hb⟩
  cases hr : r with
  | none => exact .inl rfl
  | some k =>
    right
    cases hr2 : r2 with
    | none => exact .inl rfl
    | some j =>
      have h1 := (h.row k hr).2.1
      have h2 := (hc.row j hr2).1
      right; intro e; have := Option.some.inj e; omega
end Go.Proofs.YtpledhipdiephaaDoor
