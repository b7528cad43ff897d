/- liglaw22.first. -/
import Derived.Test.YtbckncopdkmoeaaLf8
import Derived.Deep.Cut
import Derived.BigRegion
import Derived.RegionTactic
import Derived.WalkKit
import Derived.ProofKit
import Derived.Handy
import Derived.Below
import Derived.Lib.Hide
import Derived.IntWalk
import Derived.Outline
import Derived.WalkLawsBesides
import Derived.WalkSpells
namespace Go.Proofs.Ytbckncopdkmoeaa
open Go.RowKit
attribute [local go_sem] strV
set_option linter.unusedVariables false
set_option linter.unusedSimpArgs false
def ev22 : Ev := ⟨4, ⟨#[97]⟩, 1, ⟨#[98]⟩, 2, 3, ⟨#[]⟩, 0, 0, ⟨#[]⟩, ⟨#[]⟩, 0, 0⟩
def k22 : Lk := ⟨⟨#[97]⟩, 1, true, 3⟩
def r22 : Ent := ⟨⟨#[97]⟩, 1, ⟨#[98]⟩, 2, 3, ⟨#[]⟩, 0, 0, ⟨#[]⟩, false, false, false, true, false⟩
theorem may22 : mayEv ev22 = true := by decide +kernel
theorem key22 : keyE ev22 = k22 := by unfold keyE; rw [if_neg (by decide)]; rfl
theorem fe22 : foldE (fun _ => none) ev22 = 0 := by unfold foldE; rw [if_neg (by simp)]; rfl
theorem fa22 : foldA (fun _ => none) (fun _ _ => false) ev22 = 0 := by unfold foldA; rw [if_pos may22, if_neg (by decide), if_neg (by decide)]; exact fe22
theorem ff22 : foldF (fun _ => none) ev22 k22 = some r22 := by
  unfold foldF
  rw [if_pos ⟨may22, by decide, fe22⟩, key22, setF_same]
  rfl
theorem kw22 : k22.wf := ⟨by decide, by decide, by unfold maxLen; decide⟩
set_option maxRecDepth 100000 in
set_option maxHeartbeats 3200000 in
theorem first22_any (w : World) : Calls Try.prog 29 #[] w fun e w' => e = .returned (.bool true) ∧ Below w.heap.size w w' := by
  have CN := lfNew_any w
  have CF := fun W hT => lfFold_any (w.heap.size + 2) w.heap.size (w.heap.size + 1) 0 (fun _ => none) (fun _ _ => false) 4 ⟨#[97]⟩ 1 ⟨#[98]⟩ 2 3 ⟨#[]⟩ 0 0 ⟨#[]⟩ ⟨#[]⟩ 0 0 W (by unfold maxLen; decide) (by unfold maxLen; decide) (by unfold maxLen; decide) hT (by unfold maxLen; decide)
  have hfa : foldA (fun _ => none) (fun _ _ => false) ⟨4, ⟨#[97]⟩, 1, ⟨#[98]⟩, 2, 3, ⟨#[]⟩, 0, 0, ⟨#[]⟩, ⟨#[]⟩, 0, 0⟩ = 0 := fa22
  have hff : foldF (fun _ => none) ⟨4, ⟨#[97]⟩, 1, ⟨#[98]⟩, 2, 3, ⟨#[]⟩, 0, 0, ⟨#[]⟩, ⟨#[]⟩, 0, 0⟩ k22 = some r22 := ff22
  rw [hfa] at CF
  generalize foldF (fun _ => none) ⟨4, ⟨#[97]⟩, 1, ⟨#[98]⟩, 2, 3, ⟨#[]⟩, 0, 0, ⟨#[]⟩, ⟨#[]⟩, 0, 0⟩ = f at CF hff
  generalize foldC (fun _ _ => false) ⟨4, ⟨#[97]⟩, 1, ⟨#[98]⟩, 2, 3, ⟨#[]⟩, 0, 0, ⟨#[]⟩, ⟨#[]⟩, 0, 0⟩ = cl at CF
  have CG : ∀ W, TabAt W (w.heap.size + 2) w.heap.size (w.heap.size + 1) 1 f cl → Calls Try.prog 34 #[.pointer (some ⟨w.heap.size + 2, 0, none⟩), .agg #[.string ⟨#[97]⟩, .int .i64 1, .bool true, .int .i64 3]] W fun e w' => e = .returned (.tuple #[.agg #[.string ⟨#[97]⟩, .int .i64 1, .string ⟨#[98]⟩, .int .i64 2, .int .i64 3, .string ⟨#[]⟩, .int .i64 0, .int .i64 0, .string ⟨#[]⟩, .bool false, .bool false, .bool false, .bool true, .bool false], .bool true]) ∧ Below W.heap.size W w' := fun W hT => by
    have h := lfGet_any _ _ _ _ _ _ k22 kw22 W hT
    rw [hff] at h
    exact h
  have CS : ∀ W, TabAt W (w.heap.size + 2) w.heap.size (w.heap.size + 1) 1 f cl → Calls Try.prog 36 #[.pointer (some ⟨w.heap.size + 2, 0, none⟩), .agg #[.string ⟨#[97]⟩, .int .i64 1, .bool true, .int .i64 3]] W fun e w' => e = .returned (.int .i64 2) ∧ Below W.heap.size W w' := fun W hT => by
    have h := lfStage_any _ _ _ _ _ _ k22 kw22 W hT
    rw [hff] at h
    exact h
  clear hff hfa
  go_enter Try.func29, Try.ntmps29
  go_upto_region 5 with (go_at_call 31; refine CN.mono ?_; rintro e w1 ⟨rfl, hT1, hb1⟩)
  refine wp_nameE _ (fun w2 hw2 => ?_)
  have hb2 : Below w1.heap.size w1 w2 := by rw [hw2]; exact al2_below w1 _ _
  have ha : w2.heap[w1.heap.size]? = some (.cells #[.string ⟨#[97]⟩, .int .i64 1] 60 (0, 0)) := by rw [hw2]; exact al2_0 w1 _ _
  have hb : w2.heap[w1.heap.size + 1]? = some (.cells #[.string ⟨#[98]⟩, .int .i64 2] 60 (0, 0)) := by rw [hw2]; exact al2_1 w1 _ _
  clear hw2
  have hT2 := hT1.kept hb2
  have hbel := hb1.trans (hb2.mono hb1.size)
  have p0 := cell_heap ha 0; have p1 := cell_heap ha 1; have p2 := cell_heap hb 0; have p3 := cell_heap hb 1
  go_upto_region 6 with (go_at_call 32; refine (CF _ hT2).mono ?_; rintro e w3 ⟨rfl, hT3, j, hj, hg3⟩)
  have ha3 : w3.heap[w1.heap.size]? = some (.cells #[.string ⟨#[97]⟩, .int .i64 1] 60 (0, 0)) := grown_at hg3 ha (by obtain ⟨n1, n2⟩ := hT2.cells_ne ha; rcases hj with rfl | rfl <;> simp only [ne_eq, Option.some.injEq] <;> assumption)
  have hjw : w.heap.size ≤ j := by rcases hj with rfl | rfl <;> omega
  have hbel := hbel.trans (grown_lowM hg3 (fun k e => by cases e; exact hjw) hbel.size)
  clear hg3 hj hjw hb ha hT1 hT2 p2 p3
  have p0 := cell_heap ha3 0; have p1 := cell_heap ha3 1
  go_upto_region 7 with (go_at_call 34; refine (CG _ hT3).mono ?_; rintro e w4 ⟨rfl, hb4⟩)
  refine wp_nameE _ (fun w5 hw5 => ?_)
  have hb5 : Below w4.heap.size w4 w5 := by rw [hw5]; exact (Below.refl _ _).alloc (Nat.le_refl _) _
  have hx5 : w5.heap[w4.heap.size]? = some (.cells #[.string ⟨#[97]⟩, .int .i64 1, .string ⟨#[98]⟩, .int .i64 2, .int .i64 3, .string ⟨#[]⟩, .int .i64 0, .int .i64 0, .string ⟨#[]⟩, .bool false, .bool false, .bool false, .bool true, .bool false] 78 (0, 0)) := by rw [hw5]; exact heap_push w4 _ _
  clear hw5
  have hT5 := (hT3.kept hb4).kept hb5
  have ha5 := cells_of (cells_of ha3 hb4 (row_lt ha3)) hb5 (Nat.lt_of_lt_of_le (row_lt ha3) hb4.size)
  have hbel := (hbel.trans (hb4.mono hbel.size)).trans (hb5.mono (hbel.trans (hb4.mono hbel.size)).size)
  have p0 := cell_heap ha5 0; have p1 := cell_heap ha5 1
  have x12 : w5.cell? ⟨w4.heap.size, 12, none⟩ = some (.bool true) := cell_heap hx5 12
  have x9 : w5.cell? ⟨w4.heap.size, 9, none⟩ = some (.bool false) := cell_heap hx5 9
  go_wp2_with (go_at_call 36; refine (CS _ hT5).mono ?_; rintro e w6 ⟨rfl, hb6⟩)
  go_ret
  exact ⟨by first | rfl | simp, hbel.trans (hb6.mono hbel.size)⟩
end Go.Proofs.Ytbckncopdkmoeaa
