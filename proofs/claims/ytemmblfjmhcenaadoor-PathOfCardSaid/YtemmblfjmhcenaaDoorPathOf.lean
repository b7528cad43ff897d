/- PathOf, walked. -/
import Derived.Test.YtemmblfjmhcenaaDoorPathRR
import Derived.BigQuiet
import Derived.WalkKit
import Derived.ProofKit
import Derived.Handy
import Derived.Below
import Derived.BigQuiet
import Derived.Lib.Hide
import Derived.IntWalk
import Derived.Outline
import Derived.WalkLawsBesides
import Derived.WalkSpells
namespace Go.Proofs.YtemmblfjmhcenaaDoor
open Go.RowKit
attribute [local go_sem] strV
set_option linter.unusedVariables false
theorem read_form (s : ByteArray) : ∃ K P C N E, readR s = .returned (.tuple #[.int .i64 K, .agg #[.string P, .int .i64 C], .int .i64 N, .int .i64 E]) := by
  unfold readR
  split
  · exact ⟨_, _, _, _, _, rfl⟩
  · exact ⟨_, _, _, _, _, rfl⟩
set_option maxRecDepth 100000 in
set_option maxHeartbeats 6400000 in
theorem walkPathOf (k : Int) (p : ByteArray) (c n : Int) (s : ByteArray) (w : World) (hW : PW w) (hp : p.size ≤ maxLen) (hs : s.size ≤ maxLen) :
    Calls Tryd.prog 5 #[.int .i64 k, .agg #[.string p, .int .i64 c], .int .i64 n, .string s] w fun e w' => e = .returned (.bool true) ∧ Below w.heap.size w w' := by
  by_cases h60 : 60 < p.size
  · go_enter Tryd.func5, Tryd.ntmps5
    go_wp2_with (go_at_call 8; refine (first3_any _ (hW.below (by repeat (first | assumption | exact Below.refl _ _ | refine bch ?_ (by assumption) | refine Below.alloc ?_ (by (try simp) <;> omega) _)))).mono ?_; rintro e wa ⟨rfl, hba⟩; obtain ⟨hca, _⟩ := bcell hba; have hza : w.heap.size < wa.heap.size := (by have := hba.size; (try simp at this); omega); have hbelA : Below w.heap.size w wa := (by repeat (first | assumption | exact Below.refl _ _ | refine bch ?_ (by assumption) | refine Below.alloc ?_ (by (try simp) <;> omega) _)); have a0 : wa.cell? ⟨w.heap.size, 0, none⟩ = some (.string p) := (by rw [hca _ _ (by (try simp) <;> omega)]; go_cell); have a1 : wa.cell? ⟨w.heap.size, 1, none⟩ = some (.int .i64 c) := (by rw [hca _ _ (by (try simp) <;> omega)]; go_cell))
    go_ret
    exact ⟨rfl, by repeat (first | assumption | exact Below.refl _ _ | refine bch ?_ (by assumption) | refine Below.alloc ?_ (by (try simp) <;> omega) _)⟩
  by_cases h61 : 300 < s.size
  · go_enter Tryd.func5, Tryd.ntmps5
    go_wp2_with (go_at_call 8; refine (first3_any _ (hW.below (by repeat (first | assumption | exact Below.refl _ _ | refine bch ?_ (by assumption) | refine Below.alloc ?_ (by (try simp) <;> omega) _)))).mono ?_; rintro e wa ⟨rfl, hba⟩; obtain ⟨hca, _⟩ := bcell hba; have hza : w.heap.size < wa.heap.size := (by have := hba.size; (try simp at this); omega); have hbelA : Below w.heap.size w wa := (by repeat (first | assumption | exact Below.refl _ _ | refine bch ?_ (by assumption) | refine Below.alloc ?_ (by (try simp) <;> omega) _)); have a0 : wa.cell? ⟨w.heap.size, 0, none⟩ = some (.string p) := (by rw [hca _ _ (by (try simp) <;> omega)]; go_cell); have a1 : wa.cell? ⟨w.heap.size, 1, none⟩ = some (.int .i64 c) := (by rw [hca _ _ (by (try simp) <;> omega)]; go_cell))
    go_ret
    exact ⟨rfl, by repeat (first | assumption | exact Below.refl _ _ | refine bch ?_ (by assumption) | refine Below.alloc ?_ (by (try simp) <;> omega) _)⟩
  obtain ⟨K, P, C, N, E, hpr⟩ := read_form s
  go_enter Tryd.func5, Tryd.ntmps5
  go_wp2_with (first | (go_at_call 8; refine (first3_any _ (hW.below (by repeat (first | assumption | exact Below.refl _ _ | refine bch ?_ (by assumption) | refine Below.alloc ?_ (by (try simp) <;> omega) _)))).mono ?_; rintro e wa ⟨rfl, hba⟩; obtain ⟨hca, _⟩ := bcell hba; have hza : w.heap.size < wa.heap.size := (by have := hba.size; (try simp at this); omega); have hbelA : Below w.heap.size w wa := (by repeat (first | assumption | exact Below.refl _ _ | refine bch ?_ (by assumption) | refine Below.alloc ?_ (by (try simp) <;> omega) _)); have a0 : wa.cell? ⟨w.heap.size, 0, none⟩ = some (.string p) := (by rw [hca _ _ (by (try simp) <;> omega)]; go_cell); have a1 : wa.cell? ⟨w.heap.size, 1, none⟩ = some (.int .i64 c) := (by rw [hca _ _ (by (try simp) <;> omega)]; go_cell)) | (go_at_call 22; refine (read_any _ _ (hW.below hbelA) (by omega)).mono ?_; rintro e wb ⟨rfl, hbb⟩; rw [hpr]; obtain ⟨hcb, _⟩ := bcell hbb; have hzb := hbb.size; have hbelB : Below w.heap.size w wb := bch hbelA hbb; have a0 := (hcb _ _ hza).trans a0; have a1 := (hcb _ _ hza).trans a1) | (go_at_call 23; refine (refRead_any _ _ (by omega)).mono ?_; rintro e wc ⟨rfl, hbcc⟩; rw [hpr]; obtain ⟨hcc, _⟩ := bcell hbcc; have hzc : wb.heap.size + 1 ≤ wc.heap.size := (by have := hbcc.size; (try simp at this); omega); have hbelC : Below w.heap.size w wc := bch hbelB (((Below.refl wb.heap.size wb).alloc (Nat.le_refl _) _).trans (hbcc.mono (by simp))); have a0 : wc.cell? ⟨w.heap.size, 0, none⟩ = some (.string p) := ((hcc _ _ (by (try simp) <;> omega)).trans (((Below.refl wb.heap.size wb).alloc (Nat.le_refl _) _).cell (p := ⟨w.heap.size, 0, none⟩) (show w.heap.size < wb.heap.size by omega))).trans a0; have a1 : wc.cell? ⟨w.heap.size, 1, none⟩ = some (.int .i64 c) := ((hcc _ _ (by (try simp) <;> omega)).trans (((Below.refl wb.heap.size wb).alloc (Nat.le_refl _) _).cell (p := ⟨w.heap.size, 1, none⟩) (show w.heap.size < wb.heap.size by omega))).trans a1; have x0 : wc.cell? ⟨wb.heap.size, 0, none⟩ = some (.string P) := (by rw [hcc _ _ (by (try simp) <;> omega)]; go_cell); have x1 : wc.cell? ⟨wb.heap.size, 1, none⟩ = some (.int .i64 C) := (by rw [hcc _ _ (by (try simp) <;> omega)]; go_cell)))
  refine wp_name _ (fun W hW2 => ?_)
  have hbW : Below wc.heap.size wc W := by rw [hW2]; exact Below.alloc (Below.refl _ _) (Nat.le_refl _) _
  have hsW : wc.heap.size < W.heap.size := by rw [hW2]; simp
  have y0 : W.cell? ⟨wc.heap.size, 0, none⟩ = some (.string P) := by rw [hW2]; go_cell
  have y1 : W.cell? ⟨wc.heap.size, 1, none⟩ = some (.int .i64 C) := by rw [hW2]; go_cell
  clear hW2
  obtain ⟨hcW, _⟩ := bcell hbW
  have a0 := (hcW _ _ (by omega)).trans a0
  have a1 := (hcW _ _ (by omega)).trans a1
  have x0 := (hcW _ _ (by omega)).trans x0
  have x1 := (hcW _ _ (by omega)).trans x1
  obtain ⟨hbcW, hbfW⟩ := beyond_cells (W := W)
  have z1 : w.heap.size < W.heap.size := by omega
  have z3 : wb.heap.size < W.heap.size := by omega
  have hbelW : Below w.heap.size w W := bch hbelC hbW
  clear hcW hcc hcb hca hba hbb hbcc hbW
  have C1 : ∀ n' : Beyond W, Calls Tryd.prog 24 #[.int .i64 k, .agg #[.string p, .int .i64 c], .int .i64 n] n'.x fun e w' => e = .returned (.string (ofE k p c n)) ∧ Below n'.x.heap.size n'.x w' := fun n' => of_any k p c n n'.x (hW.below (bch hbelW n'.h)) hp
  have C2 : ∀ n' : Beyond W, Calls Tryd.prog 25 #[.int .i64 k, .agg #[.string p, .int .i64 c], .int .i64 n] n'.x fun e w' => e = .returned (.string (ofE k p c n)) ∧ Below n'.x.heap.size n'.x w' := fun n' => refOf_any k p c n n'.x hp
  refine wp_region_below (by kernel_rfl) (by kernel_rfl) ?_
  repeat (go_big_quiet_step (first | (go_at_call 24; exact quiet_below (C1 _)) | (go_at_call 25; exact quiet_below (C2 _))))
  intro w9 hw9
  have hb9 := beyond_below hw9
  go_wp2
  go_ret
  exact ⟨rfl, bch hbelW hb9⟩
end Go.Proofs.YtemmblfjmhcenaaDoor
