/- PathNames, walked. -/
import Derived.Test.YtemmblfjmhcenaaDoorPathRP
import Derived.BigQuiet
import Derived.WalkKit
import Derived.ProofKit
import Derived.Handy
import Derived.Below
import Derived.BigQuiet
import Derived.Lib.Hide
import Derived.IntWalk
import Derived.Outline
import Derived.WalkLawsBesides
import Derived.WalkSpells
namespace Go.Proofs.YtemmblfjmhcenaaDoor
open Go.RowKit
attribute [local go_sem] strV
set_option linter.unusedVariables false
theorem wp_name {P : Program} {c : Code} {Q : Exit → Act → World → Prop} {a : Act} (E : World) (h : ∀ W, W = E → c.wp P Q a W) : c.wp P Q a E := h E rfl
theorem parse_form (s : ByteArray) : ∃ P V E, parseR s = .returned (.tuple #[.agg #[.string P, .int .i64 V], .int .i64 E]) := by
  unfold parseR
  split
  · exact ⟨_, _, _, rfl⟩
  · exact ⟨_, _, _, rfl⟩
set_option maxRecDepth 100000 in
set_option maxHeartbeats 6400000 in
theorem walkPathNames (s p : ByteArray) (c : Int) (q : ByteArray) (d : Int) (w : World) (hW : PW w) (hs : s.size ≤ maxLen) (hp : p.size ≤ maxLen) (hq : q.size ≤ maxLen) :
    Calls Tryd.prog 3 #[.string s, .agg #[.string p, .int .i64 c], .agg #[.string q, .int .i64 d]] w fun e w' => e = .returned (.bool true) ∧ Below w.heap.size w w' := by
  by_cases h60 : 60 < s.size
  · go_enter Tryd.func3, Tryd.ntmps3
    go_wp2_with (go_at_call 8; refine (first3_any _ (hW.below (by repeat (first | assumption | exact Below.refl _ _ | refine bch ?_ (by assumption) | refine Below.alloc ?_ (by (try simp) <;> omega) _)))).mono ?_; rintro e w1 ⟨rfl, hb⟩; obtain ⟨hc1, hf1⟩ := bcell hb)
    go_ret
    exact ⟨rfl, by repeat (first | assumption | exact Below.refl _ _ | refine bch ?_ (by assumption) | refine Below.alloc ?_ (by (try simp) <;> omega) _)⟩
  by_cases h61 : 60 < p.size
  · go_enter Tryd.func3, Tryd.ntmps3
    go_wp2_with (go_at_call 8; refine (first3_any _ (hW.below (by repeat (first | assumption | exact Below.refl _ _ | refine bch ?_ (by assumption) | refine Below.alloc ?_ (by (try simp) <;> omega) _)))).mono ?_; rintro e wa ⟨rfl, hba⟩; obtain ⟨hca, _⟩ := bcell hba; have hza : w.heap.size + 1 < wa.heap.size := (by have := hba.size; (try simp at this); omega); have hbelA : Below w.heap.size w wa := (by repeat (first | assumption | exact Below.refl _ _ | refine bch ?_ (by assumption) | refine Below.alloc ?_ (by (try simp) <;> omega) _)); have a0 : wa.cell? ⟨w.heap.size, 0, none⟩ = some (.string p) := (by rw [hca _ _ (by (try simp) <;> omega)]; go_cell); have a1 : wa.cell? ⟨w.heap.size, 1, none⟩ = some (.int .i64 c) := (by rw [hca _ _ (by (try simp) <;> omega)]; go_cell); have b0 : wa.cell? ⟨w.heap.size + 1, 0, none⟩ = some (.string q) := (by rw [hca _ _ (by (try simp) <;> omega)]; go_cell); have b1 : wa.cell? ⟨w.heap.size + 1, 1, none⟩ = some (.int .i64 d) := (by rw [hca _ _ (by (try simp) <;> omega)]; go_cell))
    go_ret
    exact ⟨rfl, by repeat (first | assumption | exact Below.refl _ _ | refine bch ?_ (by assumption) | refine Below.alloc ?_ (by (try simp) <;> omega) _)⟩
  by_cases h62 : 60 < q.size
  · go_enter Tryd.func3, Tryd.ntmps3
    go_wp2_with (go_at_call 8; refine (first3_any _ (hW.below (by repeat (first | assumption | exact Below.refl _ _ | refine bch ?_ (by assumption) | refine Below.alloc ?_ (by (try simp) <;> omega) _)))).mono ?_; rintro e wa ⟨rfl, hba⟩; obtain ⟨hca, _⟩ := bcell hba; have hza : w.heap.size + 1 < wa.heap.size := (by have := hba.size; (try simp at this); omega); have hbelA : Below w.heap.size w wa := (by repeat (first | assumption | exact Below.refl _ _ | refine bch ?_ (by assumption) | refine Below.alloc ?_ (by (try simp) <;> omega) _)); have a0 : wa.cell? ⟨w.heap.size, 0, none⟩ = some (.string p) := (by rw [hca _ _ (by (try simp) <;> omega)]; go_cell); have a1 : wa.cell? ⟨w.heap.size, 1, none⟩ = some (.int .i64 c) := (by rw [hca _ _ (by (try simp) <;> omega)]; go_cell); have b0 : wa.cell? ⟨w.heap.size + 1, 0, none⟩ = some (.string q) := (by rw [hca _ _ (by (try simp) <;> omega)]; go_cell); have b1 : wa.cell? ⟨w.heap.size + 1, 1, none⟩ = some (.int .i64 d) := (by rw [hca _ _ (by (try simp) <;> omega)]; go_cell))
    go_ret
    exact ⟨rfl, by repeat (first | assumption | exact Below.refl _ _ | refine bch ?_ (by assumption) | refine Below.alloc ?_ (by (try simp) <;> omega) _)⟩
  obtain ⟨P, V, E, hpr⟩ := parse_form s
  go_enter Tryd.func3, Tryd.ntmps3
  go_wp2_with (first | (go_at_call 8; refine (first3_any _ (hW.below (by repeat (first | assumption | exact Below.refl _ _ | refine bch ?_ (by assumption) | refine Below.alloc ?_ (by (try simp) <;> omega) _)))).mono ?_; rintro e wa ⟨rfl, hba⟩; obtain ⟨hca, _⟩ := bcell hba; have hza : w.heap.size + 1 < wa.heap.size := (by have := hba.size; (try simp at this); omega); have hbelA : Below w.heap.size w wa := (by repeat (first | assumption | exact Below.refl _ _ | refine bch ?_ (by assumption) | refine Below.alloc ?_ (by (try simp) <;> omega) _)); have a0 : wa.cell? ⟨w.heap.size, 0, none⟩ = some (.string p) := (by rw [hca _ _ (by (try simp) <;> omega)]; go_cell); have a1 : wa.cell? ⟨w.heap.size, 1, none⟩ = some (.int .i64 c) := (by rw [hca _ _ (by (try simp) <;> omega)]; go_cell); have b0 : wa.cell? ⟨w.heap.size + 1, 0, none⟩ = some (.string q) := (by rw [hca _ _ (by (try simp) <;> omega)]; go_cell); have b1 : wa.cell? ⟨w.heap.size + 1, 1, none⟩ = some (.int .i64 d) := (by rw [hca _ _ (by (try simp) <;> omega)]; go_cell)) | (go_at_call 9; refine (parse_any _ _ (hW.below hbelA) (by omega)).mono ?_; rintro e wb ⟨rfl, hbb⟩; rw [hpr]; obtain ⟨hcb, _⟩ := bcell hbb; have hzb := hbb.size; have hbelB : Below w.heap.size w wb := bch hbelA hbb; have a0 := (hcb _ _ (by omega)).trans a0; have a1 := (hcb _ _ (by omega)).trans a1; have b0 := (hcb _ _ (by omega)).trans b0; have b1 := (hcb _ _ (by omega)).trans b1) | (go_at_call 10; refine (refParse_any _ _ (by omega)).mono ?_; rintro e wc ⟨rfl, hbcc⟩; rw [hpr]; obtain ⟨hcc, _⟩ := bcell hbcc; have hzc : wb.heap.size + 1 ≤ wc.heap.size := (by have := hbcc.size; (try simp at this); omega); have hbelC : Below w.heap.size w wc := bch hbelB (((Below.refl wb.heap.size wb).alloc (Nat.le_refl _) _).trans (hbcc.mono (by simp))); have a0 : wc.cell? ⟨w.heap.size, 0, none⟩ = some (.string p) := ((hcc _ _ (by (try simp) <;> omega)).trans (((Below.refl wb.heap.size wb).alloc (Nat.le_refl _) _).cell (p := ⟨w.heap.size, 0, none⟩) (show w.heap.size < wb.heap.size by omega))).trans a0; have a1 : wc.cell? ⟨w.heap.size, 1, none⟩ = some (.int .i64 c) := ((hcc _ _ (by (try simp) <;> omega)).trans (((Below.refl wb.heap.size wb).alloc (Nat.le_refl _) _).cell (p := ⟨w.heap.size, 1, none⟩) (show w.heap.size < wb.heap.size by omega))).trans a1; have b0 : wc.cell? ⟨w.heap.size + 1, 0, none⟩ = some (.string q) := ((hcc _ _ (by (try simp) <;> omega)).trans (((Below.refl wb.heap.size wb).alloc (Nat.le_refl _) _).cell (p := ⟨w.heap.size + 1, 0, none⟩) (show w.heap.size + 1 < wb.heap.size by omega))).trans b0; have b1 : wc.cell? ⟨w.heap.size + 1, 1, none⟩ = some (.int .i64 d) := ((hcc _ _ (by (try simp) <;> omega)).trans (((Below.refl wb.heap.size wb).alloc (Nat.le_refl _) _).cell (p := ⟨w.heap.size + 1, 1, none⟩) (show w.heap.size + 1 < wb.heap.size by omega))).trans b1; have x0 : wc.cell? ⟨wb.heap.size, 0, none⟩ = some (.string P) := (by rw [hcc _ _ (by (try simp) <;> omega)]; go_cell); have x1 : wc.cell? ⟨wb.heap.size, 1, none⟩ = some (.int .i64 V) := (by rw [hcc _ _ (by (try simp) <;> omega)]; go_cell)))
  refine wp_name _ (fun W hW2 => ?_)
  have hbW : Below wc.heap.size wc W := by rw [hW2]; exact Below.alloc (Below.refl _ _) (Nat.le_refl _) _
  have hsW : wc.heap.size < W.heap.size := by rw [hW2]; simp
  have y0 : W.cell? ⟨wc.heap.size, 0, none⟩ = some (.string P) := by rw [hW2]; go_cell
  have y1 : W.cell? ⟨wc.heap.size, 1, none⟩ = some (.int .i64 V) := by rw [hW2]; go_cell
  clear hW2
  obtain ⟨hcW, _⟩ := bcell hbW
  have a0 := (hcW _ _ (by omega)).trans a0
  have a1 := (hcW _ _ (by omega)).trans a1
  have b0 := (hcW _ _ (by omega)).trans b0
  have b1 := (hcW _ _ (by omega)).trans b1
  have x0 := (hcW _ _ (by omega)).trans x0
  have x1 := (hcW _ _ (by omega)).trans x1
  obtain ⟨hbcW, hbfW⟩ := beyond_cells (W := W)
  have z1 : w.heap.size < W.heap.size := by omega
  have z2 : w.heap.size + 1 < W.heap.size := by omega
  have z3 : wb.heap.size < W.heap.size := by omega
  have hbelW : Below w.heap.size w W := bch hbelC hbW
  clear hcW hcc hcb hca hba hbb hbcc hbW
  have C1 : ∀ n : Beyond W, Calls Tryd.prog 11 #[.string s] n.x fun e w' => e = .returned (.bool (nmB s)) ∧ Below n.x.heap.size n.x w' := fun n => (name_any s n.x hs).mono fun e w' ⟨h1, h2⟩ => ⟨h1, by rw [h2]; exact Below.refl _ _⟩
  have C2 : ∀ n : Beyond W, Calls Tryd.prog 12 #[.string s] n.x fun e w' => e = .returned (.bool (nmB s)) ∧ Below n.x.heap.size n.x w' := fun n => (refName_any s n.x hs).mono fun e w' ⟨h1, h2⟩ => ⟨h1, by rw [h2]; exact Below.refl _ _⟩
  have C3 : ∀ n : Beyond W, Calls Tryd.prog 13 #[.agg #[.string p, .int .i64 c]] n.x fun e w' => e = .returned (.bool (mayE p c)) ∧ Below n.x.heap.size n.x w' := fun n => mayEnd_any p c n.x hp
  have C4 : ∀ n : Beyond W, Calls Tryd.prog 14 #[.agg #[.string p, .int .i64 c]] n.x fun e w' => e = .returned (.bool (mayE p c)) ∧ Below n.x.heap.size n.x w' := fun n => refMayEnd_any p c n.x hp
  have C5 : ∀ n : Beyond W, Calls Tryd.prog 17 #[.agg #[.string p, .int .i64 c]] n.x fun e w' => e = .returned (.string (textE p c)) ∧ Below n.x.heap.size n.x w' := fun n => text_any p c n.x (hW.below (bch hbelW n.h)) hp
  have C6 : ∀ n : Beyond W, Calls Tryd.prog 18 #[.agg #[.string p, .int .i64 c]] n.x fun e w' => e = .returned (.string (textE p c)) ∧ Below n.x.heap.size n.x w' := fun n => refText_any p c n.x hp
  refine wp_region_below (by kernel_rfl) (by kernel_rfl) ?_
  repeat (go_big_quiet_step (first | (go_at_call 11; exact quiet_below (C1 _)) | (go_at_call 12; exact quiet_below (C2 _)) | (go_at_call 13; exact quiet_below (C3 _)) | (go_at_call 14; exact quiet_below (C4 _)) | (go_at_call 15; exact quiet_below (less_any _ _ _ _ _)) | (go_at_call 16; exact quiet_below (refLess_any _ _ _ _ _)) | (go_at_call 17; exact quiet_below (C5 _)) | (go_at_call 18; exact quiet_below (C6 _))))
  intro w9 hw9
  have hb9 := beyond_below hw9
  go_wp2
  go_ret
  exact ⟨rfl, bch hbelW hb9⟩
end Go.Proofs.YtemmblfjmhcenaaDoor
