/- PathBack, walked. -/
import Derived.Test.YtemmblfjmhcenaaDoorPathBm
import Derived.BigQuiet
import Derived.WalkKit
import Derived.ProofKit
import Derived.Handy
import Derived.Below
import Derived.BigQuiet
import Derived.Lib.Hide
import Derived.IntWalk
import Derived.Outline
import Derived.WalkLawsBesides
import Derived.WalkSpells
namespace Go.Proofs.YtemmblfjmhcenaaDoor
open Go.RowKit
attribute [local go_sem] strV
set_option linter.unusedVariables false
set_option maxRecDepth 100000 in
set_option maxHeartbeats 6400000 in
theorem walkPathBack (k : Int) (p : ByteArray) (c n : Int) (w : World) (hW : PW w) (hp : p.size ≤ maxLen) :
    Calls Tryd.prog 6 #[.int .i64 k, .agg #[.string p, .int .i64 c], .int .i64 n] w fun e w' => e = .returned (.bool true) ∧ Below w.heap.size w w' := by
  by_cases h60 : 60 < p.size
  · go_enter Tryd.func6, Tryd.ntmps6
    go_wp2_with (go_at_call 8; refine (first3_any _ (hW.below (by repeat (first | assumption | exact Below.refl _ _ | refine bch ?_ (by assumption) | refine Below.alloc ?_ (by (try simp) <;> omega) _)))).mono ?_; rintro e wa ⟨rfl, hba⟩; obtain ⟨hca, _⟩ := bcell hba; have hza : w.heap.size < wa.heap.size := (by have := hba.size; (try simp at this); omega); have hbelA : Below w.heap.size w wa := (by repeat (first | assumption | exact Below.refl _ _ | refine bch ?_ (by assumption) | refine Below.alloc ?_ (by (try simp) <;> omega) _)); obtain ⟨hbcA, hbfA⟩ := beyond_cells (W := wa); have a0 : wa.cell? ⟨w.heap.size, 0, none⟩ = some (.string p) := (by rw [hca _ _ (by (try simp) <;> omega)]; go_cell); have a1 : wa.cell? ⟨w.heap.size, 1, none⟩ = some (.int .i64 c) := (by rw [hca _ _ (by (try simp) <;> omega)]; go_cell))
    go_ret
    exact ⟨rfl, by repeat (first | assumption | exact Below.refl _ _ | refine bch ?_ (by assumption) | refine Below.alloc ?_ (by (try simp) <;> omega) _)⟩
  have hsz := of_size k p c n
  obtain ⟨s, hs⟩ : ∃ x, ofE k p c n = x := ⟨_, rfl⟩
  obtain ⟨t, ht⟩ : ∃ x, textE p c = x := ⟨_, rfl⟩
  rw [hs] at hsz
  cases hm : mayE p c
  · have hs0 : s = ⟨#[]⟩ := by rw [← hs]; unfold ofE; rw [hm, Bool.and_false]; rfl
    have ht0 : t = ⟨#[]⟩ := by rw [← ht]; unfold textE; rw [hm]; rfl
    subst hs0; subst ht0
    obtain ⟨P, hP⟩ : ∃ x : ByteArray, x = ⟨#[]⟩ := ⟨_, rfl⟩
    obtain ⟨V, hV⟩ : ∃ x : Int, x = 0 := ⟨_, rfl⟩
    have hpr : parseR ⟨#[]⟩ = .returned (.tuple #[.agg #[.string P, .int .i64 V], .int .i64 3]) := by
      rw [hP, hV]; exact parse_fail (by decide +kernel)
    have hsz2 : (⟨#[]⟩ : ByteArray).size < 4294967281 := by decide
    have hrd := hpr
    go_enter Tryd.func6, Tryd.ntmps6
    go_wp2_with (go_at_call 8; refine (first3_any _ (hW.below (by repeat (first | assumption | exact Below.refl _ _ | refine bch ?_ (by assumption) | refine Below.alloc ?_ (by (try simp) <;> omega) _)))).mono ?_; rintro e wa ⟨rfl, hba⟩; obtain ⟨hca, _⟩ := bcell hba; have hza : w.heap.size < wa.heap.size := (by have := hba.size; (try simp at this); omega); have hbelA : Below w.heap.size w wa := (by repeat (first | assumption | exact Below.refl _ _ | refine bch ?_ (by assumption) | refine Below.alloc ?_ (by (try simp) <;> omega) _)); obtain ⟨hbcA, hbfA⟩ := beyond_cells (W := wa); have a0 : wa.cell? ⟨w.heap.size, 0, none⟩ = some (.string p) := (by rw [hca _ _ (by (try simp) <;> omega)]; go_cell); have a1 : wa.cell? ⟨w.heap.size, 1, none⟩ = some (.int .i64 c) := (by rw [hca _ _ (by (try simp) <;> omega)]; go_cell))
    have D1 : ∀ n' : Beyond wa, Calls Tryd.prog 24 #[.int .i64 k, .agg #[.string p, .int .i64 c], .int .i64 n] n'.x fun e w'' => e = .returned (.string ⟨#[]⟩) ∧ Below n'.x.heap.size n'.x w'' := fun n' => by rw [← hs]; exact of_any k p c n n'.x (hW.below (bch hbelA n'.h)) hp
    have D2 : ∀ n' : Beyond wa, Calls Tryd.prog 17 #[.agg #[.string p, .int .i64 c]] n'.x fun e w'' => e = .returned (.string ⟨#[]⟩) ∧ Below n'.x.heap.size n'.x w'' := fun n' => by rw [← ht]; exact text_any p c n'.x (hW.below (bch hbelA n'.h)) hp
    refine wp_region_below (by kernel_rfl) (by kernel_rfl) ?_
    repeat (go_big_quiet_step (first | (go_at_call 24; exact quiet_below (D1 _)) | (go_at_call 17; exact quiet_below (D2 _))))
    intro w9 hw9
    have hb9 := beyond_below hw9
    obtain ⟨hc9, _⟩ := bcell hb9
    have hz9 : w.heap.size < w9.heap.size := by have := hb9.size; omega
    have hbel9 : Below w.heap.size w w9 := bch hbelA hb9
    have a0 := (hc9 _ _ hza).trans a0
    have a1 := (hc9 _ _ hza).trans a1
    clear D1 D2
    go_wp2_with (first | (go_at_call 9; refine (parse_any _ _ (hW.below hbel9) (by omega)).mono ?_; rintro e wb ⟨rfl, hbb⟩; rw [hpr]; obtain ⟨hcb, _⟩ := bcell hbb; have hzb : w.heap.size < wb.heap.size := (by have := hbb.size; omega); have hbelB : Below w.heap.size w wb := bch hbel9 hbb; have a0 := (hcb _ _ hz9).trans a0; have a1 := (hcb _ _ hz9).trans a1) | (go_at_call 13; refine (mayEnd_any _ _ _ (by with_reducible assumption)).mono ?_; rintro e wc ⟨rfl, hbcc⟩; rw [hm]; obtain ⟨hcc, _⟩ := bcell hbcc; have hzbc : wb.heap.size + 1 ≤ wc.heap.size := (by have := hbcc.size; (try simp at this); omega); have hzc : w.heap.size < wc.heap.size := (by omega); have hbelC : Below w.heap.size w wc := bch hbelB (((Below.refl wb.heap.size wb).alloc (Nat.le_refl _) _).trans (hbcc.mono (by simp))); have a0 := (hcc _ _ (by (try simp) <;> omega)).trans ((((Below.refl wb.heap.size wb).alloc (Nat.le_refl _) _).cell (p := ⟨w.heap.size, 0, none⟩) hzb).trans a0); have a1 := (hcc _ _ (by (try simp) <;> omega)).trans ((((Below.refl wb.heap.size wb).alloc (Nat.le_refl _) _).cell (p := ⟨w.heap.size, 1, none⟩) hzb).trans a1); have x0 : wc.cell? ⟨wb.heap.size, 0, none⟩ = some (.string P) := (by rw [hcc _ _ (by (try simp) <;> omega)]; go_cell); have x1 : wc.cell? ⟨wb.heap.size, 1, none⟩ = some (.int .i64 V) := (by rw [hcc _ _ (by (try simp) <;> omega)]; go_cell)) | (go_at_call 22; refine (read_any _ _ (hW.below hbelC) (by omega)).mono ?_; rintro e wd ⟨rfl, hbd⟩; rw [hrd]; obtain ⟨hcd, _⟩ := bcell hbd; have hzd : w.heap.size < wd.heap.size := (by have := hbd.size; omega); have hbelD : Below w.heap.size w wd := bch hbelC hbd; have a0 := (hcd _ _ hzc).trans a0; have a1 := (hcd _ _ hzc).trans a1) | (go_at_call 8; refine (first3_any _ (hW.below hbelC)).mono ?_; rintro e wz ⟨rfl, hbz⟩))
    go_ret
    exact ⟨rfl, bch hbelC hbz⟩
  · obtain ⟨h12, c0, c9⟩ := mayE_bd hm
    have hit := itB_size c (by omega) (by omega)
    have htl : t = p ++ ⟨#[47]⟩ ++ ⟨#[99, 104, 97, 110, 110, 101, 108, 45]⟩ ++ itB c := by rw [← ht]; unfold textE; rw [hm]; rfl
    have hts : 0 < t.size ∧ t.size ≤ 60 := by
      rw [htl]; simp only [ByteArray.size_append]
      have a : ((⟨#[47]⟩ : ByteArray)).size = 1 := rfl
      have b : ((⟨#[99, 104, 97, 110, 110, 101, 108, 45]⟩ : ByteArray)).size = 8 := rfl
      omega
    have hpr : parseR t = .returned (.tuple #[.agg #[.string p, .int .i64 c], .int .i64 0]) := by rw [← ht]; exact parse_back hm
    have hte := str_ne'' hts.1
    have hte2 := str_ne' hts.1
    have hts2 := hts.2
    clear htl
    by_cases hs0 : s.size = 0
    · obtain rfl := str_nil hs0
      have hrd := hpr
      go_enter Tryd.func6, Tryd.ntmps6
      go_wp2_with (go_at_call 8; refine (first3_any _ (hW.below (by repeat (first | assumption | exact Below.refl _ _ | refine bch ?_ (by assumption) | refine Below.alloc ?_ (by (try simp) <;> omega) _)))).mono ?_; rintro e wa ⟨rfl, hba⟩; obtain ⟨hca, _⟩ := bcell hba; have hza : w.heap.size < wa.heap.size := (by have := hba.size; (try simp at this); omega); have hbelA : Below w.heap.size w wa := (by repeat (first | assumption | exact Below.refl _ _ | refine bch ?_ (by assumption) | refine Below.alloc ?_ (by (try simp) <;> omega) _)); obtain ⟨hbcA, hbfA⟩ := beyond_cells (W := wa); have a0 : wa.cell? ⟨w.heap.size, 0, none⟩ = some (.string p) := (by rw [hca _ _ (by (try simp) <;> omega)]; go_cell); have a1 : wa.cell? ⟨w.heap.size, 1, none⟩ = some (.int .i64 c) := (by rw [hca _ _ (by (try simp) <;> omega)]; go_cell))
      have D1 : ∀ n' : Beyond wa, Calls Tryd.prog 24 #[.int .i64 k, .agg #[.string p, .int .i64 c], .int .i64 n] n'.x fun e w'' => e = .returned (.string ByteArray.empty) ∧ Below n'.x.heap.size n'.x w'' := fun n' => by rw [← hs]; exact of_any k p c n n'.x (hW.below (bch hbelA n'.h)) hp
      have D2 : ∀ n' : Beyond wa, Calls Tryd.prog 17 #[.agg #[.string p, .int .i64 c]] n'.x fun e w'' => e = .returned (.string t) ∧ Below n'.x.heap.size n'.x w'' := fun n' => by rw [← ht]; exact text_any p c n'.x (hW.below (bch hbelA n'.h)) hp
      refine wp_region_below (by kernel_rfl) (by kernel_rfl) ?_
      repeat (go_big_quiet_step (first | (go_at_call 24; exact quiet_below (D1 _)) | (go_at_call 17; exact quiet_below (D2 _))))
      intro w9 hw9
      have hb9 := beyond_below hw9
      obtain ⟨hc9, _⟩ := bcell hb9
      have hz9 : w.heap.size < w9.heap.size := by have := hb9.size; omega
      have hbel9 : Below w.heap.size w w9 := bch hbelA hb9
      have a0 := (hc9 _ _ hza).trans a0
      have a1 := (hc9 _ _ hza).trans a1
      clear D1 D2
      go_wp2_with (first | (go_at_call 9; refine (parse_any _ _ (hW.below hbel9) (by omega)).mono ?_; rintro e wb ⟨rfl, hbb⟩; rw [hpr]; obtain ⟨hcb, _⟩ := bcell hbb; have hzb : w.heap.size < wb.heap.size := (by have := hbb.size; omega); have hbelB : Below w.heap.size w wb := bch hbel9 hbb; have a0 := (hcb _ _ hz9).trans a0; have a1 := (hcb _ _ hz9).trans a1) | (go_at_call 13; refine (mayEnd_any _ _ _ (by with_reducible assumption)).mono ?_; rintro e wc ⟨rfl, hbcc⟩; rw [hm]; obtain ⟨hcc, _⟩ := bcell hbcc; have hzbc : wb.heap.size + 1 ≤ wc.heap.size := (by have := hbcc.size; (try simp at this); omega); have hzc : w.heap.size < wc.heap.size := (by omega); have hbelC : Below w.heap.size w wc := bch hbelB (((Below.refl wb.heap.size wb).alloc (Nat.le_refl _) _).trans (hbcc.mono (by simp))); have a0 := (hcc _ _ (by (try simp) <;> omega)).trans ((((Below.refl wb.heap.size wb).alloc (Nat.le_refl _) _).cell (p := ⟨w.heap.size, 0, none⟩) hzb).trans a0); have a1 := (hcc _ _ (by (try simp) <;> omega)).trans ((((Below.refl wb.heap.size wb).alloc (Nat.le_refl _) _).cell (p := ⟨w.heap.size, 1, none⟩) hzb).trans a1); have x0 : wc.cell? ⟨wb.heap.size, 0, none⟩ = some (.string p) := (by rw [hcc _ _ (by (try simp) <;> omega)]; go_cell); have x1 : wc.cell? ⟨wb.heap.size, 1, none⟩ = some (.int .i64 c) := (by rw [hcc _ _ (by (try simp) <;> omega)]; go_cell)) | (go_at_call 22; refine (read_any _ _ (hW.below hbelC) (by omega)).mono ?_; rintro e wd ⟨rfl, hbd⟩; rw [hrd]; obtain ⟨hcd, _⟩ := bcell hbd; have hzd : w.heap.size < wd.heap.size := (by have := hbd.size; omega); have hbelD : Below w.heap.size w wd := bch hbelC hbd; have a0 := (hcd _ _ hzc).trans a0; have a1 := (hcd _ _ hzc).trans a1) | (go_at_call 8; refine (first3_any _ (hW.below hbelC)).mono ?_; rintro e wz ⟨rfl, hbz⟩))
      go_ret
      exact ⟨rfl, bch hbelC hbz⟩
    · have hrd : readR s = .returned (.tuple #[.int .i64 k, .agg #[.string p, .int .i64 c], .int .i64 n, .int .i64 0]) := by
        rw [← hs]; exact read_back (by rw [hs]; rintro rfl; exact hs0 rfl)
      have hse := str_ne'' (show 0 < s.size by omega)
      have hse2 := str_ne' (show 0 < s.size by omega)
      have d160 : decide ((s.size : Int) ≤ 160) = true := decide_eq_true (by omega)
      go_enter Tryd.func6, Tryd.ntmps6
      go_wp2_with (go_at_call 8; refine (first3_any _ (hW.below (by repeat (first | assumption | exact Below.refl _ _ | refine bch ?_ (by assumption) | refine Below.alloc ?_ (by (try simp) <;> omega) _)))).mono ?_; rintro e wa ⟨rfl, hba⟩; obtain ⟨hca, _⟩ := bcell hba; have hza : w.heap.size < wa.heap.size := (by have := hba.size; (try simp at this); omega); have hbelA : Below w.heap.size w wa := (by repeat (first | assumption | exact Below.refl _ _ | refine bch ?_ (by assumption) | refine Below.alloc ?_ (by (try simp) <;> omega) _)); obtain ⟨hbcA, hbfA⟩ := beyond_cells (W := wa); have a0 : wa.cell? ⟨w.heap.size, 0, none⟩ = some (.string p) := (by rw [hca _ _ (by (try simp) <;> omega)]; go_cell); have a1 : wa.cell? ⟨w.heap.size, 1, none⟩ = some (.int .i64 c) := (by rw [hca _ _ (by (try simp) <;> omega)]; go_cell))
      have D1 : ∀ n' : Beyond wa, Calls Tryd.prog 24 #[.int .i64 k, .agg #[.string p, .int .i64 c], .int .i64 n] n'.x fun e w'' => e = .returned (.string s) ∧ Below n'.x.heap.size n'.x w'' := fun n' => by rw [← hs]; exact of_any k p c n n'.x (hW.below (bch hbelA n'.h)) hp
      have D2 : ∀ n' : Beyond wa, Calls Tryd.prog 17 #[.agg #[.string p, .int .i64 c]] n'.x fun e w'' => e = .returned (.string t) ∧ Below n'.x.heap.size n'.x w'' := fun n' => by rw [← ht]; exact text_any p c n'.x (hW.below (bch hbelA n'.h)) hp
      refine wp_region_below (by kernel_rfl) (by kernel_rfl) ?_
      repeat (go_big_quiet_step (first | (go_at_call 24; exact quiet_below (D1 _)) | (go_at_call 17; exact quiet_below (D2 _))))
      intro w9 hw9
      have hb9 := beyond_below hw9
      obtain ⟨hc9, _⟩ := bcell hb9
      have hz9 : w.heap.size < w9.heap.size := by have := hb9.size; omega
      have hbel9 : Below w.heap.size w w9 := bch hbelA hb9
      have a0 := (hc9 _ _ hza).trans a0
      have a1 := (hc9 _ _ hza).trans a1
      clear D1 D2
      go_wp2_with (first | (go_at_call 9; refine (parse_any _ _ (hW.below hbel9) (by omega)).mono ?_; rintro e wb ⟨rfl, hbb⟩; rw [hpr]; obtain ⟨hcb, _⟩ := bcell hbb; have hzb : w.heap.size < wb.heap.size := (by have := hbb.size; omega); have hbelB : Below w.heap.size w wb := bch hbel9 hbb; have a0 := (hcb _ _ hz9).trans a0; have a1 := (hcb _ _ hz9).trans a1) | (go_at_call 13; refine (mayEnd_any _ _ _ (by with_reducible assumption)).mono ?_; rintro e wc ⟨rfl, hbcc⟩; rw [hm]; obtain ⟨hcc, _⟩ := bcell hbcc; have hzbc : wb.heap.size + 1 ≤ wc.heap.size := (by have := hbcc.size; (try simp at this); omega); have hzc : w.heap.size < wc.heap.size := (by omega); have hbelC : Below w.heap.size w wc := bch hbelB (((Below.refl wb.heap.size wb).alloc (Nat.le_refl _) _).trans (hbcc.mono (by simp))); have a0 := (hcc _ _ (by (try simp) <;> omega)).trans ((((Below.refl wb.heap.size wb).alloc (Nat.le_refl _) _).cell (p := ⟨w.heap.size, 0, none⟩) hzb).trans a0); have a1 := (hcc _ _ (by (try simp) <;> omega)).trans ((((Below.refl wb.heap.size wb).alloc (Nat.le_refl _) _).cell (p := ⟨w.heap.size, 1, none⟩) hzb).trans a1); have x0 : wc.cell? ⟨wb.heap.size, 0, none⟩ = some (.string p) := (by rw [hcc _ _ (by (try simp) <;> omega)]; go_cell); have x1 : wc.cell? ⟨wb.heap.size, 1, none⟩ = some (.int .i64 c) := (by rw [hcc _ _ (by (try simp) <;> omega)]; go_cell)) | (go_at_call 22; refine (read_any _ _ (hW.below hbelC) (by omega)).mono ?_; rintro e wd ⟨rfl, hbd⟩; rw [hrd]; obtain ⟨hcd, _⟩ := bcell hbd; have hzd : w.heap.size < wd.heap.size := (by have := hbd.size; omega); have hbelD : Below w.heap.size w wd := bch hbelC hbd; have a0 := (hcd _ _ hzc).trans a0; have a1 := (hcd _ _ hzc).trans a1) | (go_at_call 8; refine (first3_any _ (hW.below hbelC)).mono ?_; rintro e wz ⟨rfl, hbz⟩))
      go_ret
      exact ⟨rfl, hbelD.alloc (Nat.le_of_lt hzd) _⟩
end Go.Proofs.YtemmblfjmhcenaaDoor
