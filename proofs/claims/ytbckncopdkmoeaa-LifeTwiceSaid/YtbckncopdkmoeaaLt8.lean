/- LifeTwice walked. -/
import Derived.Test.YtbckncopdkmoeaaDG
import Derived.Test.YtbckncopdkmoeaaLf14
import Derived.Deep.Cut
import Derived.BigRegion
import Derived.RegionTactic
import Derived.BigQuiet
import Derived.Deep.QuietTactic
import Derived.Deep.MidRow
import Derived.Deep.RegionLaw
import Derived.OneCell
import Derived.Laws.OwnMore
import Derived.Deep.RegionHeld
import Derived.LoopTactic
import Derived.BigFrame
import Derived.WalkKit
import Derived.ProofKit
import Derived.Handy
import Derived.Below
import Derived.Lib.Hide
import Derived.IntWalk
import Derived.Outline
import Derived.WalkLawsBesides
import Derived.WalkSpells
namespace Go.Proofs.Ytbckncopdkmoeaa
open Go.RowKit
attribute [local go_sem] strV
set_option linter.unusedVariables false
set_option linter.unusedSimpArgs false
set_option maxRecDepth 100000 in
set_option maxHeartbeats 6400000 in
theorem walkLifeTwice (a : Option Addr) (n cap : Nat) (es : List Ev) (w : World) (hr : RowAt w a (es.flatMap Ev.cells)) (hn : es.length = n) (hc : n ≤ cap) (hm : cap ≤ maxLen) :
    Calls Try.prog 8 #[.slice a n cap] w fun e w' => e = .returned (.bool true) ∧ Below w.heap.size w w' := by
  have CL1 := fun W (h : RowAt W a (es.flatMap Ev.cells)) => lightL_any a n cap es W h hn
  obtain ⟨l1, hl1⟩ : ∃ b, lightL es = b := ⟨_, rfl⟩
  rw [hl1] at CL1
  have HN := Lib.hid hn
  have H1 := Lib.hid hl1
  clear hn hl1
  go_enter Try.func8, Try.ntmps8
  cases l1
  · go_wp2_with (first | (go_at_call 29; with_reducible refine (first22_any w).mono ?_; rintro e wa ⟨rfl, hba⟩) | (go_at_call 30; with_reducible refine (CL1 _ (hr.below hba)).mono ?_; rintro e w2 ⟨rfl, hb2⟩; have hbb := hba.trans (hb2.mono hba.size)) | (go_at_call 29; with_reducible refine (first22_any w2).mono ?_; rintro e wz ⟨rfl, hbz⟩))
    go_ret
    exact ⟨by first | rfl | simp, hbb.trans (hbz.mono hbb.size)⟩
  have hs1 := light_sz H1.out
  have hl60 := light_len H1.out
  rw [HN.out] at hl60
  go_wp2_with (first | (go_at_call 29; with_reducible refine (first22_any w).mono ?_; rintro e wa ⟨rfl, hba⟩) | (go_at_call 30; with_reducible refine (CL1 _ (hr.below hba)).mono ?_; rintro e w2 ⟨rfl, hb2⟩; have hbb := hba.trans (hb2.mono hba.size)) | (go_at_call 31; with_reducible refine (lfNew_any w2).mono ?_; rintro e wA ⟨rfl, hTA, hbA⟩) | (refine wpList_buildG rfl 71 _ rfl #[] (by first | rfl | simp) (build_tab _) ?_))
  have hltA := hTA.lt
  have hbD : Below wA.heap.size wA (wA.alloc (.cells #[.slice none 0 0, .slice none 0 0, .slice none 0 0] 71)) := (Below.refl _ _).alloc (Nat.le_refl _) _
  have hTA := hTA.kept hbD
  have hDA := DocOf.nil hbA.size (heap_push wA #[.slice none 0 0, .slice none 0 0, .slice none 0 0] 71)
  have hb9 := hbA.trans (hbD.mono hbA.size)
  clear CL1 hbD
  go_loopw [5] (fun i wq => ∃ k : Nat, k ≤ n ∧ i = .int .i64 k ∧ Below w2.heap.size w2 wq ∧ TabAt wq (w2.heap.size + 2) w2.heap.size (w2.heap.size + 1) (2 * k) (foldT t0 (es.take k)).f (foldT t0 (es.take k)).cl ∧ DocOf wq w2.heap.size wA.heap.size (foldT t0 (es.take k)) k) (fun i _ => n - (intOf i).toNat)
  case atStart => exact ⟨0, Nat.zero_le _, rfl, hb9, by rw [List.take_zero]; exact hTA, by rw [List.take_zero]; exact hDA⟩
  case round =>
    clear hb9 hTA hDA
    obtain ⟨k, hk, rfl, hb9, hTA, hDA⟩ := hrel
    obtain ⟨S, hS⟩ : ∃ s, foldT t0 (es.take k) = s := ⟨_, rfl⟩
    rw [hS] at hTA hDA
    have HS := Lib.hid hS
    clear hS
    have hbw := hbb.trans (hb9.mono hbb.size)
    by_cases hlt : k < n
    rotate_left
    · obtain rfl : n = k := by omega
      have d9 : decide ((n : Int) < (n : Int)) = false := decide_eq_false (by omega)
      have d9n : decide (n < n) = false := decide_eq_false (by omega)
      go_wp2_with (go_at_call 38; with_reducible refine (sameD_any (w2.heap.size + 2) w2.heap.size (w2.heap.size + 1) (2 * n) w2.heap.size wA.heap.size n (S) _ hTA (by omega) hDA).mono ?_; rintro e ws ⟨rfl, hbs⟩)
      go_ret
      exact ⟨by first | rfl | simp, hbw.trans (hbs.mono hbw.size)⟩
    have hkl : k < es.length := by rw [HN.out]; exact hlt
    obtain ⟨b, off, rfl, hbx, hrg⟩ := ev_range (hr.below hbb) hkl
    have HE := foldT_take (s := t0) hkl
    obtain ⟨e1, he1⟩ : ∃ e, es[k] = e := ⟨_, rfl⟩
    have hz1 := hs1 _ (List.getElem_mem hkl)
    rw [he1] at hrg HE hz1
    rw [HS.out] at HE
    have HE := Lib.hid HE
    clear he1
    have hrg := range_belowS hrg hb9 hbx
    have hbxr := Nat.lt_of_lt_of_le hbx hb9.size
    have d9 : decide ((k : Int) < (n : Int)) = true := decide_eq_true (by omega)
    have d9n : decide (k < n) = true := decide_eq_true (by omega)
    have n0 : (0 : Int) ≤ (k : Int) := by omega
    have n1 : (k : Int) < (n : Int) := by omega
    have n2' : ((k : Nat) : Int).toNat = k := by omega
    have CF := foldR_any (w2.heap.size + 2) w2.heap.size (w2.heap.size + 1) (2 * k) S e1 wr hz1 hTA (by unfold maxLen; omega)
    go_upto_region 12 with (first | (refine wpList_loadEvR (.tmp 28) rfl b (off + k * 13) rfl e1 hrg (by rfl) ?_) | (go_at_call 32; refine CF.mono ?_; rintro e w5 ⟨rfl, hT5, j, hj, hg5⟩))
    have hb5 := grown_lowM hg5 (base := w2.heap.size) (fun k e => by cases e; rcases hj with rfl | rfl <;> omega) hb9.size
    have hD5 := hDA.life hg5 (hTA.no_cells hj)
    have hb5r : Below wr.heap.size wr wr := Below.refl _ _
    have hrg5 : w5.rangeAt b (off + k * 13) e1.cells := range_belowS hrg hb5 hbx
    have hb9 := hb9.trans hb5
    clear hTA hDA hg5 CF hb5 hb5r hrg
    have CD := refFold_any w2.heap.size wA.heap.size k S e1 w5 hz1 hD5 (by omega) hb9.size
    go_upto_region 13 with (first | (refine wpList_loadEvR (.tmp 34) rfl b (off + k * 13) rfl e1 hrg5 (by rfl) ?_) | (go_at_call 33; refine CD.mono ?_; rintro e w6 ⟨rfl, hD6, hg6⟩))
    have hT6 := hT5.doc hg6
    have hb6 := hg6.below hb9.size
    have hrg6 : w6.rangeAt b (off + k * 13) e1.cells := range_belowS hrg5 hb6 hbx
    have hb9 := hb9.trans hb6
    clear CD hT5 hD5 hg6 hb6 hrg5
    have CF := foldR_any (w2.heap.size + 2) w2.heap.size (w2.heap.size + 1) (2 * k + 1) (stepT S e1) e1 w6 hz1 hT6 (by unfold maxLen; omega)
    obtain ⟨tw1, tw2⟩ := twice_says S e1
    rw [tw1, tw2] at CF
    go_upto_region 14 with (first | (refine wpList_loadEvR (.tmp 40) rfl b (off + k * 13) rfl e1 hrg6 (by rfl) ?_) | (go_at_call 32; refine CF.mono ?_; rintro e w7 ⟨rfl, hT7, j2, hj2, hg7⟩))
    have hb7 := grown_lowM hg7 (base := w2.heap.size) (fun k e => by cases e; rcases hj2 with rfl | rfl <;> omega) hb9.size
    have hD7 := hD6.life hg7 (hT6.no_cells hj2)
    have hrg7 : w7.rangeAt b (off + k * 13) e1.cells := range_belowS hrg6 hb7 hbx
    have hb9 := hb9.trans hb7
    have q0 : w7.cell? ⟨b, off + k * 13, none⟩ = some (.int .i64 e1.kd) := hrg7 0 _ rfl
    clear CF hT6 hD6 hg7 hb7 hrg6 hrg7 tw1 tw2
    obtain ⟨A, hA⟩ : ∃ x, foldA S.f S.cl e1 = x := ⟨_, rfl⟩
    simp only [hA]
    clear hA
    rw [← HE.out] at hT7 hD7
    by_cases cA : A = 0
    · subst cA
      by_cases c7 : e1.kd = 7
      · have x7 : (if (0 : Int) = 0 ∧ e1.kd ≠ 7 then (8 : Int) else 0) = 0 := if_neg (fun q => q.2 c7)
        rw [c7] at q0
        simp only [x7]
        go_wp2_with (go_at_call 38; with_reducible refine (sameD_any (w2.heap.size + 2) w2.heap.size (w2.heap.size + 1) (2 * k + 1 + 1) w2.heap.size wA.heap.size (k + 1) (foldT t0 (es.take (k + 1))) _ hT7 (by omega) hD7).mono ?_; rintro e ws ⟨rfl, hbs⟩)
        go_roundw
        case rel => exact ⟨k + 1, by omega, by go_num, hb9.trans (hbs.mono hb9.size), hT7.kept hbs, hD7.kept hbs⟩
        case measure => (simp [intOf]) <;> omega
      · have x7 : (if (0 : Int) = 0 ∧ e1.kd ≠ 7 then (8 : Int) else 0) = 8 := if_pos ⟨rfl, c7⟩
        simp only [x7]
        have y7 : (e1.kd == 7) = false := beq_eq_false_iff_ne.2 c7
        have z7 : (e1.kd != 7) = true := by simp [bne, y7]
        go_wp2_with (go_at_call 38; with_reducible refine (sameD_any (w2.heap.size + 2) w2.heap.size (w2.heap.size + 1) (2 * k + 1 + 1) w2.heap.size wA.heap.size (k + 1) (foldT t0 (es.take (k + 1))) _ hT7 (by omega) hD7).mono ?_; rintro e ws ⟨rfl, hbs⟩)
        go_roundw
        case rel => exact ⟨k + 1, by omega, by go_num, hb9.trans (hbs.mono hb9.size), hT7.kept hbs, hD7.kept hbs⟩
        case measure => (simp [intOf]) <;> omega
    · have x7 : (if A = 0 ∧ e1.kd ≠ 7 then (8 : Int) else A) = A := if_neg (fun q => cA q.1)
      simp only [x7]
      have y7 : (A == 0) = false := beq_eq_false_iff_ne.2 cA
      have z7 : (A != 0) = true := by simp [bne, y7]
      have z8 : (A != A) = false := by simp
      go_wp2_with (go_at_call 38; with_reducible refine (sameD_any (w2.heap.size + 2) w2.heap.size (w2.heap.size + 1) (2 * k + 1 + 1) w2.heap.size wA.heap.size (k + 1) (foldT t0 (es.take (k + 1))) _ hT7 (by omega) hD7).mono ?_; rintro e ws ⟨rfl, hbs⟩)
      go_roundw
      case rel => exact ⟨k + 1, by omega, by go_num, hb9.trans (hbs.mono hb9.size), hT7.kept hbs, hD7.kept hbs⟩
      case measure => (simp [intOf]) <;> omega
end Go.Proofs.Ytbckncopdkmoeaa
