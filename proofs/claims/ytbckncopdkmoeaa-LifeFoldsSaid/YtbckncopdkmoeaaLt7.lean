/- LifeFolds walked. -/
import Derived.Test.YtbckncopdkmoeaaDG
import Derived.Test.YtbckncopdkmoeaaLf14
import Derived.Deep.Cut
import Derived.BigRegion
import Derived.RegionTactic
import Derived.BigQuiet
import Derived.Deep.QuietTactic
import Derived.Deep.MidRow
import Derived.Deep.RegionLaw
import Derived.OneCell
import Derived.Laws.OwnMore
import Derived.Deep.RegionHeld
import Derived.LoopTactic
import Derived.BigFrame
import Derived.WalkKit
import Derived.ProofKit
import Derived.Handy
import Derived.Below
import Derived.Lib.Hide
import Derived.IntWalk
import Derived.Outline
import Derived.WalkLawsBesides
import Derived.WalkSpells
namespace Go.Proofs.Ytbckncopdkmoeaa
open Go.RowKit
attribute [local go_sem] strV
set_option linter.unusedVariables false
set_option linter.unusedSimpArgs false
set_option maxRecDepth 100000 in
set_option maxHeartbeats 6400000 in
theorem walkLifeFolds (a : Option Addr) (n cap : Nat) (es : List Ev) (kp : ByteArray) (kc : Int) (ku : Bool) (kq : Int) (w : World) (hr : RowAt w a (es.flatMap Ev.cells)) (hn : es.length = n) (hc : n ≤ cap) (hm : cap ≤ maxLen) (hsz : kp.size ≤ maxLen) (hkc : -9223372036854775808 ≤ kc ∧ kc ≤ 9223372036854775807) (hks : -9223372036854775808 ≤ kq ∧ kq ≤ 9223372036854775807) :
    Calls Try.prog 7 #[.slice a n cap, .agg #[.string kp, .int .i64 kc, .bool ku, .int .i64 kq]] w fun e w' => e = .returned (.bool true) ∧ Below w.heap.size w w' := by
  have hkw : (⟨kp, kc, ku, kq⟩ : Lk).wf := ⟨wf_i64 hkc.1 hkc.2, wf_i64 hks.1 hks.2, hsz⟩
  have CL1 := fun W (h : RowAt W a (es.flatMap Ev.cells)) => lightL_any a n cap es W h hn
  obtain ⟨l1, hl1⟩ : ∃ b, lightL es = b := ⟨_, rfl⟩
  rw [hl1] at CL1
  have HN := Lib.hid hn
  have H1 := Lib.hid hl1
  clear hn hl1
  have hq0 := heap_push w #[.string kp, .int .i64 kc, .bool ku, .int .i64 kq] 62
  have hb0 : Below w.heap.size w (w.alloc (.cells #[.string kp, .int .i64 kc, .bool ku, .int .i64 kq] 62)) := (Below.refl _ _).alloc (Nat.le_refl _) _
  go_enter Try.func7, Try.ntmps7
  go_upto_region 1 with fail
  refine wp_nameE _ (fun w0 hw0 => ?_)
  have hk0 : w0.heap[w.heap.size]? = some (.cells (⟨kp, kc, ku, kq⟩ : Lk).row 62 (0, 0)) := by rw [hw0]; exact hq0
  have hb0 : Below w.heap.size w w0 := by rw [hw0]; exact hb0
  clear hw0 hq0
  cases l1
  · go_wp2_with (first | (go_at_call 29; (with_reducible refine (first22_any w0).mono ?_); rintro e wa ⟨rfl, hba⟩; have hbaL := hba; have hba := hb0.trans (hba.mono hb0.size)) | (go_at_call 30; (with_reducible refine (CL1 _ (hr.below hba)).mono ?_); rintro e w2 ⟨rfl, hb2⟩; have hbb := hba.trans (hb2.mono hba.size)) | (go_at_call 29; (with_reducible refine (first22_any w2).mono ?_); rintro e wz ⟨rfl, hbz⟩))
    go_ret
    exact ⟨by first | rfl | simp, hbb.trans (hbz.mono hbb.size)⟩
  have hs1 := light_sz H1.out
  have hl60 := light_len H1.out
  rw [HN.out] at hl60
  by_cases c60 : 60 < kp.size
  · have d60 : decide ((60 : Int) < (kp.size : Int)) = true := decide_eq_true (by omega)
    have d60n : decide (60 < kp.size) = true := decide_eq_true c60
    go_wp2_with (first | (go_at_call 29; (with_reducible refine (first22_any w0).mono ?_); rintro e wa ⟨rfl, hba⟩; have hbaL := hba; have hba := hb0.trans (hba.mono hb0.size)) | (go_at_call 30; (with_reducible refine (CL1 _ (hr.below hba)).mono ?_); rintro e w2 ⟨rfl, hb2⟩; have hbb := hba.trans (hb2.mono hba.size); have hk2 := cells_of hk0 ((hbaL.trans (hb2.mono hbaL.size))) (row_lt hk0); have kp0 : w2.cell? ⟨w.heap.size, 0, none⟩ = some (.string kp) := cell_heap hk2 0) | (go_at_call 29; (with_reducible refine (first22_any w2).mono ?_); rintro e wz ⟨rfl, hbz⟩))
    go_ret
    exact ⟨by first | rfl | simp, hbb.trans (hbz.mono hbb.size)⟩
  have d60 : decide ((60 : Int) < (kp.size : Int)) = false := decide_eq_false (by omega)
  have d60n : decide (60 < kp.size) = false := decide_eq_false c60
  go_wp2_with (first | (go_at_call 29; (with_reducible refine (first22_any w0).mono ?_); rintro e wa ⟨rfl, hba⟩; have hbaL := hba; have hba := hb0.trans (hba.mono hb0.size)) | (go_at_call 30; (with_reducible refine (CL1 _ (hr.below hba)).mono ?_); rintro e w2 ⟨rfl, hb2⟩; have hbb := hba.trans (hb2.mono hba.size); have hk2 := cells_of hk0 ((hbaL.trans (hb2.mono hbaL.size))) (row_lt hk0); have kp0 : w2.cell? ⟨w.heap.size, 0, none⟩ = some (.string kp) := cell_heap hk2 0) | (go_at_call 31; (with_reducible refine (lfNew_any w2).mono ?_); rintro e wA ⟨rfl, hTA, hbA⟩) | (refine wpList_buildG rfl 71 _ rfl #[] (by first | rfl | simp) (build_tab _) ?_))
  have hltA := hTA.lt
  have hbD : Below wA.heap.size wA (wA.alloc (.cells #[.slice none 0 0, .slice none 0 0, .slice none 0 0] 71)) := (Below.refl _ _).alloc (Nat.le_refl _) _
  have hTA := hTA.kept hbD
  have hDA := DocOf.nil hbA.size (heap_push wA #[.slice none 0 0, .slice none 0 0, .slice none 0 0] 71)
  have hb9 := hbA.trans (hbD.mono hbA.size)
  clear CL1 hbD kp0 d60 d60n
  go_loopw [7] (fun i wq => ∃ k : Nat, k ≤ n ∧ i = .int .i64 k ∧ Below w2.heap.size w2 wq ∧ TabAt wq (w2.heap.size + 2) w2.heap.size (w2.heap.size + 1) k (foldT t0 (es.take k)).f (foldT t0 (es.take k)).cl ∧ DocOf wq w2.heap.size wA.heap.size (foldT t0 (es.take k)) k) (fun i _ => n - (intOf i).toNat)
  case atStart => exact ⟨0, Nat.zero_le _, rfl, hb9, by rw [List.take_zero]; exact hTA, by rw [List.take_zero]; exact hDA⟩
  case round =>
    clear hb9 hTA hDA
    obtain ⟨k, hk, rfl, hb9, hTA, hDA⟩ := hrel
    obtain ⟨S, hS⟩ : ∃ s, foldT t0 (es.take k) = s := ⟨_, rfl⟩
    rw [hS] at hTA hDA
    have HS := Lib.hid hS
    clear hS
    by_cases hlt : k < n
    rotate_left
    · obtain rfl : n = k := by omega
      have d9 : decide ((n : Int) < (n : Int)) = false := decide_eq_false (by omega)
      have d9n : decide (n < n) = false := decide_eq_false (by omega)
      obtain ⟨wR, rfl⟩ : ∃ x, x = wr := ⟨wr, rfl⟩
      have hbR := hbb.trans (hb9.mono hbb.size)
      have hk9 := cells_of hk2 hb9 (row_lt hk2)
      have CG := fun W (hT : TabAt W (w2.heap.size + 2) w2.heap.size (w2.heap.size + 1) n (S).f (S).cl) => lfGet_any (w2.heap.size + 2) w2.heap.size (w2.heap.size + 1) n S.f S.cl (⟨kp, kc, ku, kq⟩ : Lk) hkw W hT
      have CS := fun W (hT : TabAt W (w2.heap.size + 2) w2.heap.size (w2.heap.size + 1) n (S).f (S).cl) => lfStage_any (w2.heap.size + 2) w2.heap.size (w2.heap.size + 1) n S.f S.cl (⟨kp, kc, ku, kq⟩ : Lk) hkw W hT
      have DG := fun W (h : DocOf W w2.heap.size wA.heap.size (S) n) => getD_any w2.heap.size wA.heap.size n S (⟨kp, kc, ku, kq⟩ : Lk) hkw W (by omega) h
      have DS := fun W (h : DocOf W w2.heap.size wA.heap.size (S) n) => stageD_any w2.heap.size wA.heap.size n S (⟨kp, kc, ku, kq⟩ : Lk) hkw W (by omega) h
      generalize stgF (S.f (⟨kp, kc, ku, kq⟩ : Lk)) (⟨kp, kc, ku, kq⟩ : Lk).ou = st at CS DS
      generalize (S.f (⟨kp, kc, ku, kq⟩ : Lk)).getD zeroEnt = e at CG DG
      generalize (S.f (⟨kp, kc, ku, kq⟩ : Lk)).isSome = sb at CG DG
      go_upto_region 14 with (first | (refine wpList_loadLkR (.tmp 3) rfl w.heap.size 0 rfl (⟨kp, kc, ku, kq⟩ : Lk) (lk_rowR hk9) (by rfl) ?_) | (go_at_call 34; refine (CG _ hTA).mono ?_; rintro e9 w5 ⟨rfl, hb5⟩) | (refine wpList_storeRowTo (Z := e.row) rfl (.tmp 8) (.tmp 54) 78 rfl (infoEnt_row _) rfl rfl (heap_push _ zeroEnt.row 78) rfl (Ent.row_one _) ?_))
      refine wp_nameE _ (fun wG hwG => ?_)
      have hG : wG.heap[w5.heap.size]? = some (.cells e.row 78 (0, 0)) := by rw [hwG]; exact setRow_heap _ _ zeroEnt.row e.row _ _ (heap_push w5 zeroEnt.row 78)
      have hbG : Below w5.heap.size w5 wG := by rw [hwG]; exact below_setRow ((Below.refl _ _).alloc (Nat.le_refl _) _) (Nat.le_refl _) _
      clear hwG
      have hbG := hb5.trans (hbG.mono hb5.size)
      have hTA := hTA.kept hbG
      have hDA := hDA.kept hbG
      have hk9 := cells_of hk9 hbG (row_lt hk9)
      have hbR := hbR.trans (hbG.mono hbR.size)
      clear CG hb5 hbG
      have q0 : wG.cell? ⟨w.heap.size, 0, none⟩ = some (.string kp) := cell_heap hk9 0
      have q1 : wG.cell? ⟨w.heap.size, 1, none⟩ = some (.int .i64 kc) := cell_heap hk9 1
      have q2 : wG.cell? ⟨w.heap.size, 2, none⟩ = some (.bool ku) := cell_heap hk9 2
      have q3 : wG.cell? ⟨w.heap.size, 3, none⟩ = some (.int .i64 kq) := cell_heap hk9 3
      go_upto_region 15 with (refine wpList_buildG rfl 81 _ rfl #[(0, .agg #[.string kp, .int .i64 kc]), (1, .bool ku), (2, .int .i64 kq)] (by first | rfl | simp [Act.eval]) (build_k2 kp kc ku kq _) ?_)
      refine wp_nameE _ (fun wH hwH => ?_)
      have hH : wH.heap[wG.heap.size]? = some (.cells (⟨kp, kc, ku, kq⟩ : Lk).row 81 (0, 0)) := by rw [hwH]; exact heap_push wG _ _
      have hbH : Below wG.heap.size wG wH := by rw [hwH]; exact (Below.refl _ _).alloc (Nat.le_refl _) _
      clear hwH q0 q1 q2 q3
      have hTA := hTA.kept hbH
      have hDA := hDA.kept hbH
      have hk9 := cells_of hk9 hbH (row_lt hk9)
      have hG := cells_of hG hbH (row_lt hG)
      have hbR := hbR.trans (hbH.mono hbR.size)
      clear hbH
      go_upto_region 16 with (first | (refine wpList_loadLk2R (.tmp 10) rfl wG.heap.size 0 rfl (⟨kp, kc, ku, kq⟩ : Lk) (row_range4 hH) (by rfl) ?_) | (go_at_call 35; refine (DG _ hDA).mono ?_; rintro e9 w6 ⟨rfl, hb6⟩) | (refine wpList_storeRowTo (Z := e.row) rfl (.tmp 11) (.tmp 67) 82 rfl (infoEnt2_row _) rfl rfl (heap_push _ zeroEnt.row 82) rfl (Ent.row_one _) ?_))
      refine wp_nameE _ (fun wN hwN => ?_)
      have hN9 : wN.heap[w6.heap.size]? = some (.cells e.row 82 (0, 0)) := by rw [hwN]; exact setRow_heap _ _ zeroEnt.row e.row _ _ (heap_push w6 zeroEnt.row 82)
      have hbN : Below w6.heap.size w6 wN := by rw [hwN]; exact below_setRow ((Below.refl _ _).alloc (Nat.le_refl _) _) (Nat.le_refl _) _
      clear hwN
      have hbN := hb6.trans (hbN.mono hb6.size)
      have hTA := hTA.kept hbN
      have hDA := hDA.kept hbN
      have hk9 := cells_of hk9 hbN (row_lt hk9)
      have hG := cells_of hG hbN (row_lt hG)
      have hH := cells_of hH hbN (row_lt hH)
      have hbR := hbR.trans (hbN.mono hbR.size)
      clear DG hb6 hbN
      have lG := row_lt hG
      have lN := row_lt hN9
      have g8 : wN.cell? ⟨w5.heap.size, 8, none⟩ = some (.string e.ack) := cell_heap hG 8
      have g9 : wN.cell? ⟨w5.heap.size, 9, none⟩ = some (.bool e.se) := cell_heap hG 9
      have m8 : wN.cell? ⟨w6.heap.size, 8, none⟩ = some (.string e.ack) := cell_heap hN9 8
      have m9 : wN.cell? ⟨w6.heap.size, 9, none⟩ = some (.bool e.se) := cell_heap hN9 9
      obtain ⟨ack9, ha9⟩ : ∃ x, e.ack = x := ⟨_, rfl⟩
      obtain ⟨se9, hse9⟩ : ∃ x, e.se = x := ⟨_, rfl⟩
      rw [ha9] at g8 m8
      rw [hse9] at g9 m9
      clear ha9 hse9
      refine wp_region_held_drew (S := fun X => Below wN.heap.size wN X) (by kernel_rfl) ((Below.refl _ _).drew) (fun hS0 => ?_)
      refine wpAnyH_take (i := 0) (v := .bool sb) rfl (by kernel_rfl) (by kernel_rfl) (by kernel_rfl) (fun _ _ _ h => h) (Yields.yieldsIf (Or.inl ⟨by rfl, fun w9 => by (go_simp; first | done | with_reducible rfl | (intro h9; exfalso; omega))⟩)) hS0 ?_
      change wpAnyH _ _ _ _ _ _ _ (Act.put _ (some 69) _) _; dsimp only [Act.put]; simp only [List.setIfInBounds_toArray, List.set_cons_succ, List.set_cons_zero]
      refine wpAnyH_take (i := 1) (v := .bool sb) rfl (by kernel_rfl) (by kernel_rfl) (by kernel_rfl) (fun _ _ _ h => h) (Yields.yieldsIf (Or.inl ⟨by rfl, fun w9 => by (go_simp; first | done | with_reducible rfl | (intro h9; exfalso; omega))⟩)) hS0 ?_
      change wpAnyH _ _ _ _ _ _ _ (Act.put _ (some 70) _) _; dsimp only [Act.put]; simp only [List.setIfInBounds_toArray, List.set_cons_succ, List.set_cons_zero]
      refine wpAnyH_take (i := 2) (v := .bool true) rfl (by kernel_rfl) (by kernel_rfl) (by kernel_rfl) (fun _ _ _ h => h) (Yields.yieldsIf (Or.inl ⟨by rfl, fun w9 => by (go_simp; first | done | with_reducible rfl | (intro h9; exfalso; omega))⟩)) hS0 ?_
      change wpAnyH _ _ _ _ _ _ _ (Act.put _ (some 71) _) _; dsimp only [Act.put]; simp only [List.setIfInBounds_toArray, List.set_cons_succ, List.set_cons_zero]
      refine wpAnyH_take (i := 3) (v := .bool true) rfl (by kernel_rfl) (by kernel_rfl) (by kernel_rfl) (fun _ _ _ h => h) (Yields.yieldsIf (Or.inl ⟨by rfl, fun w9 => by (go_simp; first | done | with_reducible rfl | (intro h9; exfalso; omega))⟩)) hS0 ?_
      change wpAnyH _ _ _ _ _ _ _ (Act.put _ (some 72) _) _; dsimp only [Act.put]; simp only [List.setIfInBounds_toArray, List.set_cons_succ, List.set_cons_zero]
      refine wpAnyH_take (i := 4) (v := .pointer (some ⟨w5.heap.size, 0, none⟩)) rfl (by kernel_rfl) (by kernel_rfl) (by kernel_rfl) (fun _ _ _ h => h) (Yields.yieldsIf (Or.inl ⟨by rfl, fun w9 => by (go_simp; first | done | with_reducible rfl | (intro h9; exfalso; omega))⟩)) hS0 ?_
      change wpAnyH _ _ _ _ _ _ _ (Act.put _ (some 73) _) _; dsimp only [Act.put]; simp only [List.setIfInBounds_toArray, List.set_cons_succ, List.set_cons_zero]
      refine wpAnyH_take (i := 5) (v := .agg e.pkL.toArray) rfl (by kernel_rfl) (by kernel_rfl) (by kernel_rfl) (fun _ _ _ h => h) (Or.inl ⟨by rfl, fun w9 hS9 => exec_loadPkE (.tmp 73) rfl w5.heap.size (by first | rfl | simp [Act.eval, Act.put]) e (pk_range (cells_of hG hS9 (row_lt hG)))⟩) hS0 ?_
      change wpAnyH _ _ _ _ _ _ _ (Act.put _ (some 74) _) _; dsimp only [Act.put]; simp only [List.setIfInBounds_toArray, List.set_cons_succ, List.set_cons_zero]
      refine wpAnyH_take (i := 6) (v := .pointer (some ⟨w6.heap.size, 0, none⟩)) rfl (by kernel_rfl) (by kernel_rfl) (by kernel_rfl) (fun _ _ _ h => h) (Yields.yieldsIf (Or.inl ⟨by rfl, fun w9 => by (go_simp; first | done | with_reducible rfl | (intro h9; exfalso; omega))⟩)) hS0 ?_
      change wpAnyH _ _ _ _ _ _ _ (Act.put _ (some 75) _) _; dsimp only [Act.put]; simp only [List.setIfInBounds_toArray, List.set_cons_succ, List.set_cons_zero]
      refine wpAnyH_take (i := 7) (v := .agg e.pkL.toArray) rfl (by kernel_rfl) (by kernel_rfl) (by kernel_rfl) (fun _ _ _ h => h) (Or.inl ⟨by rfl, fun w9 hS9 => exec_loadPkE (.tmp 75) rfl w6.heap.size (by first | rfl | simp [Act.eval, Act.put]) e (pk_range (cells_of hN9 hS9 (row_lt hN9)))⟩) hS0 ?_
      change wpAnyH _ _ _ _ _ _ _ (Act.put _ (some 76) _) _; dsimp only [Act.put]; simp only [List.setIfInBounds_toArray, List.set_cons_succ, List.set_cons_zero]
      refine wpAnyH_take (i := 8) (v := .bool true) rfl (by kernel_rfl) (by kernel_rfl) (by kernel_rfl) (fun _ _ _ h => h) (Or.inl ⟨by rfl, fun w9 hS9 => exec_eqPkE 74 76 rfl e (by first | rfl | simp [Act.eval, Act.put]) (by first | rfl | simp [Act.eval, Act.put])⟩) hS0 ?_
      change wpAnyH _ _ _ _ _ _ _ (Act.put _ (some 77) _) _; dsimp only [Act.put]; simp only [List.setIfInBounds_toArray, List.set_cons_succ, List.set_cons_zero]
      refine wpAnyH_take (i := 9) (v := .bool true) rfl (by kernel_rfl) (by kernel_rfl) (by kernel_rfl) (fun _ _ _ h => h) (Yields.yieldsIf (Or.inl ⟨by rfl, fun w9 => by (go_simp; first | done | with_reducible rfl | (intro h9; exfalso; omega))⟩)) hS0 ?_
      change wpAnyH _ _ _ _ _ _ _ (Act.put _ (some 78) _) _; dsimp only [Act.put]; simp only [List.setIfInBounds_toArray, List.set_cons_succ, List.set_cons_zero]
      refine wpAnyH_take (i := 10) (v := .bool true) rfl (by kernel_rfl) (by kernel_rfl) (by kernel_rfl) (fun _ _ _ h => h) (Yields.yieldsIf (Or.inl ⟨by rfl, fun w9 => by (go_simp; first | done | with_reducible rfl | (intro h9; exfalso; omega))⟩)) hS0 ?_
      change wpAnyH _ _ _ _ _ _ _ (Act.put _ (some 79) _) _; dsimp only [Act.put]; simp only [List.setIfInBounds_toArray, List.set_cons_succ, List.set_cons_zero]
      refine wpAnyH_take (i := 11) (v := .pointer (some ⟨w5.heap.size, 8, none⟩)) rfl (by kernel_rfl) (by kernel_rfl) (by kernel_rfl) (fun _ _ _ h => h) (Yields.yieldsIf (Or.inl ⟨by rfl, fun w9 => by (go_simp; first | done | with_reducible rfl | (intro h9; exfalso; omega))⟩)) hS0 ?_
      change wpAnyH _ _ _ _ _ _ _ (Act.put _ (some 80) _) _; dsimp only [Act.put]; simp only [List.setIfInBounds_toArray, List.set_cons_succ, List.set_cons_zero]
      refine wpAnyH_take (i := 12) (v := .string ack9) rfl (by kernel_rfl) (by kernel_rfl) (by kernel_rfl) (fun _ _ _ h => h) (Or.inl ⟨by rfl, fun w9 hS9 => by have hc9 := (hS9.cell lG).trans g8; go_simp; try with_reducible rfl⟩) hS0 ?_
      change wpAnyH _ _ _ _ _ _ _ (Act.put _ (some 81) _) _; dsimp only [Act.put]; simp only [List.setIfInBounds_toArray, List.set_cons_succ, List.set_cons_zero]
      refine wpAnyH_take (i := 13) (v := .pointer (some ⟨w6.heap.size, 8, none⟩)) rfl (by kernel_rfl) (by kernel_rfl) (by kernel_rfl) (fun _ _ _ h => h) (Yields.yieldsIf (Or.inl ⟨by rfl, fun w9 => by (go_simp; first | done | with_reducible rfl | (intro h9; exfalso; omega))⟩)) hS0 ?_
      change wpAnyH _ _ _ _ _ _ _ (Act.put _ (some 82) _) _; dsimp only [Act.put]; simp only [List.setIfInBounds_toArray, List.set_cons_succ, List.set_cons_zero]
      refine wpAnyH_take (i := 14) (v := .string ack9) rfl (by kernel_rfl) (by kernel_rfl) (by kernel_rfl) (fun _ _ _ h => h) (Or.inl ⟨by rfl, fun w9 hS9 => by have hc9 := (hS9.cell lN).trans m8; go_simp; try with_reducible rfl⟩) hS0 ?_
      change wpAnyH _ _ _ _ _ _ _ (Act.put _ (some 83) _) _; dsimp only [Act.put]; simp only [List.setIfInBounds_toArray, List.set_cons_succ, List.set_cons_zero]
      refine wpAnyH_take (i := 15) (v := .bool true) rfl (by kernel_rfl) (by kernel_rfl) (by kernel_rfl) (fun _ _ _ h => h) (Yields.yieldsIf (Or.inl ⟨by rfl, fun w9 => by (go_simp; first | done | with_reducible rfl | (intro h9; exfalso; omega))⟩)) hS0 ?_
      change wpAnyH _ _ _ _ _ _ _ (Act.put _ (some 84) _) _; dsimp only [Act.put]; simp only [List.setIfInBounds_toArray, List.set_cons_succ, List.set_cons_zero]
      refine wpAnyH_take (i := 16) (v := .bool true) rfl (by kernel_rfl) (by kernel_rfl) (by kernel_rfl) (fun _ _ _ h => h) (Yields.yieldsIf (Or.inl ⟨by rfl, fun w9 => by (go_simp; first | done | with_reducible rfl | (intro h9; exfalso; omega))⟩)) hS0 ?_
      change wpAnyH _ _ _ _ _ _ _ (Act.put _ (some 85) _) _; dsimp only [Act.put]; simp only [List.setIfInBounds_toArray, List.set_cons_succ, List.set_cons_zero]
      refine wpAnyH_take (i := 17) (v := .bool true) rfl (by kernel_rfl) (by kernel_rfl) (by kernel_rfl) (fun _ _ _ h => h) (Yields.yieldsIf (Or.inl ⟨by rfl, fun w9 => by (go_simp; first | done | with_reducible rfl | (intro h9; exfalso; omega))⟩)) hS0 ?_
      change wpAnyH _ _ _ _ _ _ _ (Act.put _ (some 86) _) _; dsimp only [Act.put]; simp only [List.setIfInBounds_toArray, List.set_cons_succ, List.set_cons_zero]
      refine wpAnyH_take (i := 18) (v := .pointer (some ⟨w5.heap.size, 9, none⟩)) rfl (by kernel_rfl) (by kernel_rfl) (by kernel_rfl) (fun _ _ _ h => h) (Yields.yieldsIf (Or.inl ⟨by rfl, fun w9 => by (go_simp; first | done | with_reducible rfl | (intro h9; exfalso; omega))⟩)) hS0 ?_
      change wpAnyH _ _ _ _ _ _ _ (Act.put _ (some 87) _) _; dsimp only [Act.put]; simp only [List.setIfInBounds_toArray, List.set_cons_succ, List.set_cons_zero]
      refine wpAnyH_take (i := 19) (v := .bool se9) rfl (by kernel_rfl) (by kernel_rfl) (by kernel_rfl) (fun _ _ _ h => h) (Or.inl ⟨by rfl, fun w9 hS9 => by have hc9 := (hS9.cell lG).trans g9; go_simp; try with_reducible rfl⟩) hS0 ?_
      change wpAnyH _ _ _ _ _ _ _ (Act.put _ (some 88) _) _; dsimp only [Act.put]; simp only [List.setIfInBounds_toArray, List.set_cons_succ, List.set_cons_zero]
      refine wpAnyH_take (i := 20) (v := .pointer (some ⟨w6.heap.size, 9, none⟩)) rfl (by kernel_rfl) (by kernel_rfl) (by kernel_rfl) (fun _ _ _ h => h) (Yields.yieldsIf (Or.inl ⟨by rfl, fun w9 => by (go_simp; first | done | with_reducible rfl | (intro h9; exfalso; omega))⟩)) hS0 ?_
      change wpAnyH _ _ _ _ _ _ _ (Act.put _ (some 89) _) _; dsimp only [Act.put]; simp only [List.setIfInBounds_toArray, List.set_cons_succ, List.set_cons_zero]
      refine wpAnyH_take (i := 21) (v := .bool se9) rfl (by kernel_rfl) (by kernel_rfl) (by kernel_rfl) (fun _ _ _ h => h) (Or.inl ⟨by rfl, fun w9 hS9 => by have hc9 := (hS9.cell lN).trans m9; go_simp; try with_reducible rfl⟩) hS0 ?_
      change wpAnyH _ _ _ _ _ _ _ (Act.put _ (some 90) _) _; dsimp only [Act.put]; simp only [List.setIfInBounds_toArray, List.set_cons_succ, List.set_cons_zero]
      refine wpAnyH_take (i := 22) (v := .bool true) rfl (by kernel_rfl) (by kernel_rfl) (by kernel_rfl) (fun _ _ _ h => h) (Yields.yieldsIf (Or.inl ⟨by rfl, fun w9 => by (go_simp; first | done | with_reducible rfl | (intro h9; exfalso; omega))⟩)) hS0 ?_
      change wpAnyH _ _ _ _ _ _ _ (Act.put _ (some 91) _) _; dsimp only [Act.put]; simp only [List.setIfInBounds_toArray, List.set_cons_succ, List.set_cons_zero]
      refine wpAnyH_take (i := 23) (v := .bool true) rfl (by kernel_rfl) (by kernel_rfl) (by kernel_rfl) (fun _ _ _ h => h) (Yields.yieldsIf (Or.inl ⟨by rfl, fun w9 => by (go_simp; first | done | with_reducible rfl | (intro h9; exfalso; omega))⟩)) hS0 ?_
      change wpAnyH _ _ _ _ _ _ _ (Act.put _ (some 92) _) _; dsimp only [Act.put]; simp only [List.setIfInBounds_toArray, List.set_cons_succ, List.set_cons_zero]
      refine wpAnyH_take (i := 24) (v := .bool true) rfl (by kernel_rfl) (by kernel_rfl) (by kernel_rfl) (fun _ _ _ h => h) (Yields.yieldsIf (Or.inl ⟨by rfl, fun w9 => by (go_simp; first | done | with_reducible rfl | (intro h9; exfalso; omega))⟩)) hS0 ?_
      change wpAnyH _ _ _ _ _ _ _ (Act.put _ (some 93) _) _; dsimp only [Act.put]; simp only [List.setIfInBounds_toArray, List.set_cons_succ, List.set_cons_zero]
      refine wpAnyH_take (i := 25) (v := .pointer (some ⟨w2.heap.size + 2, 0, none⟩)) rfl (by kernel_rfl) (by kernel_rfl) (by kernel_rfl) (fun _ _ _ h => h) (Yields.yieldsIf (Or.inl ⟨by rfl, fun w9 => by (go_simp; first | done | with_reducible rfl | (intro h9; exfalso; omega))⟩)) hS0 ?_
      change wpAnyH _ _ _ _ _ _ _ (Act.put _ (some 94) _) _; dsimp only [Act.put]; simp only [List.setIfInBounds_toArray, List.set_cons_succ, List.set_cons_zero]
      refine wpAnyH_take (i := 26) (v := .agg (⟨kp, kc, ku, kq⟩ : Lk).row) rfl (by kernel_rfl) (by kernel_rfl) (by kernel_rfl) (fun _ _ _ h => h) (Or.inl ⟨by rfl, fun w9 hS9 => exec_loadLkAt (.tmp 3) rfl w.heap.size 0 (by first | rfl | simp [Act.eval, Act.put]) (⟨kp, kc, ku, kq⟩ : Lk) (range_belowS (lk_rowR hk9) hS9 (row_lt hk9))⟩) hS0 ?_
      change wpAnyH _ _ _ _ _ _ _ (Act.put _ (some 95) _) _; dsimp only [Act.put]; simp only [List.setIfInBounds_toArray, List.set_cons_succ, List.set_cons_zero]
      refine wpAnyH_take (i := 28) (v := .pointer (some ⟨wA.heap.size, 0, none⟩)) rfl (by kernel_rfl) (by kernel_rfl) (by kernel_rfl) (fun _ _ _ h => h) (Yields.yieldsIf (Or.inl ⟨by rfl, fun w9 => by (go_simp; first | done | with_reducible rfl | (intro h9; exfalso; omega))⟩)) hS0 ?_
      change wpAnyH _ _ _ _ _ _ _ (Act.put _ (some 97) _) _; dsimp only [Act.put]; simp only [List.setIfInBounds_toArray, List.set_cons_succ, List.set_cons_zero]
      refine wpAnyH_take (i := 29) (v := .agg (⟨kp, kc, ku, kq⟩ : Lk).row) rfl (by kernel_rfl) (by kernel_rfl) (by kernel_rfl) (fun _ _ _ h => h) (Or.inl ⟨by rfl, fun w9 hS9 => exec_loadLk2 (.tmp 10) rfl wG.heap.size 0 (by first | rfl | simp [Act.eval, Act.put]) (⟨kp, kc, ku, kq⟩ : Lk) (range_belowS (row_range4 hH) hS9 (row_lt hH))⟩) hS0 ?_
      change wpAnyH _ _ _ _ _ _ _ (Act.put _ (some 98) _) _; dsimp only [Act.put]; simp only [List.setIfInBounds_toArray, List.set_cons_succ, List.set_cons_zero]
      refine wpAnyH_ready (rs := [27]) (by kernel_rfl) (by simp) ?_
      refine AllReadyH.cons rfl (fun K hK => ?_) (fun j hj => by cases hj)
      go_simp
      refine (CS _ (hTA.kept hS0)).mono ?_
      rintro e9 w11 ⟨rfl, hb11⟩
      have hS1 := hS0.trans (hb11.mono hS0.size)
      refine (Shut.out hK) _ _ hS1 (fun _ => ?_)
      clear hK K
      refine wpAnyH_ready (rs := [30]) (by kernel_rfl) (by simp) ?_
      refine AllReadyH.cons rfl (fun K hK => ?_) (fun j hj => by cases hj)
      go_simp
      refine (DS _ (hDA.kept hS1)).mono ?_
      rintro e9 w12 ⟨rfl, hb12⟩
      have hS2 := hS1.trans (hb12.mono hS1.size)
      refine (Shut.out hK) _ _ hS2 (fun _ => ?_)
      clear hK K
      refine wpAnyH_take (i := 31) (v := .bool true) rfl (by kernel_rfl) (by kernel_rfl) (by kernel_rfl) (fun _ _ _ h => h) (Yields.yieldsIf (Or.inl ⟨by rfl, fun w9 => by (go_simp; first | done | with_reducible rfl | (intro h9; exfalso; omega))⟩)) hS2 ?_
      change wpAnyH _ _ _ _ _ _ _ (Act.put _ (some 100) _) _; dsimp only [Act.put]; simp only [List.setIfInBounds_toArray, List.set_cons_succ, List.set_cons_zero]
      refine wpAnyH_take (i := 32) (v := .bool true) rfl (by kernel_rfl) (by kernel_rfl) (by kernel_rfl) (fun _ _ _ h => h) (Yields.yieldsIf (Or.inl ⟨by rfl, fun w9 => by (go_simp; first | done | with_reducible rfl | (intro h9; exfalso; omega))⟩)) hS2 ?_
      change wpAnyH _ _ _ _ _ _ _ (Act.put _ (some 101) _) _; dsimp only [Act.put]; simp only [List.setIfInBounds_toArray, List.set_cons_succ, List.set_cons_zero]
      refine wpAnyH_take (i := 33) (v := .bool true) rfl (by kernel_rfl) (by kernel_rfl) (by kernel_rfl) (fun _ _ _ h => h) (Yields.yieldsIf (Or.inl ⟨by rfl, fun w9 => by (go_simp; first | done | with_reducible rfl | (intro h9; exfalso; omega))⟩)) hS2 ?_
      change wpAnyH _ _ _ _ _ _ _ (Act.put _ (some 102) _) _; dsimp only [Act.put]; simp only [List.setIfInBounds_toArray, List.set_cons_succ, List.set_cons_zero]
      refine wpAnyH_take (i := 34) (v := .pointer (some ⟨w2.heap.size + 2, 0, none⟩)) rfl (by kernel_rfl) (by kernel_rfl) (by kernel_rfl) (fun _ _ _ h => h) (Yields.yieldsIf (Or.inl ⟨by rfl, fun w9 => by (go_simp; first | done | with_reducible rfl | (intro h9; exfalso; omega))⟩)) hS2 ?_
      change wpAnyH _ _ _ _ _ _ _ (Act.put _ (some 103) _) _; dsimp only [Act.put]; simp only [List.setIfInBounds_toArray, List.set_cons_succ, List.set_cons_zero]
      refine wpAnyH_take (i := 35) (v := .pointer (some ⟨wA.heap.size, 0, none⟩)) rfl (by kernel_rfl) (by kernel_rfl) (by kernel_rfl) (fun _ _ _ h => h) (Yields.yieldsIf (Or.inl ⟨by rfl, fun w9 => by (go_simp; first | done | with_reducible rfl | (intro h9; exfalso; omega))⟩)) hS2 ?_
      change wpAnyH _ _ _ _ _ _ _ (Act.put _ (some 104) _) _; dsimp only [Act.put]; simp only [List.setIfInBounds_toArray, List.set_cons_succ, List.set_cons_zero]
      refine wpAnyH_ready (rs := [36]) (by kernel_rfl) (by simp) ?_
      refine AllReadyH.cons rfl (fun K hK => ?_) (fun j hj => by cases hj)
      go_simp
      refine (sameD_any (w2.heap.size + 2) w2.heap.size (w2.heap.size + 1) n w2.heap.size wA.heap.size n S _ (hTA.kept hS2) (by omega) (hDA.kept hS2)).mono ?_
      rintro e9 w13 ⟨rfl, hb13⟩
      have hS3 := hS2.trans (hb13.mono hS2.size)
      refine (Shut.out hK) _ _ hS3 (fun _ => ?_)
      clear hK K
      refine wpAnyH_take (i := 37) (v := .bool true) rfl (by kernel_rfl) (by kernel_rfl) (by kernel_rfl) (fun _ _ _ h => h) (Yields.yieldsIf (Or.inl ⟨by rfl, fun w9 => by (go_simp; first | done | with_reducible rfl | (intro h9; exfalso; omega))⟩)) hS3 ?_
      change wpAnyH _ _ _ _ _ _ _ (Act.put _ (some 106) _) _; dsimp only [Act.put]; simp only [List.setIfInBounds_toArray, List.set_cons_succ, List.set_cons_zero]
      refine wpAnyH_take (i := 38) (v := .bool true) rfl (by kernel_rfl) (by kernel_rfl) (by kernel_rfl) (fun _ _ _ h => h) (Yields.yieldsIf (Or.inl ⟨by rfl, fun w9 => by (go_simp; first | done | with_reducible rfl | (intro h9; exfalso; omega))⟩)) hS3 ?_
      change wpAnyH _ _ _ _ _ _ _ (Act.put _ (some 4) _) _; dsimp only [Act.put]; simp only [List.setIfInBounds_toArray, List.set_cons_succ, List.set_cons_zero]
      refine wpAnyH_done (by kernel_rfl) ?_ _
      go_wp2
      go_ret
      exact ⟨by first | rfl | simp, hbR.trans (hS3.mono hbR.size)⟩
    have hkl : k < es.length := by rw [HN.out]; exact hlt
    obtain ⟨b, off, rfl, hbx, hrg⟩ := ev_range (hr.below hbb) hkl
    have HE := foldT_take (s := t0) hkl
    obtain ⟨e1, he1⟩ : ∃ e, es[k] = e := ⟨_, rfl⟩
    have hz1 := hs1 _ (List.getElem_mem hkl)
    rw [he1] at hrg HE hz1
    rw [HS.out] at HE
    have HE9 := Lib.hid HE
    clear he1 HE
    have d9 : decide ((k : Int) < (n : Int)) = true := decide_eq_true (by omega)
    have d9n : decide (k < n) = true := decide_eq_true (by omega)
    have n0 : (0 : Int) ≤ (k : Int) := by omega
    have n1 : (k : Int) < (n : Int) := by omega
    have n2' : ((k : Nat) : Int).toNat = k := by omega
    have CT := fun W hT => foldR_any (w2.heap.size + 2) w2.heap.size (w2.heap.size + 1) k S e1 W hz1 hT (by unfold maxLen; omega)
    have CU := fun W hD hB => refFold_any w2.heap.size wA.heap.size k S e1 W hz1 hD (by omega) hB
    generalize foldA S.f S.cl e1 = V at CT CU
    go_upto_region 11 with fail
    refine wp_region_held_drew (S := fun X => Below w2.heap.size w2 X) (by kernel_rfl) (hb9.drew) (fun hS0 => ?_)
    refine wpAnyH_take (i := 0) (v := .pointer (some ⟨w2.heap.size + 2, 0, none⟩)) rfl (by kernel_rfl) (by kernel_rfl) (by kernel_rfl) (fun _ _ _ h => h) (Yields.yieldsIf (Or.inl ⟨by rfl, fun w9 => by (go_simp; first | done | with_reducible rfl | (intro h9; exfalso; omega))⟩)) hS0 ?_
    change wpAnyH _ _ _ _ _ _ _ (Act.put _ (some 37) _) _; dsimp only [Act.put]; simp only [List.setIfInBounds_toArray, List.set_cons_succ, List.set_cons_zero]
    refine wpAnyH_take (i := 1) (v := .slice (some ⟨b, off, none⟩) n cap) rfl (by kernel_rfl) (by kernel_rfl) (by kernel_rfl) (fun _ _ _ h => h) (Yields.yieldsIf (Or.inl ⟨by rfl, fun w9 => by (go_simp; first | done | with_reducible rfl | (intro h9; exfalso; omega))⟩)) hS0 ?_
    change wpAnyH _ _ _ _ _ _ _ (Act.put _ (some 38) _) _; dsimp only [Act.put]; simp only [List.setIfInBounds_toArray, List.set_cons_succ, List.set_cons_zero]
    refine wpAnyH_take (i := 2) (v := .int .i64 (k : Int)) rfl (by kernel_rfl) (by kernel_rfl) (by kernel_rfl) (fun _ _ _ h => h) (Yields.yieldsIf (Or.inl ⟨by rfl, fun w9 => by (go_simp; first | done | with_reducible rfl | (intro h9; exfalso; omega))⟩)) hS0 ?_
    change wpAnyH _ _ _ _ _ _ _ (Act.put _ (some 39) _) _; dsimp only [Act.put]; simp only [List.setIfInBounds_toArray, List.set_cons_succ, List.set_cons_zero]
    refine wpAnyH_take (i := 3) (v := .pointer (some ⟨b, off + k * 13, none⟩)) rfl (by kernel_rfl) (by kernel_rfl) (by kernel_rfl) (fun _ _ _ h => h) (Yields.yieldsIf (Or.inl ⟨by rfl, fun w9 => by (go_simp; first | done | with_reducible rfl | (intro h9; exfalso; omega))⟩)) hS0 ?_
    change wpAnyH _ _ _ _ _ _ _ (Act.put _ (some 40) _) _; dsimp only [Act.put]; simp only [List.setIfInBounds_toArray, List.set_cons_succ, List.set_cons_zero]
    refine wpAnyH_take (i := 4) (v := .agg e1.row) rfl (by kernel_rfl) (by kernel_rfl) (by kernel_rfl) (fun _ _ _ h => h) (Or.inl ⟨by rfl, fun w9 hS9 => exec_loadEvR (.tmp 40) rfl b (off + k * 13) (by first | rfl | simp [Act.eval, Act.put]) e1 (range_belowS hrg hS9 hbx)⟩) hS0 ?_
    change wpAnyH _ _ _ _ _ _ _ (Act.put _ (some 41) _) _; dsimp only [Act.put]; simp only [List.setIfInBounds_toArray, List.set_cons_succ, List.set_cons_zero]
    refine wpAnyH_take (i := 6) (v := .pointer (some ⟨wA.heap.size, 0, none⟩)) rfl (by kernel_rfl) (by kernel_rfl) (by kernel_rfl) (fun _ _ _ h => h) (Yields.yieldsIf (Or.inl ⟨by rfl, fun w9 => by (go_simp; first | done | with_reducible rfl | (intro h9; exfalso; omega))⟩)) hS0 ?_
    change wpAnyH _ _ _ _ _ _ _ (Act.put _ (some 43) _) _; dsimp only [Act.put]; simp only [List.setIfInBounds_toArray, List.set_cons_succ, List.set_cons_zero]
    refine wpAnyH_take (i := 7) (v := .slice (some ⟨b, off, none⟩) n cap) rfl (by kernel_rfl) (by kernel_rfl) (by kernel_rfl) (fun _ _ _ h => h) (Yields.yieldsIf (Or.inl ⟨by rfl, fun w9 => by (go_simp; first | done | with_reducible rfl | (intro h9; exfalso; omega))⟩)) hS0 ?_
    change wpAnyH _ _ _ _ _ _ _ (Act.put _ (some 44) _) _; dsimp only [Act.put]; simp only [List.setIfInBounds_toArray, List.set_cons_succ, List.set_cons_zero]
    refine wpAnyH_take (i := 8) (v := .int .i64 (k : Int)) rfl (by kernel_rfl) (by kernel_rfl) (by kernel_rfl) (fun _ _ _ h => h) (Yields.yieldsIf (Or.inl ⟨by rfl, fun w9 => by (go_simp; first | done | with_reducible rfl | (intro h9; exfalso; omega))⟩)) hS0 ?_
    change wpAnyH _ _ _ _ _ _ _ (Act.put _ (some 45) _) _; dsimp only [Act.put]; simp only [List.setIfInBounds_toArray, List.set_cons_succ, List.set_cons_zero]
    refine wpAnyH_take (i := 9) (v := .pointer (some ⟨b, off + k * 13, none⟩)) rfl (by kernel_rfl) (by kernel_rfl) (by kernel_rfl) (fun _ _ _ h => h) (Yields.yieldsIf (Or.inl ⟨by rfl, fun w9 => by (go_simp; first | done | with_reducible rfl | (intro h9; exfalso; omega))⟩)) hS0 ?_
    change wpAnyH _ _ _ _ _ _ _ (Act.put _ (some 46) _) _; dsimp only [Act.put]; simp only [List.setIfInBounds_toArray, List.set_cons_succ, List.set_cons_zero]
    refine wpAnyH_take (i := 10) (v := .agg e1.row) rfl (by kernel_rfl) (by kernel_rfl) (by kernel_rfl) (fun _ _ _ h => h) (Or.inl ⟨by rfl, fun w9 hS9 => exec_loadEvR (.tmp 46) rfl b (off + k * 13) (by first | rfl | simp [Act.eval, Act.put]) e1 (range_belowS hrg hS9 hbx)⟩) hS0 ?_
    change wpAnyH _ _ _ _ _ _ _ (Act.put _ (some 47) _) _; dsimp only [Act.put]; simp only [List.setIfInBounds_toArray, List.set_cons_succ, List.set_cons_zero]
    refine wpAnyH_ready (rs := [5]) (by kernel_rfl) (by simp) ?_
    refine AllReadyH.cons rfl (fun K hK => ?_) (fun j hj => by cases hj)
    go_simp
    refine (CT _ (hTA.kept ((Below.refl _ _).drew))).mono ?_
    rintro e w12 ⟨rfl, hT12, j1, hj1, hg12⟩
    have hD12 := (hDA.kept ((Below.refl _ _).drew)).life hg12 ((hTA.kept ((Below.refl _ _).drew)).no_cells hj1)
    have hS1 := hS0.trans (grown_lowM hg12 (fun k e => by cases e; rcases hj1 with rfl | rfl <;> omega) hS0.size)
    refine (Shut.out hK) _ _ hS1 (fun _ => ?_)
    clear hK K
    refine wpAnyH_ready (rs := [11]) (by kernel_rfl) (by simp) ?_
    refine AllReadyH.cons rfl (fun K hK => ?_) (fun j hj => by cases hj)
    go_simp
    refine (CU _ hD12 hS1.size).mono ?_
    rintro e w13 ⟨rfl, hD13, hg13⟩
    have hT13 := hT12.doc hg13
    have hS2 := hS1.trans (hg13.below hS1.size)
    refine (Shut.out hK) _ _ hS2 (fun _ => ?_)
    clear hK K
    refine wpAnyH_take (i := 12) (v := .bool false) rfl (by kernel_rfl) (by kernel_rfl) (by kernel_rfl) (fun _ _ _ h => h) (Yields.yieldsIf (Or.inl ⟨by rfl, fun w9 => by (go_simp; first | done | with_reducible rfl | (intro h9; exfalso; omega))⟩)) hS2 ?_
    change wpAnyH _ _ _ _ _ _ _ (Act.put _ (some 49) _) _; dsimp only [Act.put]; simp only [List.setIfInBounds_toArray, List.set_cons_succ, List.set_cons_zero]
    refine wpAnyH_done (by kernel_rfl) ?_ _
    go_wp2
    rw [← HE9.out] at hT13 hD13
    go_roundw
    case rel => exact ⟨k + 1, by omega, by go_num, hS2, hT13, hD13⟩
    case measure => (simp [intOf]) <;> omega
end Go.Proofs.Ytbckncopdkmoeaa
