/- life.Table.Fold. -/
import Derived.Test.YtbckncopdkmoeaaLf7
import Derived.Deep.Cut
import Derived.BigRegion
import Derived.RegionTactic
import Derived.WalkKit
import Derived.ProofKit
import Derived.Handy
import Derived.Below
import Derived.Lib.Hide
import Derived.IntWalk
import Derived.Outline
import Derived.WalkLawsBesides
import Derived.WalkSpells
namespace Go.Proofs.Ytbckncopdkmoeaa
open Go.RowKit
attribute [local go_sem] strV
set_option linter.unusedVariables false
set_option linter.unusedSimpArgs false
/-- What Fold says; the entries, the closed ends behind it. -/
def foldA (f : Lk → Option Ent) (cl : ByteArray → Int → Bool) (e : Ev) : Int := if mayEv e = true then (if e.kd = 7 then 0 else if e.kd = 6 then (if cl e.ep e.ec = true then 8 else 0) else foldE f e) else 1
noncomputable def foldF (f : Lk → Option Ent) (e : Ev) : Lk → Option Ent := if mayEv e = true ∧ hasP e.kd = true ∧ foldE f e = 0 then setF f (keyE e) (foldR f e) else f
def foldC (cl : ByteArray → Int → Bool) (e : Ev) : ByteArray → Int → Bool := if mayEv e = true ∧ e.kd = 6 then (if cl e.ep e.ec = true then cl else clPut cl e.ep e.ec) else cl
theorem may_body {e : Ev} (h : mayEv e = true) : bodyE e = true := by
  unfold mayEv at h; exact (Bool.and_eq_true_iff.1 h).2
theorem may_hasP {e : Ev} (h : mayEv e = true) (h6 : e.kd ≠ 6) (h7 : e.kd ≠ 7) : hasP e.kd = true := by
  have hb := may_body h
  unfold bodyE at hb
  rw [if_neg h6, if_neg h7] at hb
  by_cases h3 : e.kd = 3
  · rw [h3]; rfl
  · rw [if_neg h3] at hb
    exact (Bool.and_eq_true_iff.1 hb).1
theorem mayE_wf {p : ByteArray} {c : Int} (h : mayE p c = true) : (Lit.int .i64 c).wf = true ∧ p.size ≤ maxLen := by
  unfold mayE at h
  simp only [Bool.and_eq_true, decide_eq_true_eq] at h
  obtain ⟨⟨h1, h2⟩, h3⟩ := h
  refine ⟨wf_i64 (by omega) (by omega), ?_⟩
  unfold nmB nameP at h1
  simp only [Bool.and_eq_true, decide_eq_true_eq] at h1
  have h4 := h1.1.1.2
  have h5 : p.data.toList.length = p.size := str_len p
  unfold maxLen
  omega
theorem may_mayK {e : Ev} (h : mayEv e = true) (hp : hasP e.kd = true) : mayK e.sp e.sc e.dp e.dc e.sq e.da e.th e.ta = true := by
  have hb := may_body h
  have hk : 1 ≤ e.kd ∧ e.kd ≤ 5 := by
    unfold hasP at hp
    rw [Bool.and_eq_true, decide_eq_true_eq, decide_eq_true_eq] at hp
    exact hp
  unfold bodyE at hb
  rw [if_neg (by omega), if_neg (by omega)] at hb
  by_cases h3 : e.kd = 3
  · rw [if_pos h3] at hb
    simp only [Bool.and_eq_true] at hb
    exact hb.1.1
  · rw [if_neg h3] at hb
    exact (Bool.and_eq_true_iff.1 hb).2
theorem mayK_wf {sp : ByteArray} {sc : Int} {dp : ByteArray} {dc sq : Int} {da : ByteArray} {th ta : Int} (h : mayK sp sc dp dc sq da th ta = true) : mayE sp sc = true ∧ mayE dp dc = true ∧ (Lit.int .i64 sq).wf = true := by
  unfold mayK at h
  simp only [Bool.and_eq_true, decide_eq_true_eq] at h
  obtain ⟨⟨⟨⟨⟨⟨⟨⟨h1, h2⟩, h3⟩, h4⟩, _⟩, _⟩, _⟩, _⟩, _⟩ := h
  exact ⟨h1, h2, wf_i64 (by omega) (by omega)⟩
theorem key_wf {e : Ev} (h : mayEv e = true) (hp : hasP e.kd = true) : (keyE e).wf := by
  obtain ⟨h1, h2, h3⟩ := mayK_wf (may_mayK h hp)
  unfold keyE
  split
  · exact ⟨(mayE_wf h2).1, h3, (mayE_wf h2).2⟩
  · exact ⟨(mayE_wf h1).1, h3, (mayE_wf h1).2⟩
set_option maxRecDepth 100000 in
set_option maxHeartbeats 3200000 in
theorem lfFold_any (g b c n : Nat) (f : Lk → Option Ent) (cl : ByteArray → Int → Bool) (kd : Int) (sp : ByteArray) (sc : Int) (dp : ByteArray) (dc : Int) (sq : Int) (da : ByteArray) (th : Int) (ta : Int) (ack : ByteArray) (ep : ByteArray) (ec : Int) (ht : Int) (w : World) (h1 : sp.size ≤ maxLen) (h2 : dp.size ≤ maxLen) (h3 : ep.size ≤ maxLen) (hT : TabAt w g b c n f cl) (hn : n < maxLen) :
    Calls Try.prog 32 #[.pointer (some ⟨g, 0, none⟩), .agg #[.int .i64 kd, .string sp, .int .i64 sc, .string dp, .int .i64 dc, .int .i64 sq, .string da, .int .i64 th, .int .i64 ta, .string ack, .string ep, .int .i64 ec, .int .i64 ht]] w fun e w' => e = .returned (.int .i64 (foldA f cl ⟨kd, sp, sc, dp, dc, sq, da, th, ta, ack, ep, ec, ht⟩)) ∧ TabAt w' g b c (n + 1) (foldF f ⟨kd, sp, sc, dp, dc, sq, da, th, ta, ack, ep, ec, ht⟩) (foldC cl ⟨kd, sp, sc, dp, dc, sq, da, th, ta, ack, ep, ec, ht⟩) ∧ ∃ j, (j = b ∨ j = c) ∧ w.grownBy w' (some j) := by
  have CM := fun W => mayEv_any kd sp sc dp dc sq da th ta ack ep ec ht W h1 h2 h3
  by_cases hM : mayEv ⟨kd, sp, sc, dp, dc, sq, da, th, ta, ack, ep, ec, ht⟩ = true
  · by_cases k7 : kd = 7
    · subst k7
      rw [show foldA f cl _ = 0 by unfold foldA; rw [if_pos hM]; rfl, show foldF f _ = f by unfold foldF; rw [if_neg (by rintro ⟨_, h, _⟩; exact absurd h (show ¬ hasP 7 = true by decide))], show foldC cl _ = cl by unfold foldC; rw [if_neg (by rintro ⟨_, h⟩; exact absurd h (show (7 : Int) ≠ 6 by decide))]]
      simp only [hM] at CM
      clear hM
      have hq0 := heap_push w #[.int .i64 7, .string sp, .int .i64 sc, .string dp, .int .i64 dc, .int .i64 sq, .string da, .int .i64 th, .int .i64 ta, .string ack, .string ep, .int .i64 ec, .int .i64 ht] 76
      have hb0 : Below w.heap.size w (w.alloc (.cells #[.int .i64 7, .string sp, .int .i64 sc, .string dp, .int .i64 dc, .int .i64 sq, .string da, .int .i64 th, .int .i64 ta, .string ack, .string ep, .int .i64 ec, .int .i64 ht] 76)) := (Below.refl _ _).alloc (Nat.le_refl _) _
      go_enter Try.func32, Try.ntmps32
      go_wp2_with (go_at_call 57; refine (CM _).mono ?_; rintro e w1 ⟨rfl, hb1⟩; have hq1 := cells_of hq0 hb1 (row_lt hq0); have hbel := hb0.trans (hb1.mono hb0.size); have q0 := cell_heap hq1 0; have q1 := cell_heap hq1 1; have q2 := cell_heap hq1 2; have q3 := cell_heap hq1 3; have q4 := cell_heap hq1 4; have q5 := cell_heap hq1 5; have q6 := cell_heap hq1 6; have q7 := cell_heap hq1 7; have q8 := cell_heap hq1 8; have q9 := cell_heap hq1 9; have q10 := cell_heap hq1 10; have q11 := cell_heap hq1 11; have q12 := cell_heap hq1 12)
      go_ret
      exact ⟨rfl, (hT.kept hbel).mono (Nat.le_succ _), b, .inl rfl, grown_one hbel b⟩
    by_cases k6 : kd = 6
    · subst k6
      have hw : (⟨ep, ec, false, 0⟩ : Lk).wf := by
        have hb := may_body hM
        have he : mayE ep ec = true := hb
        exact ⟨(mayE_wf he).1, (show (Lit.int .i64 0).wf = true by decide), (mayE_wf he).2⟩
      have CC := fun W hW => lfClose_any g b c n f cl ep ec hw W hW hn
      rw [show foldA f cl _ = if cl ep ec = true then 8 else 0 by unfold foldA; rw [if_pos hM]; rfl, show foldF f _ = f by unfold foldF; rw [if_neg (by rintro ⟨_, h, _⟩; exact absurd h (show ¬ hasP 6 = true by decide))], show foldC cl _ = if cl ep ec = true then cl else clPut cl ep ec by unfold foldC; rw [if_pos ⟨hM, rfl⟩]]
      generalize (if cl ep ec = true then cl else clPut cl ep ec) = cl2 at CC ⊢
      generalize (if cl ep ec = true then (8 : Int) else 0) = r at CC ⊢
      simp only [hM] at CM
      clear hM hw
      have hq0 := heap_push w #[.int .i64 6, .string sp, .int .i64 sc, .string dp, .int .i64 dc, .int .i64 sq, .string da, .int .i64 th, .int .i64 ta, .string ack, .string ep, .int .i64 ec, .int .i64 ht] 76
      have hb0 : Below w.heap.size w (w.alloc (.cells #[.int .i64 6, .string sp, .int .i64 sc, .string dp, .int .i64 dc, .int .i64 sq, .string da, .int .i64 th, .int .i64 ta, .string ack, .string ep, .int .i64 ec, .int .i64 ht] 76)) := (Below.refl _ _).alloc (Nat.le_refl _) _
      go_enter Try.func32, Try.ntmps32
      go_wp2_with (first | (go_at_call 57; refine (CM _).mono ?_; rintro e w1 ⟨rfl, hb1⟩; have hq1 := cells_of hq0 hb1 (row_lt hq0); have hbel := hb0.trans (hb1.mono hb0.size); have q0 := cell_heap hq1 0; have q1 := cell_heap hq1 1; have q2 := cell_heap hq1 2; have q3 := cell_heap hq1 3; have q4 := cell_heap hq1 4; have q5 := cell_heap hq1 5; have q6 := cell_heap hq1 6; have q7 := cell_heap hq1 7; have q8 := cell_heap hq1 8; have q9 := cell_heap hq1 9; have q10 := cell_heap hq1 10; have q11 := cell_heap hq1 11; have q12 := cell_heap hq1 12) | (go_at_call 58; refine (CC _ (hT.kept hbel)).mono ?_; rintro e w3 ⟨rfl, hT3, hg3⟩))
      go_ret
      exact ⟨rfl, hT3, c, .inr rfl, grown_trans hbel hg3⟩
    have hH := may_hasP hM k6 k7
    refine (foldPk_any g b c n f cl kd sp sc dp dc sq da th ta ack ep ec ht w h1 h2 h3 hM hH (key_wf hM hH) hT hn).mono ?_
    rintro e w2 ⟨rfl, hT2, hg2⟩
    refine ⟨?_, ?_, b, .inl rfl, hg2⟩
    · unfold foldA; rw [if_pos hM, if_neg k7, if_neg k6]
    · rw [show foldC cl _ = cl by unfold foldC; rw [if_neg (by rintro ⟨_, h⟩; exact k6 h)]]
      by_cases h0 : foldE f ⟨kd, sp, sc, dp, dc, sq, da, th, ta, ack, ep, ec, ht⟩ = 0
      · rw [if_pos h0] at hT2; rw [show foldF f _ = _ by unfold foldF; rw [if_pos ⟨hM, hH, h0⟩]]; exact hT2
      · rw [if_neg h0] at hT2; rw [show foldF f _ = f by unfold foldF; rw [if_neg (fun h => h0 h.2.2)]]; exact hT2
  · rw [show foldA f cl _ = 1 by unfold foldA; rw [if_neg hM], show foldF f _ = f by unfold foldF; rw [if_neg (fun h => hM h.1)], show foldC cl _ = cl by unfold foldC; rw [if_neg (fun h => hM h.1)]]
    simp only [eq_false_of_ne_true hM] at CM
    clear hM
    have hq0 := heap_push w #[.int .i64 kd, .string sp, .int .i64 sc, .string dp, .int .i64 dc, .int .i64 sq, .string da, .int .i64 th, .int .i64 ta, .string ack, .string ep, .int .i64 ec, .int .i64 ht] 76
    have hb0 : Below w.heap.size w (w.alloc (.cells #[.int .i64 kd, .string sp, .int .i64 sc, .string dp, .int .i64 dc, .int .i64 sq, .string da, .int .i64 th, .int .i64 ta, .string ack, .string ep, .int .i64 ec, .int .i64 ht] 76)) := (Below.refl _ _).alloc (Nat.le_refl _) _
    go_enter Try.func32, Try.ntmps32
    go_wp2_with (go_at_call 57; refine (CM _).mono ?_; rintro e w1 ⟨rfl, hb1⟩; have hq1 := cells_of hq0 hb1 (row_lt hq0); have hbel := hb0.trans (hb1.mono hb0.size); have q0 := cell_heap hq1 0; have q1 := cell_heap hq1 1; have q2 := cell_heap hq1 2; have q3 := cell_heap hq1 3; have q4 := cell_heap hq1 4; have q5 := cell_heap hq1 5; have q6 := cell_heap hq1 6; have q7 := cell_heap hq1 7; have q8 := cell_heap hq1 8; have q9 := cell_heap hq1 9; have q10 := cell_heap hq1 10; have q11 := cell_heap hq1 11; have q12 := cell_heap hq1 12)
    go_ret
    exact ⟨rfl, (hT.kept hbel).mono (Nat.le_succ _), b, .inl rfl, grown_one hbel b⟩
end Go.Proofs.Ytbckncopdkmoeaa
