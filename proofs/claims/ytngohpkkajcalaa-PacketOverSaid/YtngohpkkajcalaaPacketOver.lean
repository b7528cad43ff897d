/- PacketOver, walked. -/
import Derived.Test.YtngohpkkajcalaaPacketOv
import Derived.BigQuiet
import Derived.WalkKit
import Derived.ProofKit
import Derived.Handy
import Derived.Below
import Derived.BigQuiet
import Derived.Lib.Hide
import Derived.IntWalk
import Derived.Outline
import Derived.WalkLawsBesides
import Derived.WalkSpells
namespace Go.Proofs.Ytngohpkkajcalaa
open Go.RowKit
attribute [local go_sem] strV
theorem wp_name {P : Program} {c : Code} {Q : Exit → Act → World → Prop} {a : Act} (E : World) (h : ∀ W, W = E → c.wp P Q a W) : c.wp P Q a E := h E rfl
set_option maxRecDepth 100000 in
set_option maxHeartbeats 6400000 in
theorem walkPacketOver (sp : ByteArray) (sc : Int) (dp : ByteArray) (dc seq : Int) (dat : ByteArray) (th ta : Int) (h t m l : Int) (w : World) (hs1 : sp.size ≤ maxLen) (hs2 : dp.size ≤ maxLen) :
    Calls Try.prog 7 #[.agg #[.string sp, .int .i64 sc, .string dp, .int .i64 dc, .int .i64 seq, .string dat, .int .i64 th, .int .i64 ta], .int .i64 h, .int .i64 t, .int .i64 m, .int .i64 l] w fun e w' => e = .returned (.bool true) ∧ Below w.heap.size w w' := by
  cases L0 : lightK sp dp dat
  · have K0 := L0
    go_enter Try.func7, Try.ntmps7
    go_wp2_with (first | (go_at_call 30; refine (first5_any _).mono ?_; rintro e w1 ⟨rfl, hb⟩; obtain ⟨hc1, hf1⟩ := bcell hb; have hz1 : w.heap.size < w1.heap.size := (by have := hb.size; (try simp at this); omega)) | (go_at_call 31; refine (light_any _ _ _ _ _ _ _ _ _).mono ?_; rintro e w1 ⟨rfl, hb⟩; rw [L0]; obtain ⟨hc1, hf1⟩ := bcell hb; obtain ⟨hbc, hbf⟩ := beyond_cells (W := w1); have hz1 : w.heap.size < w1.heap.size := (by have := hb.size; (try simp at this); omega)) | (go_at_call 32; refine (refMayPk_any _ _ _ _ _ _ _ _ _ (by with_reducible assumption) (by with_reducible assumption)).mono ?_; rintro e w1 ⟨rfl, hb⟩; rw [K0]; obtain ⟨hc1, hf1⟩ := bcell hb; obtain ⟨hbc, hbf⟩ := beyond_cells (W := w1); have hz1 : w.heap.size < w1.heap.size := (by have := hb.size; (try simp at this); omega)))
    go_ret
    exact ⟨rfl, by repeat (first | assumption | exact Below.refl _ _ | refine bch ?_ (by assumption) | refine Below.alloc ?_ (by simp) _)⟩
  cases K0 : mayK sp sc dp dc seq dat th ta
  · skip
    go_enter Try.func7, Try.ntmps7
    go_wp2_with (first | (go_at_call 30; refine (first5_any _).mono ?_; rintro e w1 ⟨rfl, hb⟩; obtain ⟨hc1, hf1⟩ := bcell hb; have hz1 : w.heap.size < w1.heap.size := (by have := hb.size; (try simp at this); omega)) | (go_at_call 31; refine (light_any _ _ _ _ _ _ _ _ _).mono ?_; rintro e w1 ⟨rfl, hb⟩; rw [L0]; obtain ⟨hc1, hf1⟩ := bcell hb; obtain ⟨hbc, hbf⟩ := beyond_cells (W := w1); have hz1 : w.heap.size < w1.heap.size := (by have := hb.size; (try simp at this); omega)) | (go_at_call 32; refine (refMayPk_any _ _ _ _ _ _ _ _ _ (by with_reducible assumption) (by with_reducible assumption)).mono ?_; rintro e w1 ⟨rfl, hb⟩; rw [K0]; obtain ⟨hc1, hf1⟩ := bcell hb; obtain ⟨hbc, hbf⟩ := beyond_cells (W := w1); have hz1 : w.heap.size < w1.heap.size := (by have := hb.size; (try simp at this); omega)))
    go_ret
    exact ⟨rfl, by repeat (first | assumption | exact Below.refl _ _ | refine bch ?_ (by assumption) | refine Below.alloc ?_ (by simp) _)⟩
  by_cases g0 : h < 0
  · have e0 : decide (h < 0) = true := decide_eq_true g0
    go_enter Try.func7, Try.ntmps7
    go_wp2_with (first | (go_at_call 30; refine (first5_any _).mono ?_; rintro e w1 ⟨rfl, hb⟩; obtain ⟨hc1, hf1⟩ := bcell hb; have hz1 : w.heap.size < w1.heap.size := (by have := hb.size; (try simp at this); omega)) | (go_at_call 31; refine (light_any _ _ _ _ _ _ _ _ _).mono ?_; rintro e w1 ⟨rfl, hb⟩; rw [L0]; obtain ⟨hc1, hf1⟩ := bcell hb; obtain ⟨hbc, hbf⟩ := beyond_cells (W := w1); have hz1 : w.heap.size < w1.heap.size := (by have := hb.size; (try simp at this); omega)) | (go_at_call 32; refine (refMayPk_any _ _ _ _ _ _ _ _ _ (by with_reducible assumption) (by with_reducible assumption)).mono ?_; rintro e w1 ⟨rfl, hb⟩; rw [K0]; obtain ⟨hc1, hf1⟩ := bcell hb; obtain ⟨hbc, hbf⟩ := beyond_cells (W := w1); have hz1 : w.heap.size < w1.heap.size := (by have := hb.size; (try simp at this); omega)))
    go_ret
    exact ⟨rfl, by repeat (first | assumption | exact Below.refl _ _ | refine bch ?_ (by assumption) | refine Below.alloc ?_ (by simp) _)⟩
  by_cases g1 : 1099511627776 < h
  · have e0 : decide (h < 0) = false := decide_eq_false g0
    have e1 : decide (1099511627776 < h) = true := decide_eq_true g1
    go_enter Try.func7, Try.ntmps7
    go_wp2_with (first | (go_at_call 30; refine (first5_any _).mono ?_; rintro e w1 ⟨rfl, hb⟩; obtain ⟨hc1, hf1⟩ := bcell hb; have hz1 : w.heap.size < w1.heap.size := (by have := hb.size; (try simp at this); omega)) | (go_at_call 31; refine (light_any _ _ _ _ _ _ _ _ _).mono ?_; rintro e w1 ⟨rfl, hb⟩; rw [L0]; obtain ⟨hc1, hf1⟩ := bcell hb; obtain ⟨hbc, hbf⟩ := beyond_cells (W := w1); have hz1 : w.heap.size < w1.heap.size := (by have := hb.size; (try simp at this); omega)) | (go_at_call 32; refine (refMayPk_any _ _ _ _ _ _ _ _ _ (by with_reducible assumption) (by with_reducible assumption)).mono ?_; rintro e w1 ⟨rfl, hb⟩; rw [K0]; obtain ⟨hc1, hf1⟩ := bcell hb; obtain ⟨hbc, hbf⟩ := beyond_cells (W := w1); have hz1 : w.heap.size < w1.heap.size := (by have := hb.size; (try simp at this); omega)))
    go_ret
    exact ⟨rfl, by repeat (first | assumption | exact Below.refl _ _ | refine bch ?_ (by assumption) | refine Below.alloc ?_ (by simp) _)⟩
  by_cases g2 : t < 0
  · have e0 : decide (h < 0) = false := decide_eq_false g0
    have e1 : decide (1099511627776 < h) = false := decide_eq_false g1
    have e2 : decide (t < 0) = true := decide_eq_true g2
    go_enter Try.func7, Try.ntmps7
    go_wp2_with (first | (go_at_call 30; refine (first5_any _).mono ?_; rintro e w1 ⟨rfl, hb⟩; obtain ⟨hc1, hf1⟩ := bcell hb; have hz1 : w.heap.size < w1.heap.size := (by have := hb.size; (try simp at this); omega)) | (go_at_call 31; refine (light_any _ _ _ _ _ _ _ _ _).mono ?_; rintro e w1 ⟨rfl, hb⟩; rw [L0]; obtain ⟨hc1, hf1⟩ := bcell hb; obtain ⟨hbc, hbf⟩ := beyond_cells (W := w1); have hz1 : w.heap.size < w1.heap.size := (by have := hb.size; (try simp at this); omega)) | (go_at_call 32; refine (refMayPk_any _ _ _ _ _ _ _ _ _ (by with_reducible assumption) (by with_reducible assumption)).mono ?_; rintro e w1 ⟨rfl, hb⟩; rw [K0]; obtain ⟨hc1, hf1⟩ := bcell hb; obtain ⟨hbc, hbf⟩ := beyond_cells (W := w1); have hz1 : w.heap.size < w1.heap.size := (by have := hb.size; (try simp at this); omega)))
    go_ret
    exact ⟨rfl, by repeat (first | assumption | exact Below.refl _ _ | refine bch ?_ (by assumption) | refine Below.alloc ?_ (by simp) _)⟩
  by_cases g3 : 1099511627776 < t
  · have e0 : decide (h < 0) = false := decide_eq_false g0
    have e1 : decide (1099511627776 < h) = false := decide_eq_false g1
    have e2 : decide (t < 0) = false := decide_eq_false g2
    have e3 : decide (1099511627776 < t) = true := decide_eq_true g3
    go_enter Try.func7, Try.ntmps7
    go_wp2_with (first | (go_at_call 30; refine (first5_any _).mono ?_; rintro e w1 ⟨rfl, hb⟩; obtain ⟨hc1, hf1⟩ := bcell hb; have hz1 : w.heap.size < w1.heap.size := (by have := hb.size; (try simp at this); omega)) | (go_at_call 31; refine (light_any _ _ _ _ _ _ _ _ _).mono ?_; rintro e w1 ⟨rfl, hb⟩; rw [L0]; obtain ⟨hc1, hf1⟩ := bcell hb; obtain ⟨hbc, hbf⟩ := beyond_cells (W := w1); have hz1 : w.heap.size < w1.heap.size := (by have := hb.size; (try simp at this); omega)) | (go_at_call 32; refine (refMayPk_any _ _ _ _ _ _ _ _ _ (by with_reducible assumption) (by with_reducible assumption)).mono ?_; rintro e w1 ⟨rfl, hb⟩; rw [K0]; obtain ⟨hc1, hf1⟩ := bcell hb; obtain ⟨hbc, hbf⟩ := beyond_cells (W := w1); have hz1 : w.heap.size < w1.heap.size := (by have := hb.size; (try simp at this); omega)))
    go_ret
    exact ⟨rfl, by repeat (first | assumption | exact Below.refl _ _ | refine bch ?_ (by assumption) | refine Below.alloc ?_ (by simp) _)⟩
  by_cases g4 : m < 0
  · have e0 : decide (h < 0) = false := decide_eq_false g0
    have e1 : decide (1099511627776 < h) = false := decide_eq_false g1
    have e2 : decide (t < 0) = false := decide_eq_false g2
    have e3 : decide (1099511627776 < t) = false := decide_eq_false g3
    have e4 : decide (m < 0) = true := decide_eq_true g4
    go_enter Try.func7, Try.ntmps7
    go_wp2_with (first | (go_at_call 30; refine (first5_any _).mono ?_; rintro e w1 ⟨rfl, hb⟩; obtain ⟨hc1, hf1⟩ := bcell hb; have hz1 : w.heap.size < w1.heap.size := (by have := hb.size; (try simp at this); omega)) | (go_at_call 31; refine (light_any _ _ _ _ _ _ _ _ _).mono ?_; rintro e w1 ⟨rfl, hb⟩; rw [L0]; obtain ⟨hc1, hf1⟩ := bcell hb; obtain ⟨hbc, hbf⟩ := beyond_cells (W := w1); have hz1 : w.heap.size < w1.heap.size := (by have := hb.size; (try simp at this); omega)) | (go_at_call 32; refine (refMayPk_any _ _ _ _ _ _ _ _ _ (by with_reducible assumption) (by with_reducible assumption)).mono ?_; rintro e w1 ⟨rfl, hb⟩; rw [K0]; obtain ⟨hc1, hf1⟩ := bcell hb; obtain ⟨hbc, hbf⟩ := beyond_cells (W := w1); have hz1 : w.heap.size < w1.heap.size := (by have := hb.size; (try simp at this); omega)))
    go_ret
    exact ⟨rfl, by repeat (first | assumption | exact Below.refl _ _ | refine bch ?_ (by assumption) | refine Below.alloc ?_ (by simp) _)⟩
  by_cases g5 : 1099511627776 < m
  · have e0 : decide (h < 0) = false := decide_eq_false g0
    have e1 : decide (1099511627776 < h) = false := decide_eq_false g1
    have e2 : decide (t < 0) = false := decide_eq_false g2
    have e3 : decide (1099511627776 < t) = false := decide_eq_false g3
    have e4 : decide (m < 0) = false := decide_eq_false g4
    have e5 : decide (1099511627776 < m) = true := decide_eq_true g5
    go_enter Try.func7, Try.ntmps7
    go_wp2_with (first | (go_at_call 30; refine (first5_any _).mono ?_; rintro e w1 ⟨rfl, hb⟩; obtain ⟨hc1, hf1⟩ := bcell hb; have hz1 : w.heap.size < w1.heap.size := (by have := hb.size; (try simp at this); omega)) | (go_at_call 31; refine (light_any _ _ _ _ _ _ _ _ _).mono ?_; rintro e w1 ⟨rfl, hb⟩; rw [L0]; obtain ⟨hc1, hf1⟩ := bcell hb; obtain ⟨hbc, hbf⟩ := beyond_cells (W := w1); have hz1 : w.heap.size < w1.heap.size := (by have := hb.size; (try simp at this); omega)) | (go_at_call 32; refine (refMayPk_any _ _ _ _ _ _ _ _ _ (by with_reducible assumption) (by with_reducible assumption)).mono ?_; rintro e w1 ⟨rfl, hb⟩; rw [K0]; obtain ⟨hc1, hf1⟩ := bcell hb; obtain ⟨hbc, hbf⟩ := beyond_cells (W := w1); have hz1 : w.heap.size < w1.heap.size := (by have := hb.size; (try simp at this); omega)))
    go_ret
    exact ⟨rfl, by repeat (first | assumption | exact Below.refl _ _ | refine bch ?_ (by assumption) | refine Below.alloc ?_ (by simp) _)⟩
  by_cases g6 : l < 0
  · have e0 : decide (h < 0) = false := decide_eq_false g0
    have e1 : decide (1099511627776 < h) = false := decide_eq_false g1
    have e2 : decide (t < 0) = false := decide_eq_false g2
    have e3 : decide (1099511627776 < t) = false := decide_eq_false g3
    have e4 : decide (m < 0) = false := decide_eq_false g4
    have e5 : decide (1099511627776 < m) = false := decide_eq_false g5
    have e6 : decide (l < 0) = true := decide_eq_true g6
    go_enter Try.func7, Try.ntmps7
    go_wp2_with (first | (go_at_call 30; refine (first5_any _).mono ?_; rintro e w1 ⟨rfl, hb⟩; obtain ⟨hc1, hf1⟩ := bcell hb; have hz1 : w.heap.size < w1.heap.size := (by have := hb.size; (try simp at this); omega)) | (go_at_call 31; refine (light_any _ _ _ _ _ _ _ _ _).mono ?_; rintro e w1 ⟨rfl, hb⟩; rw [L0]; obtain ⟨hc1, hf1⟩ := bcell hb; obtain ⟨hbc, hbf⟩ := beyond_cells (W := w1); have hz1 : w.heap.size < w1.heap.size := (by have := hb.size; (try simp at this); omega)) | (go_at_call 32; refine (refMayPk_any _ _ _ _ _ _ _ _ _ (by with_reducible assumption) (by with_reducible assumption)).mono ?_; rintro e w1 ⟨rfl, hb⟩; rw [K0]; obtain ⟨hc1, hf1⟩ := bcell hb; obtain ⟨hbc, hbf⟩ := beyond_cells (W := w1); have hz1 : w.heap.size < w1.heap.size := (by have := hb.size; (try simp at this); omega)))
    go_ret
    exact ⟨rfl, by repeat (first | assumption | exact Below.refl _ _ | refine bch ?_ (by assumption) | refine Below.alloc ?_ (by simp) _)⟩
  by_cases g7 : 1099511627776 < l
  · have e0 : decide (h < 0) = false := decide_eq_false g0
    have e1 : decide (1099511627776 < h) = false := decide_eq_false g1
    have e2 : decide (t < 0) = false := decide_eq_false g2
    have e3 : decide (1099511627776 < t) = false := decide_eq_false g3
    have e4 : decide (m < 0) = false := decide_eq_false g4
    have e5 : decide (1099511627776 < m) = false := decide_eq_false g5
    have e6 : decide (l < 0) = false := decide_eq_false g6
    have e7 : decide (1099511627776 < l) = true := decide_eq_true g7
    go_enter Try.func7, Try.ntmps7
    go_wp2_with (first | (go_at_call 30; refine (first5_any _).mono ?_; rintro e w1 ⟨rfl, hb⟩; obtain ⟨hc1, hf1⟩ := bcell hb; have hz1 : w.heap.size < w1.heap.size := (by have := hb.size; (try simp at this); omega)) | (go_at_call 31; refine (light_any _ _ _ _ _ _ _ _ _).mono ?_; rintro e w1 ⟨rfl, hb⟩; rw [L0]; obtain ⟨hc1, hf1⟩ := bcell hb; obtain ⟨hbc, hbf⟩ := beyond_cells (W := w1); have hz1 : w.heap.size < w1.heap.size := (by have := hb.size; (try simp at this); omega)) | (go_at_call 32; refine (refMayPk_any _ _ _ _ _ _ _ _ _ (by with_reducible assumption) (by with_reducible assumption)).mono ?_; rintro e w1 ⟨rfl, hb⟩; rw [K0]; obtain ⟨hc1, hf1⟩ := bcell hb; obtain ⟨hbc, hbf⟩ := beyond_cells (W := w1); have hz1 : w.heap.size < w1.heap.size := (by have := hb.size; (try simp at this); omega)))
    go_ret
    exact ⟨rfl, by repeat (first | assumption | exact Below.refl _ _ | refine bch ?_ (by assumption) | refine Below.alloc ?_ (by simp) _)⟩
  have kb : 0 ≤ th ∧ th ≤ 1099511627776 ∧ 0 ≤ ta ∧ ta ≤ 1099511627776 := by
    have := K0; unfold mayK at this; simp only [Bool.and_eq_true, decide_eq_true_eq] at this; omega
  obtain ⟨b1, hb1⟩ : ∃ b, overB th ta h t = b := ⟨_, rfl⟩
  obtain ⟨b2, hb2⟩ : ∃ b, overB th ta (h + m) (t + l) = b := ⟨_, rfl⟩
  have himp : b1 = true → b2 = true := by
    rw [← hb1, ← hb2]; unfold overB reachB
    simp only [Bool.or_eq_true, Bool.and_eq_true, decide_eq_true_eq]; omega
  have h0 : overB 0 0 h t = false := by unfold overB reachB; rfl
  obtain ⟨z1, y1⟩ : ∃ b, decide (0 < th) = b := ⟨_, rfl⟩
  obtain ⟨z2, y2⟩ : ∃ b, decide (0 < ta) = b := ⟨_, rfl⟩
  have hM : overB th ta 1099511627776 1099511627776 = (z1 || z2) := by
    unfold overB reachB; rw [y1, y2, decide_eq_true kb.2.1, decide_eq_true kb.2.2.2, Bool.and_true, Bool.and_true]
  have C1 : ∀ w, Calls Try.prog 33 #[.agg #[.string sp, .int .i64 sc, .string dp, .int .i64 dc, .int .i64 seq, .string dat, .int .i64 th, .int .i64 ta], .int .i64 h, .int .i64 t] w fun e w' => e = .returned (.bool b1) ∧ Below w.heap.size w w' := fun w => (over_any _ _ _ _ _ _ _ _ _ _ w).mono fun e w' ⟨q1, q2⟩ => ⟨by rw [q1, hb1], q2⟩
  have C2 : ∀ w, Calls Try.prog 33 #[.agg #[.string sp, .int .i64 sc, .string dp, .int .i64 dc, .int .i64 seq, .string dat, .int .i64 th, .int .i64 ta], .int .i64 (h + m), .int .i64 (t + l)] w fun e w' => e = .returned (.bool b2) ∧ Below w.heap.size w w' := fun w => (over_any _ _ _ _ _ _ _ _ _ _ w).mono fun e w' ⟨q1, q2⟩ => ⟨by rw [q1, hb2], q2⟩
  have C3 : ∀ w, Calls Try.prog 33 #[.agg #[.string sp, .int .i64 sc, .string dp, .int .i64 dc, .int .i64 seq, .string dat, .int .i64 0, .int .i64 0], .int .i64 h, .int .i64 t] w fun e w' => e = .returned (.bool false) ∧ Below w.heap.size w w' := fun w => (over_any _ _ _ _ _ _ _ _ _ _ w).mono fun e w' ⟨q1, q2⟩ => ⟨by rw [q1, h0], q2⟩
  have C4 : ∀ w, Calls Try.prog 33 #[.agg #[.string sp, .int .i64 sc, .string dp, .int .i64 dc, .int .i64 seq, .string dat, .int .i64 th, .int .i64 ta], .int .i64 1099511627776, .int .i64 1099511627776] w fun e w' => e = .returned (.bool (z1 || z2)) ∧ Below w.heap.size w w' := fun w => (over_any _ _ _ _ _ _ _ _ _ _ w).mono fun e w' ⟨q1, q2⟩ => ⟨by rw [q1, hM], q2⟩
  clear hb1 hb2 h0 hM kb
  go_enter Try.func7, Try.ntmps7
  go_wp2_with (first | (go_at_call 30; refine (first5_any _).mono ?_; rintro e w1 ⟨rfl, hb⟩; obtain ⟨hc1, hf1⟩ := bcell hb; have hz1 : w.heap.size < w1.heap.size := (by have := hb.size; (try simp at this); omega)) | (go_at_call 31; refine (light_any _ _ _ _ _ _ _ _ _).mono ?_; rintro e w1 ⟨rfl, hb⟩; rw [L0]; obtain ⟨hc1, hf1⟩ := bcell hb; obtain ⟨hbc, hbf⟩ := beyond_cells (W := w1); have hz1 : w.heap.size < w1.heap.size := (by have := hb.size; (try simp at this); omega)) | (go_at_call 32; refine (refMayPk_any _ _ _ _ _ _ _ _ _ (by with_reducible assumption) (by with_reducible assumption)).mono ?_; rintro e w1 ⟨rfl, hb⟩; rw [K0]; obtain ⟨hc1, hf1⟩ := bcell hb; obtain ⟨hbc, hbf⟩ := beyond_cells (W := w1); have hz1 : w.heap.size < w1.heap.size := (by have := hb.size; (try simp at this); omega)))
  refine wp_region_below (by kernel_rfl) (by kernel_rfl) ?_
  repeat (go_big_quiet_step ((go_at_call 33; first | with_reducible exact quiet_below (C1 _) | with_reducible exact quiet_below (C2 _))))
  intro w9 hw9
  have hb9 := beyond_below hw9
  obtain ⟨hc9, hf9⟩ := bcell hb9
  have hs9 := hb9.size
  have hz9 : w.heap.size < w9.heap.size := by omega
  go_wp2
  refine wp_name _ (fun W hW => ?_)
  have hbW : Below w9.heap.size w9 W := by rw [hW]; exact Below.alloc (Below.refl _ _) (Nat.le_refl _) _
  have hsW : w9.heap.size < W.heap.size := by rw [hW]; simp
  have k0 : W.cell? ⟨w9.heap.size, 0, none⟩ = some (.string sp) := by rw [hW]; go_cell
  have k1 : W.cell? ⟨w9.heap.size, 1, none⟩ = some (.int .i64 sc) := by rw [hW]; go_cell
  have k2 : W.cell? ⟨w9.heap.size, 2, none⟩ = some (.string dp) := by rw [hW]; go_cell
  have k3 : W.cell? ⟨w9.heap.size, 3, none⟩ = some (.int .i64 dc) := by rw [hW]; go_cell
  have k4 : W.cell? ⟨w9.heap.size, 4, none⟩ = some (.int .i64 seq) := by rw [hW]; go_cell
  have k5 : W.cell? ⟨w9.heap.size, 5, none⟩ = some (.string dat) := by rw [hW]; go_cell
  have k6 : W.cell? ⟨w9.heap.size, 6, none⟩ = some (.int .i64 0) := by rw [hW]; go_cell
  have k7 : W.cell? ⟨w9.heap.size, 7, none⟩ = some (.int .i64 0) := by rw [hW]; go_cell
  clear hW
  obtain ⟨hcW, hfW⟩ := bcell hbW
  obtain ⟨hbcW, hbfW⟩ := beyond_cells (W := W)
  have hsW2 : w.heap.size < W.heap.size := by omega
  cases b1 <;> cases b2
  case true.false => exact absurd (himp rfl) (by decide)
  all_goals cases z1 <;> cases z2
  all_goals
    refine wp_region_below (by kernel_rfl) (by kernel_rfl) ?_
    repeat (go_big_quiet_step ((go_at_call 33; first | with_reducible exact quiet_below (C1 _) | with_reducible exact quiet_below (C2 _) | with_reducible exact quiet_below (C3 _) | with_reducible exact quiet_below (C4 _))))
    intro w8 hw8
    have hb8 := beyond_below hw8
    go_wp2
    go_ret
    exact ⟨rfl, bch (bch (bch (by repeat (first | assumption | exact Below.refl _ _ | refine bch ?_ (by assumption) | refine Below.alloc ?_ (by simp) _)) hb9) hbW) hb8⟩
end Go.Proofs.Ytngohpkkajcalaa
