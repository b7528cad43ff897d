/- Packets: when they are over, the law. -/
import Derived.Test.YtfblbholkhdldaaDoorPacket
import Derived.BigQuiet
import Derived.WalkKit
import Derived.ProofKit
import Derived.Handy
import Derived.Below
import Derived.Lib.Hide
import Derived.IntWalk
import Derived.Outline
import Derived.WalkLawsBesides
import Derived.WalkSpells
namespace Go.Proofs.YtfblbholkhdldaaDoor
open Go.RowKit
attribute [local go_sem] strV
def reachB (a n : Int) : Bool := decide (0 < a) && decide (a ≤ n)
def overB (th ta h t : Int) : Bool := reachB th h || reachB ta t
set_option maxRecDepth 100000 in
set_option maxHeartbeats 400000 in
theorem reached_any (a n : Int) (w : World) :
    Calls Tryd.prog 75 #[.int .i64 a, .int .i64 n] w fun e w' => e = .returned (.bool (reachB a n)) ∧ w' = w := by
  cases h1 : decide (0 < a)
  · have HR : Hid (reachB a n = false) := Lib.hid (by unfold reachB; rw [h1]; rfl)
    go_enter Tryd.func75, Tryd.ntmps75
    go_wp2
    go_ret
    exact ⟨by rw [HR.out]; first | done | rfl, by first | rfl | trivial⟩
  · cases h2 : decide (a ≤ n)
    all_goals
      have HR := Lib.hid (show reachB a n = _ from by unfold reachB; rw [h1, h2])
      go_enter Tryd.func75, Tryd.ntmps75
      go_wp2
      go_ret
      exact ⟨by rw [HR.out]; first | done | rfl, by first | rfl | trivial⟩
set_option maxRecDepth 100000 in
set_option maxHeartbeats 1600000 in
theorem over_any (sp : ByteArray) (sc : Int) (dp : ByteArray) (dc seq : Int) (dat : ByteArray) (th ta : Int) (h t : Int) (w : World) :
    Calls Tryd.prog 38 #[.agg #[.string sp, .int .i64 sc, .string dp, .int .i64 dc, .int .i64 seq, .string dat, .int .i64 th, .int .i64 ta], .int .i64 h, .int .i64 t] w fun e w' => e = .returned (.bool (overB th ta h t)) ∧ Below w.heap.size w w' := by
  cases h1 : reachB th h
  · cases h2 : reachB ta t
    all_goals
      have HR := Lib.hid (show overB th ta h t = _ from by unfold overB; rw [h1, h2])
      go_enter Tryd.func38, Tryd.ntmps38
      go_wp2_with (go_at_call 75; refine (reached_any _ _ _).mono ?_; rintro e w1 ⟨rfl, hw1⟩; obtain rfl : _ = w1 := hw1.symm; first | rw [h1] | rw [h2])
      go_ret
      exact ⟨by rw [HR.out]; first | done | rfl, by repeat (first | assumption | exact Below.refl _ _ | refine bch ?_ (by assumption) | refine Below.alloc ?_ (by simp) _)⟩
  · have HR := Lib.hid (show overB th ta h t = true from by unfold overB; rw [h1]; rfl)
    go_enter Tryd.func38, Tryd.ntmps38
    go_wp2_with (go_at_call 75; refine (reached_any _ _ _).mono ?_; rintro e w1 ⟨rfl, hw1⟩; obtain rfl : _ = w1 := hw1.symm; rw [h1])
    go_ret
    exact ⟨by rw [HR.out]; first | done | rfl, by repeat (first | assumption | exact Below.refl _ _ | refine bch ?_ (by assumption) | refine Below.alloc ?_ (by simp) _)⟩
def lightK (sp dp dat : ByteArray) : Bool := decide (sp.size ≤ 60) && decide (dp.size ≤ 60) && decide (dat.size ≤ 600)
set_option maxRecDepth 100000 in
set_option maxHeartbeats 1600000 in
theorem light_any (sp : ByteArray) (sc : Int) (dp : ByteArray) (dc seq : Int) (dat : ByteArray) (th ta : Int) (w : World) :
    Calls Tryd.prog 29 #[.agg #[.string sp, .int .i64 sc, .string dp, .int .i64 dc, .int .i64 seq, .string dat, .int .i64 th, .int .i64 ta]] w fun e w' => e = .returned (.bool (lightK sp dp dat)) ∧ Below w.heap.size w w' := by
  cases h1 : decide (sp.size ≤ 60) <;> cases h2 : decide (dp.size ≤ 60) <;> cases h3 : decide (dat.size ≤ 600)
  all_goals
    have HR := Lib.hid (show lightK sp dp dat = _ from by unfold lightK; rw [h1, h2, h3])
    have f1 := h1; have f2 := h2; have f3 := h3
    rw [show decide (sp.size ≤ 60) = decide ((sp.size : Int) ≤ 60) by rw [decide_eq_decide]; omega] at f1
    rw [show decide (dp.size ≤ 60) = decide ((dp.size : Int) ≤ 60) by rw [decide_eq_decide]; omega] at f2
    rw [show decide (dat.size ≤ 600) = decide ((dat.size : Int) ≤ 600) by rw [decide_eq_decide]; omega] at f3
    go_enter Tryd.func29, Tryd.ntmps29
    go_wp2
    go_ret
    exact ⟨by rw [HR.out]; first | done | rfl, by repeat (first | assumption | exact Below.refl _ _ | refine bch ?_ (by assumption) | refine Below.alloc ?_ (by simp) _)⟩
set_option maxRecDepth 100000 in
set_option maxHeartbeats 1600000 in
theorem same_self (sp : ByteArray) (sc : Int) (dp : ByteArray) (dc seq : Int) (dat : ByteArray) (th ta : Int) (w : World) :
    Calls Tryd.prog 40 #[.agg #[.string sp, .int .i64 sc, .string dp, .int .i64 dc, .int .i64 seq, .string dat, .int .i64 th, .int .i64 ta], .agg #[.string sp, .int .i64 sc, .string dp, .int .i64 dc, .int .i64 seq, .string dat, .int .i64 th, .int .i64 ta]] w fun e w' => e = .returned (.bool true) ∧ Below w.heap.size w w' := by
  go_enter Tryd.func40, Tryd.ntmps40
  go_wp2
  go_ret
  exact ⟨rfl, by repeat (first | assumption | exact Below.refl _ _ | refine bch ?_ (by assumption) | refine Below.alloc ?_ (by simp) _)⟩
set_option maxRecDepth 100000 in
set_option maxHeartbeats 1600000 in
theorem first5_any (w : World) :
    Calls Tryd.prog 28 #[] w fun e w' => e = .returned (.bool true) ∧ Below w.heap.size w w' := by
  have m0 : mayK ⟨#[116]⟩ 1 ⟨#[116]⟩ 1 1 ⟨#[]⟩ 5 0 = true := by decide +kernel
  have o0 : overB 5 0 5 0 = true := by decide +kernel
  have o1 : overB 5 0 4 9 = false := by decide +kernel
  have o2 := o0; have o3 := o0
  go_enter Tryd.func28, Tryd.ntmps28
  go_wp2_with (first | (go_at_call 38; refine (over_any _ _ _ _ _ _ _ _ _ _ _).mono ?_; rintro e w1 ⟨rfl, hb⟩; (first | rw [o0] | rw [o1] | rw [o2] | rw [o3]); obtain ⟨hc1, hf1⟩ := bcell hb; have hz1 : w.heap.size < w1.heap.size := (by have := hb.size; (try simp at this); omega); have hz2 : w.heap.size + 1 < w1.heap.size := (by have := hb.size; (try simp at this); omega)) | (go_at_call 37; refine (mayPk_any _ _ _ _ _ _ _ _ _ (by unfold maxLen; decide) (by unfold maxLen; decide)).mono ?_; rintro e w1 ⟨rfl, hb⟩; rw [m0]; obtain ⟨hc1, hf1⟩ := bcell hb; have hz1 : w.heap.size < w1.heap.size := (by have := hb.size; (try simp at this); omega); have hz2 : w.heap.size + 1 < w1.heap.size := (by have := hb.size; (try simp at this); omega)) | (go_at_call 40; refine (same_self _ _ _ _ _ _ _ _ _).mono ?_; rintro e w1 ⟨rfl, hb⟩))
  go_ret
  exact ⟨rfl, by repeat (first | assumption | exact Below.refl _ _ | refine bch ?_ (by assumption) | refine Below.alloc ?_ (by simp) _)⟩
end Go.Proofs.YtfblbholkhdldaaDoor
