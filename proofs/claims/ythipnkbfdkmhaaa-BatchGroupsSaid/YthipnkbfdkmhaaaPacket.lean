/- Packets: which may be, when they are over. -/
import Derived.Test.YthipnkbfdkmhaaaGD
import Derived.WalkKit
import Derived.ProofKit
import Derived.Handy
import Derived.Below
import Derived.BigQuiet
import Derived.Lib.Hide
import Derived.IntWalk
import Derived.Outline
import Derived.WalkLawsBesides
import Derived.WalkSpells
namespace Go.Proofs.Ythipnkbfdkmhaaa
open Go.RowKit
attribute [local go_sem] strV
def mayK (sp : ByteArray) (sc : Int) (dp : ByteArray) (dc seq : Int) (dat : ByteArray) (th ta : Int) : Bool := mayE sp sc && mayE dp dc && decide (1 ≤ seq) && decide (seq ≤ 1099511627776) && decide (dat.size ≤ 200) && decide (0 ≤ th) && decide (th ≤ 1099511627776) && decide (0 ≤ ta) && decide (ta ≤ 1099511627776)

set_option maxRecDepth 100000 in
set_option maxHeartbeats 6400000 in
theorem mayPk_any (sp : ByteArray) (sc : Int) (dp : ByteArray) (dc seq : Int) (dat : ByteArray) (th ta : Int) (w : World) (hs1 : sp.size ≤ maxLen) (hs2 : dp.size ≤ maxLen) :
    Calls Try.prog 54 #[.agg #[.string sp, .int .i64 sc, .string dp, .int .i64 dc, .int .i64 seq, .string dat, .int .i64 th, .int .i64 ta]] w fun e w' => e = .returned (.bool (mayK sp sc dp dc seq dat th ta)) ∧ Below w.heap.size w w' := by
  cases q0 : mayE sp sc
  · have HR : Hid (mayK sp sc dp dc seq dat th ta = false) := Lib.hid (by unfold mayK; rw [q0]; simp)
    have q1 := q0
    go_enter Try.func54, Try.ntmps54
    go_wp2_with (go_at_call 98; refine (mayEnd_any _ _ _ (by with_reducible assumption)).mono ?_; rintro e w1 ⟨rfl, hb⟩; (first | rw [q0] | rw [q1]); obtain ⟨hc1, hf1⟩ := bcell hb; have hz1 : w.heap.size < w1.heap.size := (by have := hb.size; (try simp at this); omega))
    go_ret
    exact ⟨by rw [HR.out]; first | done | rfl, by repeat (first | assumption | exact Below.refl _ _ | refine bch ?_ (by assumption) | refine Below.alloc ?_ (by simp) _)⟩
  cases q1 : mayE dp dc
  · have HR : Hid (mayK sp sc dp dc seq dat th ta = false) := Lib.hid (by unfold mayK; rw [q1]; simp)
    go_enter Try.func54, Try.ntmps54
    go_wp2_with (go_at_call 98; refine (mayEnd_any _ _ _ (by with_reducible assumption)).mono ?_; rintro e w1 ⟨rfl, hb⟩; (first | rw [q0] | rw [q1]); obtain ⟨hc1, hf1⟩ := bcell hb; have hz1 : w.heap.size < w1.heap.size := (by have := hb.size; (try simp at this); omega))
    go_ret
    exact ⟨by rw [HR.out]; first | done | rfl, by repeat (first | assumption | exact Below.refl _ _ | refine bch ?_ (by assumption) | refine Below.alloc ?_ (by simp) _)⟩
  cases q2 : decide (1 ≤ seq)
  · have HR : Hid (mayK sp sc dp dc seq dat th ta = false) := Lib.hid (by unfold mayK; rw [q2]; simp)
    go_enter Try.func54, Try.ntmps54
    go_wp2_with (go_at_call 98; refine (mayEnd_any _ _ _ (by with_reducible assumption)).mono ?_; rintro e w1 ⟨rfl, hb⟩; (first | rw [q0] | rw [q1]); obtain ⟨hc1, hf1⟩ := bcell hb; have hz1 : w.heap.size < w1.heap.size := (by have := hb.size; (try simp at this); omega))
    go_ret
    exact ⟨by rw [HR.out]; first | done | rfl, by repeat (first | assumption | exact Below.refl _ _ | refine bch ?_ (by assumption) | refine Below.alloc ?_ (by simp) _)⟩
  cases q3 : decide (seq ≤ 1099511627776)
  · have HR : Hid (mayK sp sc dp dc seq dat th ta = false) := Lib.hid (by unfold mayK; rw [q3]; simp)
    go_enter Try.func54, Try.ntmps54
    go_wp2_with (go_at_call 98; refine (mayEnd_any _ _ _ (by with_reducible assumption)).mono ?_; rintro e w1 ⟨rfl, hb⟩; (first | rw [q0] | rw [q1]); obtain ⟨hc1, hf1⟩ := bcell hb; have hz1 : w.heap.size < w1.heap.size := (by have := hb.size; (try simp at this); omega))
    go_ret
    exact ⟨by rw [HR.out]; first | done | rfl, by repeat (first | assumption | exact Below.refl _ _ | refine bch ?_ (by assumption) | refine Below.alloc ?_ (by simp) _)⟩
  cases q4 : decide (dat.size ≤ 200)
  · have HR : Hid (mayK sp sc dp dc seq dat th ta = false) := Lib.hid (by unfold mayK; rw [q4]; simp)
    have f4 : decide ((dat.size : Int) ≤ 200) = false := by rw [← q4, decide_eq_decide]; omega
    go_enter Try.func54, Try.ntmps54
    go_wp2_with (go_at_call 98; refine (mayEnd_any _ _ _ (by with_reducible assumption)).mono ?_; rintro e w1 ⟨rfl, hb⟩; (first | rw [q0] | rw [q1]); obtain ⟨hc1, hf1⟩ := bcell hb; have hz1 : w.heap.size < w1.heap.size := (by have := hb.size; (try simp at this); omega))
    go_ret
    exact ⟨by rw [HR.out]; first | done | rfl, by repeat (first | assumption | exact Below.refl _ _ | refine bch ?_ (by assumption) | refine Below.alloc ?_ (by simp) _)⟩
  cases q5 : decide (0 ≤ th)
  · have HR : Hid (mayK sp sc dp dc seq dat th ta = false) := Lib.hid (by unfold mayK; rw [q5]; simp)
    have f4 : decide ((dat.size : Int) ≤ 200) = true := by rw [← q4, decide_eq_decide]; omega
    go_enter Try.func54, Try.ntmps54
    go_wp2_with (go_at_call 98; refine (mayEnd_any _ _ _ (by with_reducible assumption)).mono ?_; rintro e w1 ⟨rfl, hb⟩; (first | rw [q0] | rw [q1]); obtain ⟨hc1, hf1⟩ := bcell hb; have hz1 : w.heap.size < w1.heap.size := (by have := hb.size; (try simp at this); omega))
    go_ret
    exact ⟨by rw [HR.out]; first | done | rfl, by repeat (first | assumption | exact Below.refl _ _ | refine bch ?_ (by assumption) | refine Below.alloc ?_ (by simp) _)⟩
  cases q6 : decide (th ≤ 1099511627776)
  · have HR : Hid (mayK sp sc dp dc seq dat th ta = false) := Lib.hid (by unfold mayK; rw [q6]; simp)
    have f4 : decide ((dat.size : Int) ≤ 200) = true := by rw [← q4, decide_eq_decide]; omega
    go_enter Try.func54, Try.ntmps54
    go_wp2_with (go_at_call 98; refine (mayEnd_any _ _ _ (by with_reducible assumption)).mono ?_; rintro e w1 ⟨rfl, hb⟩; (first | rw [q0] | rw [q1]); obtain ⟨hc1, hf1⟩ := bcell hb; have hz1 : w.heap.size < w1.heap.size := (by have := hb.size; (try simp at this); omega))
    go_ret
    exact ⟨by rw [HR.out]; first | done | rfl, by repeat (first | assumption | exact Below.refl _ _ | refine bch ?_ (by assumption) | refine Below.alloc ?_ (by simp) _)⟩
  cases q7 : decide (0 ≤ ta)
  · have HR : Hid (mayK sp sc dp dc seq dat th ta = false) := Lib.hid (by unfold mayK; rw [q7]; simp)
    have f4 : decide ((dat.size : Int) ≤ 200) = true := by rw [← q4, decide_eq_decide]; omega
    go_enter Try.func54, Try.ntmps54
    go_wp2_with (go_at_call 98; refine (mayEnd_any _ _ _ (by with_reducible assumption)).mono ?_; rintro e w1 ⟨rfl, hb⟩; (first | rw [q0] | rw [q1]); obtain ⟨hc1, hf1⟩ := bcell hb; have hz1 : w.heap.size < w1.heap.size := (by have := hb.size; (try simp at this); omega))
    go_ret
    exact ⟨by rw [HR.out]; first | done | rfl, by repeat (first | assumption | exact Below.refl _ _ | refine bch ?_ (by assumption) | refine Below.alloc ?_ (by simp) _)⟩
  cases q8 : decide (ta ≤ 1099511627776)
  · have HR : Hid (mayK sp sc dp dc seq dat th ta = false) := Lib.hid (by unfold mayK; rw [q8]; simp)
    have f4 : decide ((dat.size : Int) ≤ 200) = true := by rw [← q4, decide_eq_decide]; omega
    go_enter Try.func54, Try.ntmps54
    go_wp2_with (go_at_call 98; refine (mayEnd_any _ _ _ (by with_reducible assumption)).mono ?_; rintro e w1 ⟨rfl, hb⟩; (first | rw [q0] | rw [q1]); obtain ⟨hc1, hf1⟩ := bcell hb; have hz1 : w.heap.size < w1.heap.size := (by have := hb.size; (try simp at this); omega))
    go_ret
    exact ⟨by rw [HR.out]; first | done | rfl, by repeat (first | assumption | exact Below.refl _ _ | refine bch ?_ (by assumption) | refine Below.alloc ?_ (by simp) _)⟩
  have HR : Hid (mayK sp sc dp dc seq dat th ta = true) := Lib.hid (by unfold mayK; rw [q0, q1, q2, q3, q4, q5, q6, q7, q8]; rfl)
  have f4 : decide ((dat.size : Int) ≤ 200) = true := by rw [← q4, decide_eq_decide]; omega
  go_enter Try.func54, Try.ntmps54
  go_wp2_with (go_at_call 98; refine (mayEnd_any _ _ _ (by with_reducible assumption)).mono ?_; rintro e w1 ⟨rfl, hb⟩; (first | rw [q0] | rw [q1]); obtain ⟨hc1, hf1⟩ := bcell hb; have hz1 : w.heap.size < w1.heap.size := (by have := hb.size; (try simp at this); omega))
  go_ret
  exact ⟨by rw [HR.out]; first | done | rfl, by repeat (first | assumption | exact Below.refl _ _ | refine bch ?_ (by assumption) | refine Below.alloc ?_ (by simp) _)⟩

set_option maxRecDepth 100000 in
set_option maxHeartbeats 6400000 in
theorem refMayPk_any (sp : ByteArray) (sc : Int) (dp : ByteArray) (dc seq : Int) (dat : ByteArray) (th ta : Int) (w : World) (hs1 : sp.size ≤ maxLen) (hs2 : dp.size ≤ maxLen) :
    Calls Try.prog 72 #[.agg #[.string sp, .int .i64 sc, .string dp, .int .i64 dc, .int .i64 seq, .string dat, .int .i64 th, .int .i64 ta]] w fun e w' => e = .returned (.bool (mayK sp sc dp dc seq dat th ta)) ∧ Below w.heap.size w w' := by
  cases q0 : mayE sp sc
  · have HR : Hid (mayK sp sc dp dc seq dat th ta = false) := Lib.hid (by unfold mayK; rw [q0]; simp)
    have q1 := q0
    go_enter Try.func72, Try.ntmps72
    go_wp2_with (go_at_call 109; refine (refMayEnd_any _ _ _ (by with_reducible assumption)).mono ?_; rintro e w1 ⟨rfl, hb⟩; (first | rw [q0] | rw [q1]); obtain ⟨hc1, hf1⟩ := bcell hb; have hz1 : w.heap.size < w1.heap.size := (by have := hb.size; (try simp at this); omega))
    go_ret
    exact ⟨by rw [HR.out]; first | done | rfl, by repeat (first | assumption | exact Below.refl _ _ | refine bch ?_ (by assumption) | refine Below.alloc ?_ (by simp) _)⟩
  cases q1 : mayE dp dc
  · have HR : Hid (mayK sp sc dp dc seq dat th ta = false) := Lib.hid (by unfold mayK; rw [q1]; simp)
    go_enter Try.func72, Try.ntmps72
    go_wp2_with (go_at_call 109; refine (refMayEnd_any _ _ _ (by with_reducible assumption)).mono ?_; rintro e w1 ⟨rfl, hb⟩; (first | rw [q0] | rw [q1]); obtain ⟨hc1, hf1⟩ := bcell hb; have hz1 : w.heap.size < w1.heap.size := (by have := hb.size; (try simp at this); omega))
    go_ret
    exact ⟨by rw [HR.out]; first | done | rfl, by repeat (first | assumption | exact Below.refl _ _ | refine bch ?_ (by assumption) | refine Below.alloc ?_ (by simp) _)⟩
  cases q2 : decide (1 ≤ seq)
  · have HR : Hid (mayK sp sc dp dc seq dat th ta = false) := Lib.hid (by unfold mayK; rw [q2]; simp)
    go_enter Try.func72, Try.ntmps72
    go_wp2_with (go_at_call 109; refine (refMayEnd_any _ _ _ (by with_reducible assumption)).mono ?_; rintro e w1 ⟨rfl, hb⟩; (first | rw [q0] | rw [q1]); obtain ⟨hc1, hf1⟩ := bcell hb; have hz1 : w.heap.size < w1.heap.size := (by have := hb.size; (try simp at this); omega))
    go_ret
    exact ⟨by rw [HR.out]; first | done | rfl, by repeat (first | assumption | exact Below.refl _ _ | refine bch ?_ (by assumption) | refine Below.alloc ?_ (by simp) _)⟩
  cases q3 : decide (seq ≤ 1099511627776)
  · have HR : Hid (mayK sp sc dp dc seq dat th ta = false) := Lib.hid (by unfold mayK; rw [q3]; simp)
    go_enter Try.func72, Try.ntmps72
    go_wp2_with (go_at_call 109; refine (refMayEnd_any _ _ _ (by with_reducible assumption)).mono ?_; rintro e w1 ⟨rfl, hb⟩; (first | rw [q0] | rw [q1]); obtain ⟨hc1, hf1⟩ := bcell hb; have hz1 : w.heap.size < w1.heap.size := (by have := hb.size; (try simp at this); omega))
    go_ret
    exact ⟨by rw [HR.out]; first | done | rfl, by repeat (first | assumption | exact Below.refl _ _ | refine bch ?_ (by assumption) | refine Below.alloc ?_ (by simp) _)⟩
  cases q4 : decide (dat.size ≤ 200)
  · have HR : Hid (mayK sp sc dp dc seq dat th ta = false) := Lib.hid (by unfold mayK; rw [q4]; simp)
    have f4 : decide ((dat.size : Int) ≤ 200) = false := by rw [← q4, decide_eq_decide]; omega
    go_enter Try.func72, Try.ntmps72
    go_wp2_with (go_at_call 109; refine (refMayEnd_any _ _ _ (by with_reducible assumption)).mono ?_; rintro e w1 ⟨rfl, hb⟩; (first | rw [q0] | rw [q1]); obtain ⟨hc1, hf1⟩ := bcell hb; have hz1 : w.heap.size < w1.heap.size := (by have := hb.size; (try simp at this); omega))
    go_ret
    exact ⟨by rw [HR.out]; first | done | rfl, by repeat (first | assumption | exact Below.refl _ _ | refine bch ?_ (by assumption) | refine Below.alloc ?_ (by simp) _)⟩
  cases q5 : decide (0 ≤ th)
  · have HR : Hid (mayK sp sc dp dc seq dat th ta = false) := Lib.hid (by unfold mayK; rw [q5]; simp)
    have f4 : decide ((dat.size : Int) ≤ 200) = true := by rw [← q4, decide_eq_decide]; omega
    go_enter Try.func72, Try.ntmps72
    go_wp2_with (go_at_call 109; refine (refMayEnd_any _ _ _ (by with_reducible assumption)).mono ?_; rintro e w1 ⟨rfl, hb⟩; (first | rw [q0] | rw [q1]); obtain ⟨hc1, hf1⟩ := bcell hb; have hz1 : w.heap.size < w1.heap.size := (by have := hb.size; (try simp at this); omega))
    go_ret
    exact ⟨by rw [HR.out]; first | done | rfl, by repeat (first | assumption | exact Below.refl _ _ | refine bch ?_ (by assumption) | refine Below.alloc ?_ (by simp) _)⟩
  cases q6 : decide (th ≤ 1099511627776)
  · have HR : Hid (mayK sp sc dp dc seq dat th ta = false) := Lib.hid (by unfold mayK; rw [q6]; simp)
    have f4 : decide ((dat.size : Int) ≤ 200) = true := by rw [← q4, decide_eq_decide]; omega
    go_enter Try.func72, Try.ntmps72
    go_wp2_with (go_at_call 109; refine (refMayEnd_any _ _ _ (by with_reducible assumption)).mono ?_; rintro e w1 ⟨rfl, hb⟩; (first | rw [q0] | rw [q1]); obtain ⟨hc1, hf1⟩ := bcell hb; have hz1 : w.heap.size < w1.heap.size := (by have := hb.size; (try simp at this); omega))
    go_ret
    exact ⟨by rw [HR.out]; first | done | rfl, by repeat (first | assumption | exact Below.refl _ _ | refine bch ?_ (by assumption) | refine Below.alloc ?_ (by simp) _)⟩
  cases q7 : decide (0 ≤ ta)
  · have HR : Hid (mayK sp sc dp dc seq dat th ta = false) := Lib.hid (by unfold mayK; rw [q7]; simp)
    have f4 : decide ((dat.size : Int) ≤ 200) = true := by rw [← q4, decide_eq_decide]; omega
    go_enter Try.func72, Try.ntmps72
    go_wp2_with (go_at_call 109; refine (refMayEnd_any _ _ _ (by with_reducible assumption)).mono ?_; rintro e w1 ⟨rfl, hb⟩; (first | rw [q0] | rw [q1]); obtain ⟨hc1, hf1⟩ := bcell hb; have hz1 : w.heap.size < w1.heap.size := (by have := hb.size; (try simp at this); omega))
    go_ret
    exact ⟨by rw [HR.out]; first | done | rfl, by repeat (first | assumption | exact Below.refl _ _ | refine bch ?_ (by assumption) | refine Below.alloc ?_ (by simp) _)⟩
  cases q8 : decide (ta ≤ 1099511627776)
  · have HR : Hid (mayK sp sc dp dc seq dat th ta = false) := Lib.hid (by unfold mayK; rw [q8]; simp)
    have f4 : decide ((dat.size : Int) ≤ 200) = true := by rw [← q4, decide_eq_decide]; omega
    go_enter Try.func72, Try.ntmps72
    go_wp2_with (go_at_call 109; refine (refMayEnd_any _ _ _ (by with_reducible assumption)).mono ?_; rintro e w1 ⟨rfl, hb⟩; (first | rw [q0] | rw [q1]); obtain ⟨hc1, hf1⟩ := bcell hb; have hz1 : w.heap.size < w1.heap.size := (by have := hb.size; (try simp at this); omega))
    go_ret
    exact ⟨by rw [HR.out]; first | done | rfl, by repeat (first | assumption | exact Below.refl _ _ | refine bch ?_ (by assumption) | refine Below.alloc ?_ (by simp) _)⟩
  have HR : Hid (mayK sp sc dp dc seq dat th ta = true) := Lib.hid (by unfold mayK; rw [q0, q1, q2, q3, q4, q5, q6, q7, q8]; rfl)
  have f4 : decide ((dat.size : Int) ≤ 200) = true := by rw [← q4, decide_eq_decide]; omega
  go_enter Try.func72, Try.ntmps72
  go_wp2_with (go_at_call 109; refine (refMayEnd_any _ _ _ (by with_reducible assumption)).mono ?_; rintro e w1 ⟨rfl, hb⟩; (first | rw [q0] | rw [q1]); obtain ⟨hc1, hf1⟩ := bcell hb; have hz1 : w.heap.size < w1.heap.size := (by have := hb.size; (try simp at this); omega))
  go_ret
  exact ⟨by rw [HR.out]; first | done | rfl, by repeat (first | assumption | exact Below.refl _ _ | refine bch ?_ (by assumption) | refine Below.alloc ?_ (by simp) _)⟩
end Go.Proofs.Ythipnkbfdkmhaaa
