/- States of ends: which may be, in the program and in the document. -/
import Derived.Test.YtekhmdjpkngglaaEndsF
import Derived.Test.YtekhmdjpkngglaaWriterB
import Derived.Deep.Cut
import Derived.WalkKit
import Derived.ProofKit
import Derived.Handy
import Derived.Below
import Derived.BigQuiet
import Derived.Lib.Hide
import Derived.IntWalk
import Derived.Outline
import Derived.WalkLawsBesides
import Derived.WalkSpells
namespace Go.Proofs.Ytekhmdjpkngglaa
open Go.RowKit
attribute [local go_sem] strV
set_option maxRecDepth 100000 in
set_option maxHeartbeats 1600000 in
theorem bit_any (b : Bool) (w : World) :
    Calls Try.prog 35 #[.bool b] w fun e w' => e = .returned (.int .i64 ((bitN b : Nat) : Int)) ∧ w' = w := by
  cases b
  all_goals
    go_enter Try.func35, Try.ntmps35
    go_wp2
    go_ret
    exact ⟨rfl, rfl⟩
set_option maxRecDepth 100000 in
set_option maxHeartbeats 1600000 in
theorem one_any (b : Bool) (w : World) :
    Calls Try.prog 37 #[.bool b] w fun e w' => e = .returned (.int .i64 ((bitN b : Nat) : Int)) ∧ w' = w := by
  cases b
  all_goals
    go_enter Try.func37, Try.ntmps37
    go_wp2
    go_ret
    exact ⟨rfl, rfl⟩
set_option maxRecDepth 100000 in
set_option maxHeartbeats 1600000 in
theorem seq_any (n : Int) (w : World) :
    Calls Try.prog 44 #[.int .i64 n] w fun e w' => e = .returned (.bool (decide (1 ≤ n) && decide (n ≤ 1099511627777))) ∧ w' = w := by
  cases h1 : decide (1 ≤ n)
  all_goals
    go_enter Try.func44, Try.ntmps44
    go_wp2
    go_ret
    exact ⟨by first | rfl | simp, rfl⟩
set_option maxRecDepth 100000 in
set_option maxHeartbeats 1600000 in
theorem mayS_any (p : ByteArray) (c : Int) (o cl : Bool) (st : Int) (w : World) (hp : p.size ≤ maxLen) :
    Calls Try.prog 20 #[.agg #[.string p, .int .i64 c, .bool o, .bool cl, .int .i64 st]] w fun e w' => e = .returned (.bool (mayS ⟨p, c, o, cl, st⟩)) ∧ Below w.heap.size w w' := by
  have CM := fun W => mayEnd_any p c W hp
  cases hE : mayE p c
  · have hR : mayS ⟨p, c, o, cl, st⟩ = false := by unfold mayS; simp only [hE]; rfl
    rw [hR]
    simp only [hE] at CM
    clear hE hR
    go_enter Try.func20, Try.ntmps20
    go_wp2_with (go_at_call 30; refine (CM _).mono ?_; rintro e w1 ⟨rfl, hb1⟩)
    go_ret
    exact ⟨rfl, by repeat (first | assumption | exact Below.refl _ _ | refine bch ?_ (by assumption) | refine Below.alloc ?_ (by simp) _)⟩
  simp only [hE] at CM
  have hR : mayS ⟨p, c, o, cl, st⟩ = stopB ⟨p, c, o, cl, st⟩ := by unfold mayS; simp only [hE]; rfl
  rw [hR]
  clear hR hE
  cases o
  all_goals cases cl
  all_goals try (rw [show stopB _ = (st == 0) from rfl])
  all_goals try (rw [show stopB _ = (decide (1 ≤ st) && decide (st ≤ 1099511627777)) from rfl]; cases h1 : decide (1 ≤ st))
  all_goals
    go_enter Try.func20, Try.ntmps20
    go_wp2_with (first | (go_at_call 30; refine (CM _).mono ?_; rintro e w1 ⟨rfl, hb1⟩; obtain ⟨hx1, _⟩ := bcell hb1; have hba : Below w.heap.size w w1 := by (repeat (first | assumption | exact Below.refl _ _ | refine bch ?_ (by assumption) | refine Below.alloc ?_ (by simp) _))) | (go_at_call 44; refine (seq_any _ _).mono ?_; rintro e wx ⟨rfl, hwx⟩; obtain rfl : _ = wx := hwx.symm))
    go_ret
    exact ⟨by first | rfl | (simp [h1]; done) | (simp; done), hba⟩
set_option maxRecDepth 100000 in
set_option maxHeartbeats 1600000 in
theorem refMayS_any (p : ByteArray) (c : Int) (o cl : Bool) (st : Int) (w : World) (hp : p.size ≤ maxLen) :
    Calls Try.prog 21 #[.agg #[.string p, .int .i64 c, .bool o, .bool cl, .int .i64 st]] w fun e w' => e = .returned (.bool (mayS ⟨p, c, o, cl, st⟩)) ∧ Below w.heap.size w w' := by
  have CM := fun W => refMayEnd_any p c W hp
  cases hE : mayE p c
  · have hR : mayS ⟨p, c, o, cl, st⟩ = false := by unfold mayS; simp only [hE]; rfl
    rw [hR]
    simp only [hE] at CM
    clear hE hR
    go_enter Try.func21, Try.ntmps21
    go_wp2_with (go_at_call 45; refine (CM _).mono ?_; rintro e w1 ⟨rfl, hb1⟩)
    go_ret
    exact ⟨rfl, by repeat (first | assumption | exact Below.refl _ _ | refine bch ?_ (by assumption) | refine Below.alloc ?_ (by simp) _)⟩
  simp only [hE] at CM
  have hR : mayS ⟨p, c, o, cl, st⟩ = stopB ⟨p, c, o, cl, st⟩ := by unfold mayS; simp only [hE]; rfl
  rw [hR]
  clear hR hE
  cases o
  all_goals cases cl
  all_goals try (rw [show stopB _ = (st == 0) from rfl])
  all_goals try (rw [show stopB _ = (decide (1 ≤ st) && decide (st ≤ 1099511627777)) from rfl]; cases h1 : decide (1 ≤ st))
  all_goals
    go_enter Try.func21, Try.ntmps21
    go_wp2_with (first | (go_at_call 45; refine (CM _).mono ?_; rintro e w1 ⟨rfl, hb1⟩; obtain ⟨hx1, _⟩ := bcell hb1; have hba : Below w.heap.size w w1 := by (repeat (first | assumption | exact Below.refl _ _ | refine bch ?_ (by assumption) | refine Below.alloc ?_ (by simp) _))))
    go_ret
    exact ⟨by first | rfl | (simp [h1]; done) | (simp; done), hba⟩
end Go.Proofs.Ytekhmdjpkngglaa
