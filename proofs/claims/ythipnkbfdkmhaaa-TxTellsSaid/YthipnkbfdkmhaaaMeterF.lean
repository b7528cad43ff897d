/- gas.New, Take, Left, Used and the law GasMeter. -/
import Derived.Test.YthipnkbfdkmhaaaRows
import Derived.Test.YthipnkbfdkmhaaaSlices
import Derived.WalkKit
import Derived.ProofKit
import Derived.Handy
import Derived.Below
import Derived.Lib.Hide
import Derived.IntWalk
import Derived.Outline
import Derived.WalkLawsBesides
import Derived.WalkSpells
namespace Go.Proofs.Ythipnkbfdkmhaaa
open Go.RowKit

/-- A meter at block B: its limit and what is used. -/
structure MeterAt (w : World) (B : Nat) (L U : Int) : Prop where
  c0 : w.cell? ⟨B, 0, none⟩ = some (.int .i64 L)
  c1 : w.cell? ⟨B, 1, none⟩ = some (.int .i64 U)
  f1 : w.frozen? ⟨B, 1, none⟩ = false
  lt : B < w.heap.size

theorem MeterAt.below {w w' : World} {B : Nat} {L U : Int} (h : MeterAt w B L U) (hb : Below w.heap.size w w') : MeterAt w' B L U :=
  ⟨(hb.cell h.lt).trans h.c0, (hb.cell h.lt).trans h.c1, (hb.frozen h.lt).trans h.f1, Nat.lt_of_lt_of_le h.lt hb.size⟩
theorem MeterAt.store {w : World} {B : Nat} {L U : Int} (h : MeterAt w B L U) (V : Int) : MeterAt (w.setCell ⟨B, 1, none⟩ (.int .i64 V)) B L V := by
  obtain ⟨h1, h2, h3, h4⟩ := h
  exact ⟨by go_simp, by go_simp, by go_simp, by simpa [World.setCell] using h4⟩


set_option maxRecDepth 100000 in
set_option maxHeartbeats 400000 in
theorem new_any (n : Int) (w : World) (h1 : -9223372036854775808 ≤ n) (h2 : n ≤ 9223372036854775807) :
    Calls Try.prog 80 #[.int .i64 n] w fun e w' => e = .returned (.pointer (some ⟨w.heap.size, 0, none⟩)) ∧ MeterAt w' w.heap.size (max n 0) 0 ∧ Below w.heap.size w w' := by
  by_cases h : 0 ≤ n
  · have e : max n 0 = n := by omega
    go_enter Try.func80, Try.ntmps80
    go_wp2
    go_ret
    refine ⟨rfl, ⟨by go_simp, by go_simp, by go_simp, by simp⟩, (Below.refl _ _).alloc (Nat.le_refl _) _⟩
  · have e : max n 0 = 0 := by omega
    go_enter Try.func80, Try.ntmps80
    go_wp2
    go_ret
    refine ⟨rfl, ⟨by go_simp, by go_simp, by go_simp, by simp⟩, (Below.refl _ _).alloc (Nat.le_refl _) _⟩

set_option maxRecDepth 100000 in
set_option maxHeartbeats 400000 in
theorem left_any (B : Nat) (L U : Int) (w : World) (hm : MeterAt w B L U) (h0 : 0 ≤ U) (h1 : U ≤ L) (h2 : L ≤ 9223372036854775807) :
    Calls Try.prog 82 #[.pointer (some ⟨B, 0, none⟩)] w fun e w' => e = .returned (.int .i64 (L - U)) ∧ Below w.heap.size w w' := by
  obtain ⟨c0, c1, f1, lt⟩ := hm
  have e : IntKind.i64.wrap (L - U) = L - U := IntWalk.i64_in _ (by omega)
  go_enter Try.func82, Try.ntmps82
  go_wp2
  go_quiet (fail)
  go_wp2
  go_ret
  exact ⟨rfl, drewN_below _ _⟩
set_option maxRecDepth 100000 in
set_option maxHeartbeats 400000 in
theorem used_any (B : Nat) (L U : Int) (w : World) (hm : MeterAt w B L U) :
    Calls Try.prog 83 #[.pointer (some ⟨B, 0, none⟩)] w fun e w' => e = .returned (.int .i64 U) ∧ w = w' := by
  obtain ⟨c0, c1, f1, lt⟩ := hm
  go_enter Try.func83, Try.ntmps83
  go_wp2
  go_ret
  exact ⟨rfl, rfl⟩
set_option maxRecDepth 100000 in
set_option maxHeartbeats 400000 in
theorem take_no (B : Nat) (L U n : Int) (w : World) (hm : MeterAt w B L U) (h0 : 0 ≤ U) (h1 : U ≤ L) (h2 : L ≤ 9223372036854775807) (hn : n < 0 ∨ L - U < n) :
    Calls Try.prog 81 #[.pointer (some ⟨B, 0, none⟩), .int .i64 n] w fun e w' => e = .returned (.bool false) ∧ Below w.heap.size w w' := by
  rcases hn with hn | hn
  · go_enter Try.func81, Try.ntmps81
    go_wp2
    go_ret
    exact ⟨rfl, Below.refl _ _⟩
  · by_cases h3 : n < 0
    · go_enter Try.func81, Try.ntmps81
      go_wp2
      go_ret
      exact ⟨rfl, Below.refl _ _⟩
    · go_enter Try.func81, Try.ntmps81
      go_wp2_with (go_at_call 82; refine (left_any _ _ _ _ hm h0 h1 h2).mono ?_; rintro e w1 ⟨rfl, hb⟩)
      go_ret
      exact ⟨rfl, by assumption⟩
set_option maxRecDepth 100000 in
set_option maxHeartbeats 400000 in
theorem take_yes (B : Nat) (L U n : Int) (w : World) (hm : MeterAt w B L U) (h0 : 0 ≤ U) (h1 : U ≤ L) (h2 : L ≤ 9223372036854775807) (hn : 0 ≤ n) (hn2 : n ≤ L - U) :
    Calls Try.prog 81 #[.pointer (some ⟨B, 0, none⟩), .int .i64 n] w fun e w' => e = .returned (.bool true) ∧ MeterAt w' B L (U + n) ∧ Below B w w' := by
  go_enter Try.func81, Try.ntmps81
  go_wp2_with (go_at_call 82; refine (left_any _ _ _ _ hm h0 h1 h2).mono ?_; rintro e w1 ⟨rfl, hb⟩; have hm1 := hm.below hb; obtain ⟨c0, c1, f1, lt⟩ := hm1)
  go_ret
  exact ⟨rfl, (MeterAt.mk c0 c1 f1 lt).store _, (hb.mono (Nat.le_of_lt hm.lt)).setCell (Nat.le_refl _) _⟩

set_option maxRecDepth 100000 in
set_option maxHeartbeats 800000 in
theorem first17_any (w : World) :
    Calls Try.prog 33 #[] w fun e w' => e = .returned (.bool true) ∧ Below w.heap.size w w' := by
  go_enter Try.func33, Try.ntmps33
  go_wp2_with fail
  refine (new_any 10 _ (by omega) (by omega)).mono ?_; rintro e w1 ⟨rfl, hm1, hb1⟩
  rw [show max (10 : Int) 0 = 10 from rfl] at hm1
  go_wp2_with fail
  refine (take_yes _ _ _ 7 _ hm1 (by omega) (by omega) (by omega) (by omega) (by omega)).mono ?_; rintro e w2 ⟨rfl, hm2, hb2⟩
  go_wp2_with fail
  refine (take_no _ _ _ 4 _ hm2 (by omega) (by omega) (by omega) (by omega)).mono ?_; rintro e w3 ⟨rfl, hb3⟩
  have hm3 := hm2.below hb3
  go_wp2_with fail
  refine (left_any _ _ _ _ hm3 (by omega) (by omega) (by omega)).mono ?_; rintro e w4 ⟨rfl, hb4⟩
  have hm4 := hm3.below hb4
  go_wp2_with fail
  refine (used_any _ _ _ _ hm4).mono ?_; rintro e w5 ⟨rfl, rfl⟩
  go_wp2
  go_ret
  exact ⟨rfl, (hb1.trans hb2).trans ((hb3.trans (hb4.mono hb3.size)).mono (Nat.le_trans hb1.size hb2.size))⟩

end Go.Proofs.Ythipnkbfdkmhaaa
