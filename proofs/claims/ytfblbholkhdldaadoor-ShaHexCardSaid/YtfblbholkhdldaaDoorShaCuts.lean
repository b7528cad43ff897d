/- ShaCuts, walked. -/
import Derived.Test.YtfblbholkhdldaaDoorSha7
import Derived.Test.YtfblbholkhdldaaDoorPhi
import Derived.Test.YtfblbholkhdldaaDoorHashEq
import Derived.WalkKit
import Derived.ProofKit
import Derived.Handy
import Derived.Below
import Derived.Lib.Hide
import Derived.IntWalk
import Derived.Outline
import Derived.WalkLawsBesides
import Derived.WalkSpells
namespace Go.Proofs.YtfblbholkhdldaaDoor
open Go.RowKit
attribute [local go_sem] strV
set_option linter.unusedVariables false
theorem RowAt.lit2 {w : World} {cs : Array Value} {e : TypeId} {g : Nat} {vs : List Value} (hg : g = w.heap.size) (h : cs.toList = vs) : RowAt (w.alloc (.cells cs e)) (some ⟨g, 0, none⟩) vs := by
  subst hg h
  refine .inr ⟨_, _, rfl, by simp, fun j hj => ?_⟩
  rw [Nat.zero_add, World.cell?_alloc_at _ _ _ _ rfl]; simp
theorem fl_one (s : ByteArray) : flat [s] = s.data.toList := by simp [flat]
theorem fl_cut (s : ByteArray) (A C : Nat) (h1 : A ≤ C) (h2 : C ≤ s.size) : flat [s.extract 0 A, s.extract A C, s.extract C s.size] = s.data.toList := by
  have hl := str_len s
  unfold flat
  simp only [List.flatMap_cons, List.flatMap_nil, List.append_nil, ByteArray.data_extract, Array.toList_extract]
  simp only [List.extract_eq_take_drop, List.drop_zero, Nat.sub_zero]
  rw [List.take_of_length_le (l := List.drop C s.data.toList) (by rw [List.length_drop]; omega), ← List.append_assoc]
  have : s.data.toList.take A ++ (s.data.toList.drop A).take (C - A) = s.data.toList.take C := by
    rw [← List.take_add, show A + (C - A) = C by omega]
  rw [this, List.take_append_drop]
theorem fl_pad (s : ByteArray) : flat [⟨#[]⟩, s, ⟨#[]⟩] = s.data.toList := by simp [flat]
set_option maxRecDepth 100000 in
set_option maxHeartbeats 6400000 in
theorem walkShaCuts (s : ByteArray) (a b : Int) (w : World) (hW : SW w) (hs : s.size ≤ maxLen) :
    Calls Tryd.prog 4 #[.string s, .int .i64 a, .int .i64 b] w fun e w' => e = .returned (.bool true) ∧ Below w.heap.size w w' := by
  by_cases c1 : 600 < s.size
  · have d1 : decide (600 < (s.size : Int)) = true := decide_eq_true (by omega)
    go_enter Tryd.func4, Tryd.ntmps4
    go_wp2_with (go_at_call 15; first | (with_reducible refine (first2_any _ hW).mono ?_; rintro e w0 ⟨rfl, hb0⟩; have hW1 := hW.below hb0; have hbel := hb0) | (with_reducible refine (first2_any _ hW1).mono ?_; rintro e w9 ⟨rfl, hb9⟩; have hbel := hb0.trans (hb9.mono hb0.size)))
    go_ret
    exact ⟨rfl, hbel⟩
  have d1 : decide (600 < (s.size : Int)) = false := decide_eq_false (by omega)
  by_cases c2 : a < 0
  · have d2 : decide (a < 0) = true := decide_eq_true c2
    go_enter Tryd.func4, Tryd.ntmps4
    go_wp2_with (go_at_call 15; first | (with_reducible refine (first2_any _ hW).mono ?_; rintro e w0 ⟨rfl, hb0⟩; have hW1 := hW.below hb0; have hbel := hb0) | (with_reducible refine (first2_any _ hW1).mono ?_; rintro e w9 ⟨rfl, hb9⟩; have hbel := hb0.trans (hb9.mono hb0.size)))
    go_ret
    exact ⟨rfl, hbel⟩
  have d2 : decide (a < 0) = false := decide_eq_false c2
  by_cases c3 : b < a
  · have d3 : decide (b < a) = true := decide_eq_true c3
    go_enter Tryd.func4, Tryd.ntmps4
    go_wp2_with (go_at_call 15; first | (with_reducible refine (first2_any _ hW).mono ?_; rintro e w0 ⟨rfl, hb0⟩; have hW1 := hW.below hb0; have hbel := hb0) | (with_reducible refine (first2_any _ hW1).mono ?_; rintro e w9 ⟨rfl, hb9⟩; have hbel := hb0.trans (hb9.mono hb0.size)))
    go_ret
    exact ⟨rfl, hbel⟩
  have d3 : decide (b < a) = false := decide_eq_false c3
  by_cases c4 : (s.size : Int) < b
  · have d4 : decide ((s.size : Int) < b) = true := decide_eq_true c4
    go_enter Tryd.func4, Tryd.ntmps4
    go_wp2_with (go_at_call 15; first | (with_reducible refine (first2_any _ hW).mono ?_; rintro e w0 ⟨rfl, hb0⟩; have hW1 := hW.below hb0; have hbel := hb0) | (with_reducible refine (first2_any _ hW1).mono ?_; rintro e w9 ⟨rfl, hb9⟩; have hbel := hb0.trans (hb9.mono hb0.size)))
    go_ret
    exact ⟨rfl, hbel⟩
  have d4 : decide ((s.size : Int) < b) = false := decide_eq_false c4
  obtain ⟨A, rfl⟩ : ∃ A : Nat, a = A := ⟨a.toNat, by omega⟩
  obtain ⟨C, rfl⟩ : ∃ C : Nat, b = C := ⟨b.toNat, by omega⟩
  have hAC : A ≤ C := by omega
  have hCs : C ≤ s.size := by omega
  have hsl : s.data.toList.length ≤ 600 := by rw [str_len]; omega
  have fl1 := fl_one s
  have fl2 := fl_cut s A C hAC hCs
  have fl3 := fl_pad s
  have fl4 : flat [] = [] := rfl
  have fl5 : flat [⟨#[]⟩] = [] := rfl
  obtain ⟨H, hH⟩ : ∃ H, shaF s.data.toList = H := ⟨_, rfl⟩
  obtain ⟨H0, hH0⟩ : ∃ H, shaF [] = H := ⟨_, rfl⟩
  have HE := Lib.hid hH
  have HE0 := Lib.hid hH0
  have hHl : H.length = 32 := by rw [← hH]; exact shaF_len _
  have hH0l : H0.length = 32 := by rw [← hH0]; exact shaF_len _
  have hEQ : ∀ W : World, (Op.equalIn 10000 26 (.agg (hrow H)) (.agg (hrow H))).run Tryd.prog W = .ok true W := fun W => by
    rw [run_equal_hash W 26 H H hHl hHl Tryd.underlying26 Tryd.underlying5 (by kernel_rfl)]; simp
  have hEQ0 : ∀ W : World, (Op.equalIn 10000 26 (.agg (hrow H0)) (.agg (hrow H0))).run Tryd.prog W = .ok true W := fun W => by
    rw [run_equal_hash W 26 H0 H0 hH0l hH0l Tryd.underlying26 Tryd.underlying5 (by kernel_rfl)]; simp
  have n1 : (0 : Int) ≤ (A : Int) := by omega
  have n2 : (A : Int) ≤ (s.size : Int) := by omega
  have n3 : (0 : Int) ≤ (C : Int) := by omega
  have n4 : (C : Int) ≤ (s.size : Int) := by omega
  have n5 : (A : Int) ≤ (C : Int) := by omega
  clear hH hH0 c1 c2 c3 c4
  go_enter Tryd.func4, Tryd.ntmps4
  go_upto_region 5 with (go_at_call 15; refine (first2_any _ hW).mono ?_; rintro e w0 ⟨rfl, hb0⟩)
  have hW := hW.below hb0
  refine wp_nameE _ (fun W hX => ?_)
  have hW : SW W := by rw [hX]; exact hW
  have hbel : Below w.heap.size w W := by rw [hX]; exact hb0
  clear hX hb0
  refine wp_region_facts [Fact.eq (.string s), Fact.row (1) ([.string s]), Fact.eq (.agg (hrow H)), Fact.eq (.string s), Fact.eq (.int .i64 A), Fact.eq (.string (s.extract 0 A)), Fact.eq (.string s), Fact.eq (.int .i64 A), Fact.eq (.int .i64 C), Fact.eq (.string (s.extract A C)), Fact.eq (.string s), Fact.eq (.int .i64 C), Fact.eq (.string (s.extract C s.size)), Fact.row (3) ([.string (s.extract 0 A), .string (s.extract A C), .string (s.extract C s.size)]), Fact.eq (.agg (hrow H)), Fact.eq (.bool true), Fact.eq (.bool true), Fact.eq (.string s), Fact.row (1) ([.string s]), Fact.eq (.agg (hrow H)), Fact.eq (.string s), Fact.row (3) ([.string ⟨#[]⟩, .string s, .string ⟨#[]⟩]), Fact.eq (.agg (hrow H)), Fact.eq (.bool true), Fact.eq (.bool true), Fact.eq (.bool true), Fact.eq (.agg (hrow H0)), Fact.row (1) ([.string ⟨#[]⟩]), Fact.eq (.agg (hrow H0)), Fact.eq (.bool true), Fact.eq (.bool true), Fact.eq (.bool true)] (by kernel_rfl) (by kernel_rfl) (by kernel_rfl) (by kernel_rfl) (fun x => by simp only [fillFrom, Act.put, List.setIfInBounds_toArray, List.set_cons_succ, List.set_cons_zero]; rfl) ?_ ?_
  · refine ⟨?_, ?_, ?_, ?_, ?_, ?_, ?_, ?_, ?_, ?_, ?_, ?_, ?_, ?_, ?_, ?_, ?_, ?_, ?_, ?_, ?_, ?_, ?_, ?_, ?_, ?_, ?_, ?_, ?_, ?_, ?_, ?_, trivial⟩
    · intro x w' hbw hd
      clear hd
      go_wp2_with fail
      exact frPost_mk rfl (by repeat (first | assumption | exact Below.refl _ _ | refine bch ?_ (by assumption) | refine Below.alloc ?_ (by simp) _)) rfl
    · intro x w' hbw hd
      have d0 : x 0 = .string s := hd 0 rfl
      clear hd
      go_wp2_with fail
      exact frPost_mk rfl (by repeat (first | assumption | exact Below.refl _ _ | refine bch ?_ (by assumption) | refine Below.alloc ?_ (by simp) _)) ⟨_, _, rfl, RowAt.lit2 rfl rfl⟩
    · intro x w' hbw hd
      obtain ⟨a1, cap1, d1, r1⟩ := (show (Fact.row (1) ([.string s])).holds (x 1) w' from hd 1 rfl)
      clear hd
      have CC := sum_any a1 1 cap1 [s] w' (show RowAt w' a1 (([s] : List ByteArray).flatMap sval) from r1) rfl (hW.below hbw) (by rw [fl1]; first | omega | decide) (by unfold maxLen; omega)
      rw [fl1, HE.out] at CC
      go_wp2_with (first | (go_at_call 17; refine CC.mono ?_; rintro e wx ⟨rfl, hbx⟩))
      exact frPost_mk rfl (by repeat (first | assumption | exact Below.refl _ _ | refine bch ?_ (by assumption) | refine Below.alloc ?_ (by simp) _)) rfl
    · intro x w' hbw hd
      clear hd
      go_wp2_with fail
      exact frPost_mk rfl (by repeat (first | assumption | exact Below.refl _ _ | refine bch ?_ (by assumption) | refine Below.alloc ?_ (by simp) _)) rfl
    · intro x w' hbw hd
      clear hd
      go_wp2_with fail
      exact frPost_mk rfl (by repeat (first | assumption | exact Below.refl _ _ | refine bch ?_ (by assumption) | refine Below.alloc ?_ (by simp) _)) rfl
    · intro x w' hbw hd
      have d3 : x 3 = .string s := hd 3 rfl
      have d4 : x 4 = .int .i64 A := hd 4 rfl
      clear hd
      go_wp2_with fail
      exact frPost_mk rfl (by repeat (first | assumption | exact Below.refl _ _ | refine bch ?_ (by assumption) | refine Below.alloc ?_ (by simp) _)) rfl
    · intro x w' hbw hd
      clear hd
      go_wp2_with fail
      exact frPost_mk rfl (by repeat (first | assumption | exact Below.refl _ _ | refine bch ?_ (by assumption) | refine Below.alloc ?_ (by simp) _)) rfl
    · intro x w' hbw hd
      clear hd
      go_wp2_with fail
      exact frPost_mk rfl (by repeat (first | assumption | exact Below.refl _ _ | refine bch ?_ (by assumption) | refine Below.alloc ?_ (by simp) _)) rfl
    · intro x w' hbw hd
      clear hd
      go_wp2_with fail
      exact frPost_mk rfl (by repeat (first | assumption | exact Below.refl _ _ | refine bch ?_ (by assumption) | refine Below.alloc ?_ (by simp) _)) rfl
    · intro x w' hbw hd
      have d6 : x 6 = .string s := hd 6 rfl
      have d7 : x 7 = .int .i64 A := hd 7 rfl
      have d8 : x 8 = .int .i64 C := hd 8 rfl
      clear hd
      go_wp2_with fail
      exact frPost_mk rfl (by repeat (first | assumption | exact Below.refl _ _ | refine bch ?_ (by assumption) | refine Below.alloc ?_ (by simp) _)) rfl
    · intro x w' hbw hd
      clear hd
      go_wp2_with fail
      exact frPost_mk rfl (by repeat (first | assumption | exact Below.refl _ _ | refine bch ?_ (by assumption) | refine Below.alloc ?_ (by simp) _)) rfl
    · intro x w' hbw hd
      clear hd
      go_wp2_with fail
      exact frPost_mk rfl (by repeat (first | assumption | exact Below.refl _ _ | refine bch ?_ (by assumption) | refine Below.alloc ?_ (by simp) _)) rfl
    · intro x w' hbw hd
      have d10 : x 10 = .string s := hd 10 rfl
      have d11 : x 11 = .int .i64 C := hd 11 rfl
      clear hd
      go_wp2_with fail
      exact frPost_mk rfl (by repeat (first | assumption | exact Below.refl _ _ | refine bch ?_ (by assumption) | refine Below.alloc ?_ (by simp) _)) rfl
    · intro x w' hbw hd
      have d5 : x 5 = .string (s.extract 0 A) := hd 5 rfl
      have d9 : x 9 = .string (s.extract A C) := hd 9 rfl
      have d12 : x 12 = .string (s.extract C s.size) := hd 12 rfl
      clear hd
      go_wp2_with fail
      exact frPost_mk rfl (by repeat (first | assumption | exact Below.refl _ _ | refine bch ?_ (by assumption) | refine Below.alloc ?_ (by simp) _)) ⟨_, _, rfl, RowAt.lit2 rfl rfl⟩
    · intro x w' hbw hd
      obtain ⟨a13, cap13, d13, r13⟩ := (show (Fact.row (3) ([.string (s.extract 0 A), .string (s.extract A C), .string (s.extract C s.size)])).holds (x 13) w' from hd 13 rfl)
      clear hd
      have CC := sum_any a13 3 cap13 [(s.extract 0 A), (s.extract A C), (s.extract C s.size)] w' (show RowAt w' a13 (([(s.extract 0 A), (s.extract A C), (s.extract C s.size)] : List ByteArray).flatMap sval) from r13) rfl (hW.below hbw) (by rw [fl2]; first | omega | decide) (by unfold maxLen; omega)
      rw [fl2, HE.out] at CC
      go_wp2_with (first | (go_at_call 17; refine CC.mono ?_; rintro e wx ⟨rfl, hbx⟩))
      exact frPost_mk rfl (by repeat (first | assumption | exact Below.refl _ _ | refine bch ?_ (by assumption) | refine Below.alloc ?_ (by simp) _)) rfl
    · intro x w' hbw hd
      have d2 : x 2 = .agg (hrow H) := hd 2 rfl
      have d14 : x 14 = .agg (hrow H) := hd 14 rfl
      clear hd
      go_wp2_with fail
      exact frPost_mk rfl (by repeat (first | assumption | exact Below.refl _ _ | refine bch ?_ (by assumption) | refine Below.alloc ?_ (by simp) _)) rfl
    · intro x w' hbw hd
      have d15 : x 15 = .bool true := hd 15 rfl
      clear hd
      go_wp2_with fail
      exact frPost_mk rfl (by repeat (first | assumption | exact Below.refl _ _ | refine bch ?_ (by assumption) | refine Below.alloc ?_ (by simp) _)) rfl
    · intro x w' hbw hd
      have d16 : x 16 = .bool true := hd 16 rfl
      clear hd
      go_wp2_with fail
      exact frPost_mk rfl (by repeat (first | assumption | exact Below.refl _ _ | refine bch ?_ (by assumption) | refine Below.alloc ?_ (by simp) _)) rfl
    · intro x w' hbw hd
      have d16 : x 16 = .bool true := hd 16 rfl
      have d17 : x 17 = .string s := hd 17 rfl
      clear hd
      go_wp2_with fail
      exact frPost_mk rfl (by repeat (first | assumption | exact Below.refl _ _ | refine bch ?_ (by assumption) | refine Below.alloc ?_ (by simp) _)) ⟨_, _, rfl, RowAt.lit2 rfl rfl⟩
    · intro x w' hbw hd
      have d16 : x 16 = .bool true := hd 16 rfl
      obtain ⟨a18, cap18, d18, r18⟩ := (show (Fact.row (1) ([.string s])).holds (x 18) w' from hd 18 rfl)
      clear hd
      have CC := sum_any a18 1 cap18 [s] w' (show RowAt w' a18 (([s] : List ByteArray).flatMap sval) from r18) rfl (hW.below hbw) (by rw [fl1]; first | omega | decide) (by unfold maxLen; omega)
      rw [fl1, HE.out] at CC
      go_wp2_with (first | (go_at_call 17; refine CC.mono ?_; rintro e wx ⟨rfl, hbx⟩))
      exact frPost_mk rfl (by repeat (first | assumption | exact Below.refl _ _ | refine bch ?_ (by assumption) | refine Below.alloc ?_ (by simp) _)) rfl
    · intro x w' hbw hd
      have d16 : x 16 = .bool true := hd 16 rfl
      clear hd
      go_wp2_with fail
      exact frPost_mk rfl (by repeat (first | assumption | exact Below.refl _ _ | refine bch ?_ (by assumption) | refine Below.alloc ?_ (by simp) _)) rfl
    · intro x w' hbw hd
      have d16 : x 16 = .bool true := hd 16 rfl
      have d20 : x 20 = .string s := hd 20 rfl
      clear hd
      go_wp2_with fail
      exact frPost_mk rfl (by repeat (first | assumption | exact Below.refl _ _ | refine bch ?_ (by assumption) | refine Below.alloc ?_ (by simp) _)) ⟨_, _, rfl, RowAt.lit2 rfl rfl⟩
    · intro x w' hbw hd
      have d16 : x 16 = .bool true := hd 16 rfl
      obtain ⟨a21, cap21, d21, r21⟩ := (show (Fact.row (3) ([.string ⟨#[]⟩, .string s, .string ⟨#[]⟩])).holds (x 21) w' from hd 21 rfl)
      clear hd
      have CC := sum_any a21 3 cap21 [⟨#[]⟩, s, ⟨#[]⟩] w' (show RowAt w' a21 (([⟨#[]⟩, s, ⟨#[]⟩] : List ByteArray).flatMap sval) from r21) rfl (hW.below hbw) (by rw [fl3]; first | omega | decide) (by unfold maxLen; omega)
      rw [fl3, HE.out] at CC
      go_wp2_with (first | (go_at_call 17; refine CC.mono ?_; rintro e wx ⟨rfl, hbx⟩))
      exact frPost_mk rfl (by repeat (first | assumption | exact Below.refl _ _ | refine bch ?_ (by assumption) | refine Below.alloc ?_ (by simp) _)) rfl
    · intro x w' hbw hd
      have d16 : x 16 = .bool true := hd 16 rfl
      have d19 : x 19 = .agg (hrow H) := hd 19 rfl
      have d22 : x 22 = .agg (hrow H) := hd 22 rfl
      clear hd
      go_wp2_with fail
      exact frPost_mk rfl (by repeat (first | assumption | exact Below.refl _ _ | refine bch ?_ (by assumption) | refine Below.alloc ?_ (by simp) _)) rfl
    · intro x w' hbw hd
      have d16 : x 16 = .bool true := hd 16 rfl
      have d23 : x 23 = .bool true := hd 23 rfl
      clear hd
      go_wp2_with fail
      exact frPost_mk rfl (by repeat (first | assumption | exact Below.refl _ _ | refine bch ?_ (by assumption) | refine Below.alloc ?_ (by simp) _)) rfl
    · intro x w' hbw hd
      have d24 : x 24 = .bool true := hd 24 rfl
      clear hd
      go_wp2_with fail
      exact frPost_mk rfl (by repeat (first | assumption | exact Below.refl _ _ | refine bch ?_ (by assumption) | refine Below.alloc ?_ (by simp) _)) rfl
    · intro x w' hbw hd
      have d25 : x 25 = .bool true := hd 25 rfl
      clear hd
      have CC := sum_any none 0 0 [] w' (show RowAt w' none (([] : List ByteArray).flatMap sval) from (RowAt.nil _ _)) rfl (hW.below hbw) (by rw [fl4]; first | omega | decide) (by unfold maxLen; omega)
      rw [fl4, HE0.out] at CC
      go_wp2_with (first | (go_at_call 17; refine CC.mono ?_; rintro e wx ⟨rfl, hbx⟩))
      exact frPost_mk rfl (by repeat (first | assumption | exact Below.refl _ _ | refine bch ?_ (by assumption) | refine Below.alloc ?_ (by simp) _)) rfl
    · intro x w' hbw hd
      have d25 : x 25 = .bool true := hd 25 rfl
      clear hd
      go_wp2_with fail
      exact frPost_mk rfl (by repeat (first | assumption | exact Below.refl _ _ | refine bch ?_ (by assumption) | refine Below.alloc ?_ (by simp) _)) ⟨_, _, rfl, RowAt.lit2 rfl rfl⟩
    · intro x w' hbw hd
      have d25 : x 25 = .bool true := hd 25 rfl
      obtain ⟨a27, cap27, d27, r27⟩ := (show (Fact.row (1) ([.string ⟨#[]⟩])).holds (x 27) w' from hd 27 rfl)
      clear hd
      have CC := sum_any a27 1 cap27 [⟨#[]⟩] w' (show RowAt w' a27 (([⟨#[]⟩] : List ByteArray).flatMap sval) from r27) rfl (hW.below hbw) (by rw [fl5]; first | omega | decide) (by unfold maxLen; omega)
      rw [fl5, HE0.out] at CC
      go_wp2_with (first | (go_at_call 17; refine CC.mono ?_; rintro e wx ⟨rfl, hbx⟩))
      exact frPost_mk rfl (by repeat (first | assumption | exact Below.refl _ _ | refine bch ?_ (by assumption) | refine Below.alloc ?_ (by simp) _)) rfl
    · intro x w' hbw hd
      have d25 : x 25 = .bool true := hd 25 rfl
      have d26 : x 26 = .agg (hrow H0) := hd 26 rfl
      have d28 : x 28 = .agg (hrow H0) := hd 28 rfl
      clear hd
      go_wp2_with fail
      exact frPost_mk rfl (by repeat (first | assumption | exact Below.refl _ _ | refine bch ?_ (by assumption) | refine Below.alloc ?_ (by simp) _)) rfl
    · intro x w' hbw hd
      have d25 : x 25 = .bool true := hd 25 rfl
      have d29 : x 29 = .bool true := hd 29 rfl
      clear hd
      go_wp2_with fail
      exact frPost_mk rfl (by repeat (first | assumption | exact Below.refl _ _ | refine bch ?_ (by assumption) | refine Below.alloc ?_ (by simp) _)) rfl
    · intro x w' hbw hd
      have d30 : x 30 = .bool true := hd 30 rfl
      clear hd
      go_wp2_with fail
      exact frPost_mk rfl (by repeat (first | assumption | exact Below.refl _ _ | refine bch ?_ (by assumption) | refine Below.alloc ?_ (by simp) _)) rfl
  · intro x w' hbw hall
    have hf : x 31 = .bool true := hall 31 (by decide)
    clear hall
    simp only [hf]
    go_wp2
    go_ret
    exact ⟨rfl, hbel.trans (hbw.mono hbel.size)⟩
end Go.Proofs.YtfblbholkhdldaaDoor
