/- ligkeep.Rise; liglaw12.first. -/
import Derived.Test.YtpledhipdiephaaDoorSt5
import Derived.Test.YtpledhipdiephaaDoorPhiC
import Derived.BigRegion
import Derived.RegionTactic
import Derived.BigQuiet
import Derived.Deep.QuietTactic
import Derived.Deep.MidRow
import Derived.LoopTactic
import Derived.BigFrame
import Derived.OwnWalk
import Derived.WalkKit
import Derived.ProofKit
import Derived.Handy
import Derived.Below
import Derived.Lib.Hide
import Derived.IntWalk
import Derived.Outline
import Derived.WalkLawsBesides
import Derived.WalkSpells
namespace Go.Proofs.YtpledhipdiephaaDoor
open Go.RowKit
attribute [local go_sem] strV
set_option linter.unusedVariables false
theorem own_sliceQ {w : World} {base : Nat} {e : TypeId} {size n : Nat} {v : Value} {xs : List Value} (h : w.ownsRow base e size v n xs) :
    ∃ a cap, v = .slice a n cap ∧ RowAt w a xs ∧ n ≤ cap ∧ cap ≤ maxLen ∧ ((a = none ∧ n = 0 ∧ cap = 0) ∨ ∃ b off, a = some ⟨b, off, none⟩) := by
  obtain ⟨a, cap, hv, hr, h1, h2⟩ := own_sliceH h
  refine ⟨a, cap, hv, hr, h1, h2, ?_⟩
  rcases h.2 with ⟨q1, q2⟩ | ⟨g, cap', cur, q1, _⟩
  · rw [q1, Value.slice.injEq] at hv
    exact .inl ⟨hv.1.symm, q2, hv.2.2.symm⟩
  · rw [q1, Value.slice.injEq] at hv
    exact .inr ⟨_, _, hv.1.symm⟩
theorem rise_take0 (l : List Pr) : riseL (l.take 0) = [] := rfl
set_option maxRecDepth 100000 in
set_option maxHeartbeats 6400000 in
theorem rise_any (a : Option Addr) (n cap : Nat) (l : List Pr) (w : World) (hr : RowAt w a (l.flatMap Pr.cells)) (hn : l.length = n) (hn6 : n ≤ 100000) (hcap : n ≤ cap) :
    Calls Tryd.prog 11 #[.slice a n cap] w fun e w' => ∃ v, e = .returned v ∧ w'.ownsRow w.heap.size 30 2 v (riseL l).length ((riseL l).flatMap Pr.cells) ∧ Below w.heap.size w w' := by
  have HN := Lib.hid hn
  clear hn
  go_enter Tryd.func11, Tryd.ntmps11
  go_upto_region 3 with fail
  go_loopw [3, 4] (fun v i wr => ∃ k : Nat, k ≤ n ∧ i = .int .i64 k ∧ wr.ownsRow w.heap.size 30 2 v (riseL (l.take k)).length ((riseL (l.take k)).flatMap Pr.cells) ∧ Below w.heap.size w wr) (fun _ i _ => n - (intOf i).toNat)
  case atStart => exact ⟨0, Nat.zero_le _, rfl, ⟨rfl, .inl ⟨rfl, rfl⟩⟩, Below.refl _ _⟩
  case round =>
    rename_i sv _ _
    obtain ⟨k, hk, rfl, hown, hbel⟩ := hrel
    by_cases hlt : k < n
    rotate_left
    · have d9 : decide ((k : Int) < (n : Int)) = false := decide_eq_false (by omega)
      have d9n : decide (k < n) = false := decide_eq_false hlt
      rw [List.take_of_length_le (by rw [HN.out]; omega)] at hown
      obtain ⟨a9, c9, rfl, _⟩ := own_sliceH hown
      go_wp2
      go_ret
      exact ⟨_, rfl, hown, hbel⟩
    have d1 : decide ((k : Int) < (n : Int)) = true := decide_eq_true (by omega)
    have d1n : decide (k < n) = true := decide_eq_true hlt
    have hkl : k < l.length := by rw [HN.out]; exact hlt
    obtain ⟨b1, o1, rfl, hb1, hg1⟩ := pr_range (hr.below hbel) hkl
    have hstep := rise_take hkl
    have hgk := rise_good (l.take k)
    have hlk := rise_len (l.take k)
    rw [List.length_take, Nat.min_eq_left (by omega)] at hlk
    obtain ⟨p, hp9⟩ : ∃ p, l[k] = p := ⟨_, rfl⟩
    rw [hp9] at hg1 hstep
    obtain ⟨R, hR⟩ : ∃ R, riseL (l.take k) = R := ⟨_, rfl⟩
    rw [hR] at hown hstep hgk hlk
    unfold riseStep at hstep
    have CM := fun W => mayPair_any p.k p.v W
    obtain ⟨fit, hfit⟩ : ∃ b, fitsB p.k p.v = b := ⟨_, rfl⟩
    simp only [hfit] at CM
    rw [hfit] at hstep
    have HST := Lib.hid hstep
    clear hp9 hstep hR hfit
    obtain ⟨a2, c2, rfl, hr2, hc2, hm2, ha2⟩ := own_sliceQ hown
    have CS := fun W (hb : Below wr.heap.size wr W) => set_any a2 R.length c2 R p.k p.v W (hr2.below hb) rfl hc2 hm2 (by omega) (goodL_sorted hgk) ha2
    obtain ⟨m2, hm29⟩ : ∃ m, R.length = m := ⟨_, rfl⟩
    rw [hm29] at hown hlk
    simp only [hm29] at CS ⊢
    have HM2 := Lib.hid hm29
    clear hm29 hr2 ha2 hgk
    have q0 : wr.cell? ⟨b1, o1 + k * 2, none⟩ = some (.string p.k) := hg1 0 _ rfl
    have q1 : wr.cell? ⟨b1, o1 + k * 2 + 1, none⟩ = some (.string p.v) := hg1 1 _ rfl
    clear hg1
    have n0 : (0 : Int) ≤ (k : Int) := by omega
    have n1 : (k : Int) < (n : Int) := by omega
    have n2 : ((k : Nat) : Int).toNat = k := by omega
    go_upto_region 5 with fail
    refine wp_region_facts [Fact.eq (.slice (some ⟨b1, o1, none⟩) n cap), Fact.eq (.int .i64 (k : Int)), Fact.eq (.pointer (some ⟨b1, o1 + k * 2, none⟩)), Fact.eq (.pointer (some ⟨b1, o1 + k * 2, none⟩)), Fact.eq (.string p.k), Fact.eq (.slice (some ⟨b1, o1, none⟩) n cap), Fact.eq (.int .i64 (k : Int)), Fact.eq (.pointer (some ⟨b1, o1 + k * 2, none⟩)), Fact.eq (.pointer (some ⟨b1, o1 + k * 2 + 1, none⟩)), Fact.eq (.string p.v), Fact.eq (.bool fit)] (by kernel_rfl) (by kernel_rfl) (by kernel_rfl) (by kernel_rfl) (fun x => by simp only [fillFrom, Act.put, List.setIfInBounds_toArray, List.set_cons_succ, List.set_cons_zero]; rfl) ?_ ?_
    · refine ⟨?_, ?_, ?_, ?_, ?_, ?_, ?_, ?_, ?_, ?_, ?_, trivial⟩
      · intro x w' hbw hd
        clear hd
        go_wp2_with fail
        exact frPost_mk rfl (by repeat (first | assumption | exact Below.refl _ _ | refine bch ?_ (by assumption) | refine Below.alloc ?_ (by simp) _)) rfl
      · intro x w' hbw hd
        clear hd
        go_wp2_with fail
        exact frPost_mk rfl (by repeat (first | assumption | exact Below.refl _ _ | refine bch ?_ (by assumption) | refine Below.alloc ?_ (by simp) _)) rfl
      · intro x w' hbw hd
        have d0 : x 0 = .slice (some ⟨b1, o1, none⟩) n cap := hd 0 rfl
        have d1 : x 1 = .int .i64 (k : Int) := hd 1 rfl
        clear hd
        go_wp2_with fail
        exact frPost_mk rfl (by repeat (first | assumption | exact Below.refl _ _ | refine bch ?_ (by assumption) | refine Below.alloc ?_ (by simp) _)) (by first | rfl | (show Value.pointer _ = Value.pointer _; simp))
      · intro x w' hbw hd
        have d2 : x 2 = .pointer (some ⟨b1, o1 + k * 2, none⟩) := hd 2 rfl
        clear hd
        go_wp2_with fail
        exact frPost_mk rfl (by repeat (first | assumption | exact Below.refl _ _ | refine bch ?_ (by assumption) | refine Below.alloc ?_ (by simp) _)) rfl
      · intro x w' hbw hd
        have d3 : x 3 = .pointer (some ⟨b1, o1 + k * 2, none⟩) := hd 3 rfl
        clear hd
        have cq : w'.cell? ⟨b1, o1 + k * 2, none⟩ = some (.string p.k) := by rw [hbw.cell (p := ⟨b1, o1 + k * 2, none⟩) hb1]; exact q0
        go_wp2_with (first | fail)
        exact frPost_mk rfl (by repeat (first | assumption | exact Below.refl _ _ | refine bch ?_ (by assumption) | refine Below.alloc ?_ (by simp) _)) rfl
      · intro x w' hbw hd
        clear hd
        go_wp2_with fail
        exact frPost_mk rfl (by repeat (first | assumption | exact Below.refl _ _ | refine bch ?_ (by assumption) | refine Below.alloc ?_ (by simp) _)) rfl
      · intro x w' hbw hd
        clear hd
        go_wp2_with fail
        exact frPost_mk rfl (by repeat (first | assumption | exact Below.refl _ _ | refine bch ?_ (by assumption) | refine Below.alloc ?_ (by simp) _)) rfl
      · intro x w' hbw hd
        have d5 : x 5 = .slice (some ⟨b1, o1, none⟩) n cap := hd 5 rfl
        have d6 : x 6 = .int .i64 (k : Int) := hd 6 rfl
        clear hd
        go_wp2_with fail
        exact frPost_mk rfl (by repeat (first | assumption | exact Below.refl _ _ | refine bch ?_ (by assumption) | refine Below.alloc ?_ (by simp) _)) (by first | rfl | (show Value.pointer _ = Value.pointer _; simp))
      · intro x w' hbw hd
        have d7 : x 7 = .pointer (some ⟨b1, o1 + k * 2, none⟩) := hd 7 rfl
        clear hd
        go_wp2_with fail
        exact frPost_mk rfl (by repeat (first | assumption | exact Below.refl _ _ | refine bch ?_ (by assumption) | refine Below.alloc ?_ (by simp) _)) rfl
      · intro x w' hbw hd
        have d8 : x 8 = .pointer (some ⟨b1, o1 + k * 2 + 1, none⟩) := hd 8 rfl
        clear hd
        have cq : w'.cell? ⟨b1, o1 + k * 2 + 1, none⟩ = some (.string p.v) := by rw [hbw.cell (p := ⟨b1, o1 + k * 2 + 1, none⟩) hb1]; exact q1
        go_wp2_with (first | fail)
        exact frPost_mk rfl (by repeat (first | assumption | exact Below.refl _ _ | refine bch ?_ (by assumption) | refine Below.alloc ?_ (by simp) _)) rfl
      · intro x w' hbw hd
        have d4 : x 4 = .string p.k := hd 4 rfl
        have d9 : x 9 = .string p.v := hd 9 rfl
        clear hd
        have CC := CM w'
        go_wp2_with (first | (go_at_call 25; refine CC.mono ?_; rintro e wx ⟨rfl, hbx⟩))
        exact frPost_mk rfl (by repeat (first | assumption | exact Below.refl _ _ | refine bch ?_ (by assumption) | refine Below.alloc ?_ (by simp) _)) rfl
    intro x w5 hbw5 hall5
    have hx10 : x 10 = .bool fit := hall5 10 (by decide)
    clear hall5 CM
    simp only [hx10]
    have hown := own_keptH hown hbw5
    have hbel := hbel.trans (hbw5.mono hbel.size)
    have q0 : w5.cell? ⟨b1, o1 + k * 2, none⟩ = some (.string p.k) := by rw [hbw5.cell (p := ⟨b1, o1 + k * 2, none⟩) hb1]; exact q0
    have q1 : w5.cell? ⟨b1, o1 + k * 2 + 1, none⟩ = some (.string p.v) := by rw [hbw5.cell (p := ⟨b1, o1 + k * 2 + 1, none⟩) hb1]; exact q1
    have hb1 := Nat.lt_of_lt_of_le hb1 hbw5.size
    cases fit
    · go_wp2
      go_roundw
      case rel => exact ⟨k + 1, by omega, by go_num, by rw [HST.out]; simp only [Bool.false_eq_true, if_false, HM2.out]; exact hown, hbel⟩
      case measure => (simp [intOf]) <;> omega
    · go_upto_region 6 with fail
      refine wp_region_facts_chain 11 (by decide) [Fact.eq (.slice a2 m2 c2), Fact.eq (.slice (some ⟨b1, o1, none⟩) n cap), Fact.eq (.int .i64 (k : Int)), Fact.eq (.pointer (some ⟨b1, o1 + k * 2, none⟩)), Fact.eq (.pointer (some ⟨b1, o1 + k * 2, none⟩)), Fact.eq (.string p.k), Fact.eq (.slice (some ⟨b1, o1, none⟩) n cap), Fact.eq (.int .i64 (k : Int)), Fact.eq (.pointer (some ⟨b1, o1 + k * 2, none⟩)), Fact.eq (.pointer (some ⟨b1, o1 + k * 2 + 1, none⟩)), Fact.eq (.string p.v)] (by kernel_rfl) (by kernel_rfl) (by kernel_rfl) (by kernel_rfl) (by kernel_rfl) (by kernel_rfl) (by kernel_rfl) (fun x => by simp only [List.take_succ_cons, List.take_zero, fillFrom, Act.put, List.setIfInBounds_toArray, List.set_cons_succ, List.set_cons_zero]; rfl) ?_ ?_
      · refine ⟨?_, ?_, ?_, ?_, ?_, ?_, ?_, ?_, ?_, ?_, ?_, trivial⟩
        · intro x w' hbw hd
          clear hd
          go_wp2_with fail
          exact frPost_mk rfl (by repeat (first | assumption | exact Below.refl _ _ | refine bch ?_ (by assumption) | refine Below.alloc ?_ (by simp) _)) rfl
        · intro x w' hbw hd
          clear hd
          go_wp2_with fail
          exact frPost_mk rfl (by repeat (first | assumption | exact Below.refl _ _ | refine bch ?_ (by assumption) | refine Below.alloc ?_ (by simp) _)) rfl
        · intro x w' hbw hd
          clear hd
          go_wp2_with fail
          exact frPost_mk rfl (by repeat (first | assumption | exact Below.refl _ _ | refine bch ?_ (by assumption) | refine Below.alloc ?_ (by simp) _)) rfl
        · intro x w' hbw hd
          have d1 : x 1 = .slice (some ⟨b1, o1, none⟩) n cap := hd 1 rfl
          have d2 : x 2 = .int .i64 (k : Int) := hd 2 rfl
          clear hd
          go_wp2_with fail
          exact frPost_mk rfl (by repeat (first | assumption | exact Below.refl _ _ | refine bch ?_ (by assumption) | refine Below.alloc ?_ (by simp) _)) (by first | rfl | (show Value.pointer _ = Value.pointer _; simp))
        · intro x w' hbw hd
          have d3 : x 3 = .pointer (some ⟨b1, o1 + k * 2, none⟩) := hd 3 rfl
          clear hd
          go_wp2_with fail
          exact frPost_mk rfl (by repeat (first | assumption | exact Below.refl _ _ | refine bch ?_ (by assumption) | refine Below.alloc ?_ (by simp) _)) rfl
        · intro x w' hbw hd
          have d4 : x 4 = .pointer (some ⟨b1, o1 + k * 2, none⟩) := hd 4 rfl
          clear hd
          have cq : w'.cell? ⟨b1, o1 + k * 2, none⟩ = some (.string p.k) := by rw [hbw.cell (p := ⟨b1, o1 + k * 2, none⟩) hb1]; exact q0
          go_wp2_with (first | fail)
          exact frPost_mk rfl (by repeat (first | assumption | exact Below.refl _ _ | refine bch ?_ (by assumption) | refine Below.alloc ?_ (by simp) _)) rfl
        · intro x w' hbw hd
          clear hd
          go_wp2_with fail
          exact frPost_mk rfl (by repeat (first | assumption | exact Below.refl _ _ | refine bch ?_ (by assumption) | refine Below.alloc ?_ (by simp) _)) rfl
        · intro x w' hbw hd
          clear hd
          go_wp2_with fail
          exact frPost_mk rfl (by repeat (first | assumption | exact Below.refl _ _ | refine bch ?_ (by assumption) | refine Below.alloc ?_ (by simp) _)) rfl
        · intro x w' hbw hd
          have d6 : x 6 = .slice (some ⟨b1, o1, none⟩) n cap := hd 6 rfl
          have d7 : x 7 = .int .i64 (k : Int) := hd 7 rfl
          clear hd
          go_wp2_with fail
          exact frPost_mk rfl (by repeat (first | assumption | exact Below.refl _ _ | refine bch ?_ (by assumption) | refine Below.alloc ?_ (by simp) _)) (by first | rfl | (show Value.pointer _ = Value.pointer _; simp))
        · intro x w' hbw hd
          have d8 : x 8 = .pointer (some ⟨b1, o1 + k * 2, none⟩) := hd 8 rfl
          clear hd
          go_wp2_with fail
          exact frPost_mk rfl (by repeat (first | assumption | exact Below.refl _ _ | refine bch ?_ (by assumption) | refine Below.alloc ?_ (by simp) _)) rfl
        · intro x w' hbw hd
          have d9 : x 9 = .pointer (some ⟨b1, o1 + k * 2 + 1, none⟩) := hd 9 rfl
          clear hd
          have cq : w'.cell? ⟨b1, o1 + k * 2 + 1, none⟩ = some (.string p.v) := by rw [hbw.cell (p := ⟨b1, o1 + k * 2 + 1, none⟩) hb1]; exact q1
          go_wp2_with (first | fail)
          exact frPost_mk rfl (by repeat (first | assumption | exact Below.refl _ _ | refine bch ?_ (by assumption) | refine Below.alloc ?_ (by simp) _)) rfl
      · intro x w' hbw hall
        have hx0 : x 0 = .slice a2 m2 c2 := hall 0 (by decide)
        have hx5 : x 5 = .string p.k := hall 5 (by decide)
        have hx10 : x 10 = .string p.v := hall 10 (by decide)
        clear hall
        have hbel := hbel.trans (hbw.mono hbel.size)
        have hbs := hbel.size
        simp only [hx0, hx5, hx10, List.drop_succ_cons, List.drop_zero]
        have CC := CS w' (hbw5.trans (hbw.mono hbw5.size))
        go_wp2_with (go_at_call 26; refine CC.mono ?_; rintro e w8 ⟨v8, rfl, hown8, hb8⟩)
        have hown9 := own_lower hown8 hbs
        go_roundw
        case rel => exact ⟨k + 1, by omega, by go_num, by rw [HST.out]; exact hown9, hbel.trans (hb8.mono hbel.size)⟩
        case measure => (simp [intOf]) <;> omega
theorem st_new {w w1 : World} {g : Nat} (h : w1.heap[g]? = some (.cells #[.slice none 0 0] 93 (0, 0))) : StAt w1 g [] := ⟨rfl, none, 0, h, World.ownsRow_nil _ _ _ _⟩
instance : DecidableEq Pr := fun x y => decidable_of_iff (x.k = y.k ∧ x.v = y.v) (by cases x; cases y; simp)
theorem f12a : setE ⟨#[97]⟩ ⟨#[49]⟩ = 0 := by decide +kernel
theorem f12b : setE ⟨#[97]⟩ ⟨#[50]⟩ = 0 := by decide +kernel
theorem f12c : setS [] ⟨#[97]⟩ ⟨#[49]⟩ = [⟨⟨#[97]⟩, ⟨#[49]⟩⟩] := by decide +kernel
theorem f12d : setS [⟨⟨#[97]⟩, ⟨#[49]⟩⟩] ⟨#[97]⟩ ⟨#[50]⟩ = [⟨⟨#[97]⟩, ⟨#[50]⟩⟩] := by decide +kernel
theorem f12e : foundL [⟨⟨#[97]⟩, ⟨#[50]⟩⟩] ⟨#[98]⟩ = false := by decide +kernel
theorem f12f : foundL [⟨⟨#[97]⟩, ⟨#[50]⟩⟩] ⟨#[97]⟩ = true := by decide +kernel
theorem f12g : getV [⟨⟨#[97]⟩, ⟨#[50]⟩⟩] ⟨#[97]⟩ = ⟨#[50]⟩ := by decide +kernel
theorem stGet_any (g : Nat) (l : List Pr) (key : ByteArray) (w : World) (h : StAt w g l) (hn6 : l.length ≤ 100000) :
    Calls Tryd.prog 14 #[.pointer (some ⟨g, 0, none⟩), .string key] w fun e w' => e = .returned (.tuple #[.string (getV l key), .bool (foundL l key)]) ∧ Below w.heap.size w w' := by
  obtain ⟨hgd, a, cap, hg, hown⟩ := h
  obtain ⟨a9, cap9, hv9, hr, hcap, hcm, hnone⟩ := own_sliceN hown
  simp only [Value.slice.injEq, true_and] at hv9
  obtain ⟨rfl, rfl⟩ := hv9
  exact get_any g a l.length cap l key w hg hr rfl hcap hcm (by omega) (goodL_sorted hgd)
theorem stLen_any (g : Nat) (l : List Pr) (w : World) (h : StAt w g l) :
    Calls Tryd.prog 17 #[.pointer (some ⟨g, 0, none⟩)] w fun e w' => e = .returned (.int .i64 (l.length : Int)) ∧ Below w.heap.size w w' := by
  obtain ⟨hgd, a, cap, hg, hown⟩ := h
  exact len_any g a l.length cap w hg
set_option maxRecDepth 100000 in
set_option maxHeartbeats 1600000 in
theorem first12_any (w : World) : Calls Tryd.prog 10 #[] w fun e w' => e = .returned (.bool true) ∧ Below w.heap.size w w' := by
  go_enter Tryd.func10, Tryd.ntmps10
  go_upto_region 4 with (go_at_call 12; refine (new_any w).mono ?_; rintro e w1 ⟨rfl, hq1, hb1⟩)
  have s1 := st_new (w := w) hq1
  have C1 := setS_any _ _ ⟨#[97]⟩ ⟨#[49]⟩ w1 s1 (by decide)
  rw [f12a, f12c] at C1
  go_upto_region 6 with (first | (go_at_call 13; refine C1.mono ?_; rintro e w2 ⟨rfl, s2, hb2⟩; have C2 := setS_any _ _ ⟨#[97]⟩ ⟨#[50]⟩ w2 s2 (by simp); rw [f12b, f12d] at C2; clear C1) | (go_at_call 13; refine C2.mono ?_; rintro e w3 ⟨rfl, s3, hb3⟩; have C3 := stGet_any _ _ ⟨#[97]⟩ w3 s3 (by simp); rw [f12g, f12f] at C3; clear C2) | (go_at_call 14; refine C3.mono ?_; rintro e w4 ⟨rfl, hb4⟩))
  have s4 := s3.kept hb4
  have C4 := fun W (h : Below w4.heap.size w4 W) => dropNone_any _ _ ⟨#[98]⟩ W (s4.kept h) (by simp) f12e
  have C5 := fun W (h : Below w4.heap.size w4 W) => stLen_any _ _ W (s4.kept h)
  simp only [List.length_singleton] at C5
  go_wp2_with (first | (go_at_call 15; refine (C4 _ (Below.refl _ _)).mono ?_; rintro e w5 ⟨rfl, hb5⟩) | (go_at_call 17; refine (C5 _ hb5).mono ?_; rintro e w6 ⟨rfl, hb6⟩))
  go_ret
  have e1 := hb1.size
  exact ⟨by first | rfl | simp, ((((hb1.trans (hb2.mono (Nat.le_refl _))).trans (hb3.mono (Nat.le_refl _))).trans (hb4.mono (by have := hb2.size; have := hb3.size; omega))).trans (hb5.mono (by have := hb2.size; have := hb3.size; have := hb4.size; omega))).trans (hb6.mono (by have := hb2.size; have := hb3.size; have := hb4.size; have := hb5.size; omega))⟩
end Go.Proofs.YtpledhipdiephaaDoor
