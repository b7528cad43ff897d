/- GlobParts, walked. -/
import Derived.Test.YtohggmbnehgdiaaDoorGlobStars
import Derived.WalkKit
import Derived.ProofKit
import Derived.Handy
import Derived.Below
import Derived.BigQuiet
import Derived.Lib.Hide
import Derived.IntWalk
import Derived.Outline
import Derived.WalkLawsBesides
import Derived.WalkSpells
namespace Go.Proofs.YtohggmbnehgdiaaDoor
open Go.RowKit
attribute [local go_sem] strV

/-- The answer of May, by its argument; nothing that simp looks into. -/
def mayB (q : ByteArray) : Bool := mayP q.data.toList
theorem mayB_any (q : ByteArray) (w : World) (hq : q.size ≤ maxLen) :
    Calls Tryd.prog 8 #[.string q] w fun e w' => e = .returned (.bool (mayB q)) ∧ Below w.heap.size w w' :=
  (may_any q w hq).mono fun e w' ⟨h1, h2⟩ => ⟨h1, by rw [h2]; exact Below.refl _ _⟩
def cutB (p q s : ByteArray) (k : Nat) : Bool := (List.range k).any fun j => gmB p (s.extract 0 j) && gmB q (s.extract j s.size)
theorem cutB_succ (p q s : ByteArray) (k : Nat) : cutB p q s (k + 1) = (cutB p q s k || (gmB p (s.extract 0 k) && gmB q (s.extract k s.size))) := by
  unfold cutB; rw [List.range_succ, List.any_append]; simp
theorem cutB_end (p q s : ByteArray) (hp : mayB p = true) (hq : mayB q = true) (hpq : mayB (p ++ q) = true) : gmB (p ++ q) s = cutB p q s (s.size + 1) := by
  unfold mayB at hp hq hpq
  unfold gmB cutB matchP
  rw [hpq, Bool.true_and, Bool.eq_iff_iff, str_append, gm_append, List.any_eq_true, str_len]
  simp only [List.mem_range, Bool.and_eq_true, gmB, matchP, hp, hq, str_take, str_drop, true_and]
  constructor
  · rintro ⟨j, h1, h2⟩; exact ⟨j, by omega, h2⟩
  · rintro ⟨j, h1, h2⟩; exact ⟨j, by omega, h2⟩
theorem mayB_app {p q : ByteArray} (hp : mayB p = true) (hq : mayB q = true) (h : p.size + q.size ≤ 40) : mayB (p ++ q) = true := by
  unfold mayB at hp hq ⊢
  rw [str_append]
  have h1 : 1 ≤ p.data.toList.length := by unfold mayP at hp; simp only [Bool.and_eq_true, decide_eq_true_eq] at hp; exact hp.1.1
  exact may_mk (by rw [List.length_append]; omega) (by rw [List.length_append, str_len, str_len]; exact h) (by rw [allL_app, may_all hp, may_all hq]; rfl)

set_option maxRecDepth 100000 in
set_option maxHeartbeats 6400000 in
theorem walkGlobParts (p q s : ByteArray) (w : World) (hp : p.size ≤ maxLen) (hq : q.size ≤ maxLen) (hs : s.size ≤ maxLen) :
    Calls Tryd.prog 6 #[.string p, .string q, .string s] w fun e w' => e = .returned (.bool true) ∧ Below w.heap.size w w' := by
  have hp2 := hp; have hq2 := hq; have hs2 := hs
  unfold maxLen at hp2 hq2 hs2
  by_cases h1 : 40 < p.size
  · go_enter Tryd.func6, Tryd.ntmps6
    go_wp2_with (go_at_call 7; refine (first20_any _).mono ?_; rintro e w1 ⟨rfl, hb⟩)
    go_ret
    exact ⟨rfl, by repeat (first | assumption | exact Below.refl _ _ | refine bch ?_ (by assumption) | refine Below.alloc ?_ (by simp) _)⟩
  by_cases h2 : 40 < p.size + q.size
  · go_enter Tryd.func6, Tryd.ntmps6
    go_wp2_with (go_at_call 7; refine (first20_any _).mono ?_; rintro e w1 ⟨rfl, hb⟩)
    go_ret
    exact ⟨rfl, by repeat (first | assumption | exact Below.refl _ _ | refine bch ?_ (by assumption) | refine Below.alloc ?_ (by simp) _)⟩
  by_cases h3 : 100 < s.size
  · go_enter Tryd.func6, Tryd.ntmps6
    go_wp2_with (go_at_call 7; refine (first20_any _).mono ?_; rintro e w1 ⟨rfl, hb⟩)
    go_ret
    exact ⟨rfl, by repeat (first | assumption | exact Below.refl _ _ | refine bch ?_ (by assumption) | refine Below.alloc ?_ (by simp) _)⟩
  cases HPA : mayB p
  · have HPB := HPA; have HPC := HPA
    go_enter Tryd.func6, Tryd.ntmps6
    go_wp2_with (first | (go_at_call 7; refine (first20_any _).mono ?_; rintro e w1 ⟨rfl, hb⟩) | (go_at_call 8; refine (mayB_any _ _ (by with_reducible assumption)).mono ?_; rintro e w1 ⟨rfl, hb⟩; first | rw [HPA] | rw [HPB] | rw [HPC]))
    go_ret
    exact ⟨rfl, by repeat (first | assumption | exact Below.refl _ _ | refine bch ?_ (by assumption) | refine Below.alloc ?_ (by simp) _)⟩
  cases HPB : mayB q
  · have HPC := HPB
    go_enter Tryd.func6, Tryd.ntmps6
    go_wp2_with (first | (go_at_call 7; refine (first20_any _).mono ?_; rintro e w1 ⟨rfl, hb⟩) | (go_at_call 8; refine (mayB_any _ _ (by with_reducible assumption)).mono ?_; rintro e w1 ⟨rfl, hb⟩; first | rw [HPA] | rw [HPB] | rw [HPC]))
    go_ret
    exact ⟨rfl, by repeat (first | assumption | exact Below.refl _ _ | refine bch ?_ (by assumption) | refine Below.alloc ?_ (by simp) _)⟩
  have HPC : mayB (p ++ q) = true := mayB_app HPA HPB (by omega)
  have HE : Hid (gmB (p ++ q) s = cutB p q s (s.size + 1)) := Lib.hid (cutB_end p q s HPA HPB HPC)
  have S0 : (p ++ q).size ≤ maxLen := by rw [ByteArray.size_append]; unfold maxLen; omega
  go_enter Tryd.func6, Tryd.ntmps6
  go_wp2_with (first | (go_at_call 7; refine (first20_any _).mono ?_; rintro e w1 ⟨rfl, hb⟩) | (go_at_call 8; refine (mayB_any _ _ (by with_reducible assumption)).mono ?_; rintro e w1 ⟨rfl, hb⟩; first | rw [HPA] | rw [HPB] | rw [HPC]))
  go_loopw [7, 8] (fun x i wr => ∃ (k : Nat) (c : Bool), k ≤ s.size + 1 ∧ Below w.heap.size w wr ∧ Hid (cutB p q s k = c) ∧ x = .bool c ∧ i = .int .i64 k) (fun _ i _ => s.size + 1 - (intOf i).toNat)
  case atStart => exact ⟨0, false, by omega, by repeat (first | assumption | exact Below.refl _ _ | refine bch ?_ (by assumption) | refine Below.alloc ?_ (by simp) _), Lib.hid rfl, rfl, rfl⟩
  case round =>
    obtain ⟨k, c, hk, hbel, HC, rfl, rfl⟩ := hrel
    have hzR := hbel.size
    by_cases hlt : k ≤ s.size
    · have S1 : (s.extract 0 k).size ≤ maxLen := by rw [ByteArray.size_extract]; unfold maxLen; omega
      have S2 : (s.extract k s.size).size ≤ maxLen := by rw [ByteArray.size_extract]; unfold maxLen; omega
      cases c
      · cases E1 : gmB p (s.extract 0 k)
        · have E2 := E1
          have HN : Hid (cutB p q s (k + 1) = false) := Lib.hid (by rw [cutB_succ, HC.out, E1]; rfl)
          go_wp2_with (go_at_call 10; refine (matchB_any _ _ _ (by with_reducible assumption) (by with_reducible assumption)).mono ?_; rintro e w1 ⟨rfl, hb⟩; first | rw [E1] | rw [E2])
          go_roundw
          case rel => exact ⟨k + 1, false, by omega, hbel.trans (Below.mono (by assumption) hzR), HN, rfl, by go_num⟩
          case measure => simp [intOf]; omega
        · cases E2 : gmB q (s.extract k s.size)
          · have HN : Hid (cutB p q s (k + 1) = false) := Lib.hid (by rw [cutB_succ, HC.out, E1, E2]; rfl)
            go_wp2_with (go_at_call 10; refine (matchB_any _ _ _ (by with_reducible assumption) (by with_reducible assumption)).mono ?_; rintro e w1 ⟨rfl, hb⟩; first | rw [E1] | rw [E2])
            go_roundw
            case rel => exact ⟨k + 1, false, by omega, hbel.trans (Below.mono (by repeat (first | assumption | exact Below.refl _ _ | refine bch ?_ (by assumption) | refine Below.alloc ?_ (by simp) _)) hzR), HN, rfl, by go_num⟩
            case measure => simp [intOf]; omega
          · have HN : Hid (cutB p q s (k + 1) = true) := Lib.hid (by rw [cutB_succ, HC.out, E1, E2]; rfl)
            go_wp2_with (go_at_call 10; refine (matchB_any _ _ _ (by with_reducible assumption) (by with_reducible assumption)).mono ?_; rintro e w1 ⟨rfl, hb⟩; first | rw [E1] | rw [E2])
            go_roundw
            case rel => exact ⟨k + 1, true, by omega, hbel.trans (Below.mono (by repeat (first | assumption | exact Below.refl _ _ | refine bch ?_ (by assumption) | refine Below.alloc ?_ (by simp) _)) hzR), HN, rfl, by go_num⟩
            case measure => simp [intOf]; omega
      · have HN : Hid (cutB p q s (k + 1) = true) := Lib.hid (by rw [cutB_succ, HC.out]; rfl)
        go_wp2
        go_roundw
        case rel => exact ⟨k + 1, true, by omega, hbel, HN, rfl, by go_num⟩
        case measure => simp [intOf]; omega
    · have HX : gmB (p ++ q) s = c := by rw [HE.out, ← HC.out, show k = s.size + 1 by omega]
      clear HE HC
      go_wp2_with (first | (go_at_call 8; refine (mayB_any _ _ (by with_reducible assumption)).mono ?_; rintro e w1 ⟨rfl, hb⟩; first | rw [HPA] | rw [HPB] | rw [HPC]) | (go_at_call 10; refine (matchB_any _ _ _ (by with_reducible assumption) (by with_reducible assumption)).mono ?_; rintro e w1 ⟨rfl, hb⟩; rw [HX]))
      go_ret
      exact ⟨by cases c <;> rfl, hbel.trans (Below.mono (by repeat (first | assumption | exact Below.refl _ _ | refine bch ?_ (by assumption) | refine Below.alloc ?_ (by simp) _)) hzR)⟩
end Go.Proofs.YtohggmbnehgdiaaDoor
