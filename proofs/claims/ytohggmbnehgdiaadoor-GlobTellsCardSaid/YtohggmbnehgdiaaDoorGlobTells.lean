/- GlobTells, walked. -/
import Derived.Test.YtohggmbnehgdiaaDoorGlobParts
import Derived.Test.YtohggmbnehgdiaaDoorGlobPlainR
import Derived.Test.YtohggmbnehgdiaaDoorGlobRefM
import Derived.WalkKit
import Derived.ProofKit
import Derived.Handy
import Derived.Below
import Derived.BigQuiet
import Derived.Lib.Hide
import Derived.IntWalk
import Derived.Outline
import Derived.WalkLawsBesides
import Derived.WalkSpells
namespace Go.Proofs.YtohggmbnehgdiaaDoor
open Go.RowKit
attribute [local go_sem] strV
theorem refMayB_any (q : ByteArray) (w : World) (hq : q.size ≤ maxLen) :
    Calls Tryd.prog 9 #[.string q] w fun e w' => e = .returned (.bool (mayB q)) ∧ Below w.heap.size w w' :=
  (refMay_any q w hq).mono fun e w' ⟨h1, h2⟩ => ⟨h1, by rw [h2]; exact Below.refl _ _⟩
theorem refPlainB_any (q : ByteArray) (w : World) (hq : q.size ≤ maxLen) :
    Calls Tryd.prog 13 #[.string q] w fun e w' => e = .returned (.bool (plB q)) ∧ Below w.heap.size w w' :=
  (refPlain_any q w hq).mono fun e w' ⟨h1, h2⟩ => ⟨h1, by rw [h2]; exact Below.refl _ _⟩
theorem refMatchB_any (q x : ByteArray) (w : World) (hq : q.size ≤ maxLen) (hx : x.size ≤ 1000000) :
    Calls Tryd.prog 11 #[.string q, .string x] w fun e w' => e = .returned (.bool (gmB q x)) ∧ Below w.heap.size w w' := refMatch_any q x w hq hx

set_option maxRecDepth 100000 in
set_option maxHeartbeats 6400000 in
theorem walkGlobTells (p s : ByteArray) (w : World) (hp : p.size ≤ maxLen) (hs : s.size ≤ maxLen) :
    Calls Tryd.prog 3 #[.string p, .string s] w fun e w' => e = .returned (.bool true) ∧ Below w.heap.size w w' := by
  by_cases h1 : 60 < p.size
  · go_enter Tryd.func3, Tryd.ntmps3
    go_wp2_with (go_at_call 7; refine (first20_any _).mono ?_; rintro e w1 ⟨rfl, hb⟩)
    go_ret
    exact ⟨rfl, by repeat (first | assumption | exact Below.refl _ _ | refine bch ?_ (by assumption) | refine Below.alloc ?_ (by simp) _)⟩
  by_cases h3 : 200 < s.size
  · go_enter Tryd.func3, Tryd.ntmps3
    go_wp2_with (go_at_call 7; refine (first20_any _).mono ?_; rintro e w1 ⟨rfl, hb⟩)
    go_ret
    exact ⟨rfl, by repeat (first | assumption | exact Below.refl _ _ | refine bch ?_ (by assumption) | refine Below.alloc ?_ (by simp) _)⟩
  have hs1 : s.size ≤ 1000000 := by omega
  cases HPA : mayB p <;> cases HPM : gmB p s <;> cases HPP : plB p
  all_goals
    go_enter Tryd.func3, Tryd.ntmps3
    go_wp2_with (first | (go_at_call 7; refine (first20_any _).mono ?_; rintro e w1 ⟨rfl, hb⟩) | (go_at_call 8; refine (mayB_any _ _ (by with_reducible assumption)).mono ?_; rintro e w1 ⟨rfl, hb⟩; rw [HPA]) | (go_at_call 9; refine (refMayB_any _ _ (by with_reducible assumption)).mono ?_; rintro e w1 ⟨rfl, hb⟩; rw [HPA]) | (go_at_call 10; refine (matchB_any _ _ _ (by with_reducible assumption) (by with_reducible assumption)).mono ?_; rintro e w1 ⟨rfl, hb⟩; rw [HPM]) | (go_at_call 11; refine (refMatchB_any _ _ _ (by with_reducible assumption) (by with_reducible assumption)).mono ?_; rintro e w1 ⟨rfl, hb⟩; rw [HPM]) | (go_at_call 12; refine (plainB_any _ _ (by with_reducible assumption)).mono ?_; rintro e w1 ⟨rfl, hb⟩; rw [HPP]) | (go_at_call 13; refine (refPlainB_any _ _ (by with_reducible assumption)).mono ?_; rintro e w1 ⟨rfl, hb⟩; rw [HPP]))
    go_ret
    exact ⟨rfl, by repeat (first | assumption | exact Below.refl _ _ | refine bch ?_ (by assumption) | refine Below.alloc ?_ (by simp) _)⟩
end Go.Proofs.YtohggmbnehgdiaaDoor
