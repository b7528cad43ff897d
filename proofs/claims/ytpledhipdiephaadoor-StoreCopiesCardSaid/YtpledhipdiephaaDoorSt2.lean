/- store.find, New, Len. -/
import Derived.Test.YtpledhipdiephaaDoorSt1
import Derived.BigRegion
import Derived.RegionTactic
import Derived.BigQuiet
import Derived.Deep.QuietTactic
import Derived.Deep.MidRow
import Derived.LoopTactic
import Derived.BigFrame
import Derived.WalkKit
import Derived.ProofKit
import Derived.Handy
import Derived.Below
import Derived.Lib.Hide
import Derived.IntWalk
import Derived.Outline
import Derived.WalkLawsBesides
import Derived.WalkSpells
namespace Go.Proofs.YtpledhipdiephaaDoor
open Go.RowKit
attribute [local go_sem] strV
set_option linter.unusedVariables false
set_option maxRecDepth 100000 in
set_option maxHeartbeats 1600000 in
theorem find_any (g : Nat) (a : Option Addr) (n cap : Nat) (l : List Pr) (key : ByteArray) (w : World) (hg : w.heap[g]? = some (.cells #[.slice a n cap] 93 (0, 0))) (hr : RowAt w a (l.flatMap Pr.cells)) (hn : l.length = n) (hcap : n ≤ cap) (hcm : cap ≤ maxLen) (hn6 : n ≤ 1000000) (hso : sortedL l) :
    Calls Tryd.prog 49 #[.pointer (some ⟨g, 0, none⟩), .string key] w fun e w' => e = .returned (.tuple #[.int .i64 (placeL l key : Nat), .bool (foundL l key)]) ∧ Below w.heap.size w w' := by
  have CS := fun W (hb : Below w.heap.size w W) => search_any a n cap l key W (hr.below hb) hn hcap hcm hn6 hso
  have c0 : w.cell? ⟨g, 0, none⟩ = some (.slice a n cap) := cell_heap hg 0
  go_enter Tryd.func49, Tryd.ntmps49
  go_wp2_with (go_at_call 71; refine (CS _ (Below.refl _ _)).mono ?_; rintro e w2 ⟨rfl, hb⟩)
  go_returns
  exact ⟨by first | rfl | simp, hb⟩
set_option maxHeartbeats 1600000 in
theorem len_any (g : Nat) (a : Option Addr) (n cap : Nat) (w : World) (hg : w.heap[g]? = some (.cells #[.slice a n cap] 93 (0, 0))) :
    Calls Tryd.prog 17 #[.pointer (some ⟨g, 0, none⟩)] w fun e w' => e = .returned (.int .i64 (n : Int)) ∧ Below w.heap.size w w' := by
  have c0 : w.cell? ⟨g, 0, none⟩ = some (.slice a n cap) := cell_heap hg 0
  go_enter Tryd.func17, Tryd.ntmps17
  go_wp2
  go_ret
  exact ⟨by first | rfl | simp, Below.refl _ _⟩
set_option maxHeartbeats 1600000 in
theorem new_any (w : World) : Calls Tryd.prog 12 #[] w fun e w' => e = .returned (.pointer (some ⟨w.heap.size, 0, none⟩)) ∧ w'.heap[w.heap.size]? = some (.cells #[.slice none 0 0] 93 (0, 0)) ∧ Below w.heap.size w w' := by
  have hq := heap_push w #[.slice none 0 0] 93
  have hb : Below w.heap.size w (w.alloc (.cells #[.slice none 0 0] 93)) := Below.alloc (Below.refl _ _) (Nat.le_refl _) _
  go_enter Tryd.func12, Tryd.ntmps12
  go_wp2
  go_ret
  exact ⟨rfl, hq, hb⟩
def getV (l : List Pr) (key : ByteArray) : ByteArray := if foundL l key = true then (match l[placeL l key]? with | some p => p.v | none => ⟨#[]⟩) else ⟨#[]⟩
set_option maxRecDepth 100000 in
set_option maxHeartbeats 1600000 in
theorem get_any (g : Nat) (a : Option Addr) (n cap : Nat) (l : List Pr) (key : ByteArray) (w : World) (hg : w.heap[g]? = some (.cells #[.slice a n cap] 93 (0, 0))) (hr : RowAt w a (l.flatMap Pr.cells)) (hn : l.length = n) (hcap : n ≤ cap) (hcm : cap ≤ maxLen) (hn6 : n ≤ 1000000) (hso : sortedL l) :
    Calls Tryd.prog 14 #[.pointer (some ⟨g, 0, none⟩), .string key] w fun e w' => e = .returned (.tuple #[.string (getV l key), .bool (foundL l key)]) ∧ Below w.heap.size w w' := by
  have CF := find_any g a n cap l key w hg hr hn hcap hcm hn6 hso
  have hgl := (Array.getElem?_eq_some_iff.1 hg).1
  unfold getV
  obtain ⟨fd, hfd⟩ : ∃ b, foundL l key = b := ⟨_, rfl⟩
  obtain ⟨k, hk⟩ : ∃ k, placeL l key = k := ⟨_, rfl⟩
  simp only [hfd, hk] at CF ⊢
  cases fd
  · simp only [Bool.false_eq_true, if_false]
    go_enter Tryd.func14, Tryd.ntmps14
    go_wp2_with (go_at_call 49; refine CF.mono ?_; rintro e w2 ⟨rfl, hb⟩)
    go_returns
    exact ⟨by first | rfl | simp, hb⟩
  have hkl : k < l.length := by
    unfold foundL at hfd
    rw [hk] at hfd
    rcases Nat.lt_or_ge k l.length with h | h
    · exact h
    · rw [List.getElem?_eq_none h] at hfd; cases hfd
  have hkn : k < n := by omega
  obtain ⟨b1, o1, rfl, hb1, hg1⟩ := pr_range hr hkl
  rw [List.getElem?_eq_getElem hkl]
  obtain ⟨⟨pk, pv⟩, hp⟩ : ∃ p, l[k] = p := ⟨_, rfl⟩
  rw [hp] at hg1
  simp only [hp, if_true]
  have c1 : w.cell? ⟨b1, o1 + k * 2 + 1, none⟩ = some (.string pv) := hg1 1 _ rfl
  have n0 : (0 : Int) ≤ (k : Int) := by omega
  have n1 : (k : Int) < (n : Int) := by omega
  have n2 : ((k : Nat) : Int).toNat = k := by omega
  clear hg1 hp hfd hk
  go_enter Tryd.func14, Tryd.ntmps14
  go_wp2_with (go_at_call 49; refine CF.mono ?_; rintro e w2 ⟨rfl, hb⟩; have c0 := cell_heap (cells_of hg hb hgl) 0; have c2 := (hb.cell (p := ⟨b1, o1 + k * 2 + 1, none⟩) hb1).trans c1)
  go_returns
  exact ⟨by first | rfl | simp, hb⟩
end Go.Proofs.YtpledhipdiephaaDoor
