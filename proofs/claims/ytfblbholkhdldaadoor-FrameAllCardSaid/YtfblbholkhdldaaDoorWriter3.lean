/- A Writer of package wire that bears an error, or comes to bear one. -/
import Derived.Test.YtfblbholkhdldaaDoorWriter2
import Derived.BigQuiet
import Derived.BigRegion
import Derived.RegionTactic
import Derived.WalkKit
import Derived.ProofKit
import Derived.Handy
import Derived.Below
import Derived.BigQuiet
import Derived.Lib.Hide
import Derived.IntWalk
import Derived.Outline
import Derived.WalkLawsBesides
import Derived.WalkSpells
namespace Go.Proofs.YtfblbholkhdldaaDoor
open Go.RowKit
attribute [local go_sem] strV
theorem WAt.fr {B b : Nat} {w : World} {l : List UInt8} {err : Int} (h : WAt B b w l err) (k : Nat) : w.frozen? ⟨b, k, none⟩ = false := by
  obtain ⟨hB, p, v, h1, _⟩ := h; exact frozen_heap h1 k
theorem WAt.setErr {B b : Nat} {w : World} {l : List UInt8} {err : Int} (h : WAt B b w l err) (x : Int) : WAt B b (w.setCell ⟨b, 2, none⟩ (.int .i64 x)) l x := by
  obtain ⟨hB, p, v, h1, hp, hown, hne⟩ := h
  refine ⟨hB, p, v, ?_, hp, ownsRow_setCell_other hown (a := ⟨b, 2, none⟩) hne _, hne⟩
  simp [World.setCell, Array.getElem?_modify, h1]
set_option maxRecDepth 100000 in
set_option maxHeartbeats 1600000 in
theorem wadd_err (B b : Nat) (w : World) (l : List UInt8) (err : Int) (s : ByteArray) (h : WAt B b w l err) (he : (err == 0) = false) :
    Calls Tryd.prog 104 #[.pointer (some ⟨b, 0, none⟩), .string s] w fun e w' => e = .returned (.tuple #[]) ∧ w' = w := by
  have c2 := h.err
  go_enter Tryd.func104, Tryd.ntmps104
  go_wp2
  go_returns
  exact ⟨rfl, by first | rfl | trivial⟩
set_option maxRecDepth 100000 in
set_option maxHeartbeats 1600000 in
theorem wnum_err (B b : Nat) (w : World) (l : List UInt8) (err v : Int) (h : WAt B b w l err) (he : (err == 0) = false) :
    Calls Tryd.prog 89 #[.pointer (some ⟨b, 0, none⟩), .int .i64 v] w fun e w' => e = .returned (.tuple #[]) ∧ WAt B b w' l err ∧ Below w.heap.size w w' := by
  have c2 := h.err
  have hlt := h.lt
  obtain ⟨q, hsv⟩ : ∃ q : ByteArray, strV (putL v) = .string q := ⟨_, rfl⟩
  obtain ⟨x, hx⟩ : ∃ x, (q.toList == []) = x := ⟨_, rfl⟩
  cases x
  all_goals
    go_enter Tryd.func89, Tryd.ntmps89
    go_wp2_with (first | (go_at_call 103; refine (put_any _ _).mono ?_; rintro e w1 ⟨rfl, hb1⟩; rw [hsv]; have h1 := h.below hb1; have d2 := h1.err) | (go_at_call 104; refine (wadd_err B b _ l err q h1 he).mono ?_; rintro e w2 ⟨rfl, hw2⟩; obtain rfl : _ = w2 := hw2.symm))
    go_returns
    exact ⟨rfl, h1, hb1⟩
set_option maxRecDepth 100000 in
set_option maxHeartbeats 1600000 in
theorem wnum_bad (B b : Nat) (w : World) (l : List UInt8) (v : Int) (h : WAt B b w l 0) (hB : B ≤ w.heap.size) (hv : encB v = false) :
    Calls Tryd.prog 89 #[.pointer (some ⟨b, 0, none⟩), .int .i64 v] w fun e w' => e = .returned (.tuple #[]) ∧ WAt B b w' l 1 ∧ Below B w w' := by
  have hsv : strV (putL v) = .string ⟨#[]⟩ := by unfold putL; rw [hv]; rfl
  have hBb : B ≤ b := h.1
  go_enter Tryd.func89, Tryd.ntmps89
  go_wp2_with (first | (go_at_call 103; refine (put_any _ _).mono ?_; rintro e w1 ⟨rfl, hb1⟩; rw [hsv]; have h1 := h.below hb1; have d2 := h1.err; have e2 := h1.fr 2) | (go_at_call 104; refine (wadd_err B b _ l 1 _ (h1.setErr 1) rfl).mono ?_; rintro e w2 ⟨rfl, hw2⟩; obtain rfl : _ = w2 := hw2.symm))
  go_returns
  exact ⟨rfl, h1.setErr 1, (hb1.mono hB).setCell (p := ⟨b, 2, none⟩) hBb _⟩
set_option maxRecDepth 100000 in
set_option maxHeartbeats 1600000 in
theorem wtext_err (B b : Nat) (w : World) (l : List UInt8) (err : Int) (s : ByteArray) (h : WAt B b w l err) (he : (err == 0) = false) (hs : s.size ≤ maxLen) :
    Calls Tryd.prog 90 #[.pointer (some ⟨b, 0, none⟩), .string s] w fun e w' => e = .returned (.tuple #[]) ∧ WAt B b w' l err ∧ Below w.heap.size w w' := by
  have _ := hs
  go_enter Tryd.func90, Tryd.ntmps90
  go_wp2_with (first | (go_at_call 89; refine (wnum_err B b _ l err _ h he).mono ?_; rintro e w1 ⟨rfl, h1, hb1⟩) | (go_at_call 104; refine (wadd_err B b _ l err s h1 he).mono ?_; rintro e w2 ⟨rfl, hw2⟩; obtain rfl : _ = w2 := hw2.symm))
  go_returns
  exact ⟨rfl, h1, hb1⟩
set_option maxRecDepth 100000 in
set_option maxHeartbeats 1600000 in
theorem wbytes_err (B b : Nat) (w : World) (l : List UInt8) (err : Int) (h : WAt B b w l err) (he : (err == 0) = false) :
    Calls Tryd.prog 67 #[.pointer (some ⟨b, 0, none⟩)] w fun e w' => e = .returned (.tuple #[.string ⟨#[]⟩, .int .i64 err]) ∧ Below w.heap.size w w' := by
  have c2 := h.err
  go_enter Tryd.func67, Tryd.ntmps67
  go_wp2
  go_quiet (fail)
  go_wp2
  go_returns
  exact ⟨rfl, drewN_below _ _⟩
end Go.Proofs.YtfblbholkhdldaaDoor
