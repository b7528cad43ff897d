/- Ends: the order, the text in the document's own answer. -/
import Derived.Test.YtemmblfjmhcenaaDoorPathNumber
import Derived.BigQuiet
import Derived.WalkKit
import Derived.ProofKit
import Derived.Handy
import Derived.Below
import Derived.BigQuiet
import Derived.Lib.Hide
import Derived.IntWalk
import Derived.Outline
import Derived.WalkLawsBesides
import Derived.WalkSpells
namespace Go.Proofs.YtemmblfjmhcenaaDoor
open Go.RowKit
attribute [local go_sem] strV
theorem slash_one : (⟨#[47]⟩ : ByteArray) ++ (⟨#[99, 104, 97, 110, 110, 101, 108, 45]⟩ : ByteArray) = (⟨#[47, 99, 104, 97, 110, 110, 101, 108, 45]⟩ : ByteArray) := by decide +kernel
set_option maxRecDepth 100000 in
set_option maxHeartbeats 1600000 in
theorem refText_any (p : ByteArray) (c : Int) (w : World) (hp : p.size ≤ maxLen) :
    Calls Tryd.prog 18 #[.agg #[.string p, .int .i64 c]] w fun e w' => e = .returned (.string (textE p c)) ∧ Below w.heap.size w w' := by
  cases hm : mayE p c
  · have HR : Hid (textE p c = ⟨#[]⟩) := Lib.hid (by unfold textE; rw [hm]; rfl)
    go_enter Tryd.func18, Tryd.ntmps18
    go_wp2_with (go_at_call 14; refine (refMayEnd_any _ _ _ (by with_reducible assumption)).mono ?_; rintro e w1 ⟨rfl, hb⟩; rw [hm]; obtain ⟨hc1, hf1⟩ := bcell hb; have hz1 : w.heap.size < w1.heap.size := (by have := hb.size; (try simp at this); omega); obtain ⟨hbc, hbf⟩ := beyond_cells (W := w1); have hbel1 : Below w.heap.size w w1 := by repeat (first | assumption | exact Below.refl _ _ | refine bch ?_ (by assumption) | refine Below.alloc ?_ (by (try simp) <;> omega) _))
    go_ret
    exact ⟨by rw [HR.out]; first | done | rfl, by repeat (first | assumption | exact Below.refl _ _ | refine bch ?_ (by assumption) | refine Below.alloc ?_ (by (try simp) <;> omega) _)⟩
  · obtain ⟨h12, hc0, hc9⟩ := mayE_bd hm
    have hit := itB_size c (by omega) (by omega)
    have HR : Hid (textE p c = p ++ ⟨#[47, 99, 104, 97, 110, 110, 101, 108, 45]⟩ ++ itB c) := Lib.hid (by unfold textE; rw [hm, ← slash_one, ← ByteArray.append_assoc]; rfl)
    obtain ⟨C, rfl⟩ := Int.eq_ofNat_of_zero_le hc0
    go_enter Tryd.func18, Tryd.ntmps18
    go_wp2_with (go_at_call 14; refine (refMayEnd_any _ _ _ (by with_reducible assumption)).mono ?_; rintro e w1 ⟨rfl, hb⟩; rw [hm]; obtain ⟨hc1, hf1⟩ := bcell hb; have hz1 : w.heap.size < w1.heap.size := (by have := hb.size; (try simp at this); omega); obtain ⟨hbc, hbf⟩ := beyond_cells (W := w1); have hbel1 : Below w.heap.size w w1 := by repeat (first | assumption | exact Below.refl _ _ | refine bch ?_ (by assumption) | refine Below.alloc ?_ (by (try simp) <;> omega) _))
    have C1 : ∀ n : Beyond w1, Calls Tryd.prog 21 #[.int .i64 (C : Int)] n.x fun e w' => e = .returned (.string (itB C)) ∧ Below n.x.heap.size n.x w' := fun n => refDigits_any C (by omega) n.x
    refine wp_region_below (by kernel_rfl) (by kernel_rfl) ?_
    repeat (go_big_quiet_step ((go_at_call 21; exact quiet_below (C1 _))))
    intro w9 hw9
    have hb9 := beyond_below hw9
    go_wp2
    go_ret
    exact ⟨by rw [HR.out]; first | done | rfl, bch hbel1 hb9⟩
def lessE (p : ByteArray) (c : Int) (q : ByteArray) (d : Int) : Bool := if p = q then decide (c < d) else Op.bytesLess p.toList q.toList
theorem less_irrefl (l : List UInt8) : Op.bytesLess l l = false := by
  induction l with
  | nil => rfl
  | cons a l ih => simp [Op.bytesLess, ih]
set_option maxRecDepth 100000 in
set_option maxHeartbeats 1600000 in
theorem less_any (p : ByteArray) (c : Int) (q : ByteArray) (d : Int) (w : World) :
    Calls Tryd.prog 15 #[.agg #[.string p, .int .i64 c], .agg #[.string q, .int .i64 d]] w fun e w' => e = .returned (.bool (lessE p c q d)) ∧ Below w.heap.size w w' := by
  by_cases hpq : p = q
  · subst hpq
    have hb := less_irrefl p.toList
    obtain ⟨x, hx⟩ : ∃ x, decide (c < d) = x := ⟨_, rfl⟩
    have HR : Hid (lessE p c p d = x) := Lib.hid (by unfold lessE; rw [if_pos rfl]; exact hx)
    cases x
    all_goals
      go_enter Tryd.func15, Tryd.ntmps15
      go_wp2
      go_ret
      exact ⟨by rw [HR.out]; first | done | rfl, by repeat (first | assumption | exact Below.refl _ _ | refine bch ?_ (by assumption) | refine Below.alloc ?_ (by (try simp) <;> omega) _)⟩
  · have e1 : (p.toList == q.toList) = false := by rw [ByteArray.toList_eq, ByteArray.toList_eq, beq_eq_false_iff_ne]; exact fun e => hpq (ByteArray.ext (Array.toList_inj.1 e))
    obtain ⟨x, hx⟩ : ∃ x, Op.bytesLess p.toList q.toList = x := ⟨_, rfl⟩
    have HR : Hid (lessE p c q d = x) := Lib.hid (by unfold lessE; rw [if_neg hpq]; exact hx)
    cases x
    all_goals
      go_enter Tryd.func15, Tryd.ntmps15
      go_wp2
      go_ret
      exact ⟨by rw [HR.out]; first | done | rfl, by repeat (first | assumption | exact Below.refl _ _ | refine bch ?_ (by assumption) | refine Below.alloc ?_ (by (try simp) <;> omega) _)⟩
set_option maxRecDepth 100000 in
set_option maxHeartbeats 1600000 in
theorem refLess_any (p : ByteArray) (c : Int) (q : ByteArray) (d : Int) (w : World) :
    Calls Tryd.prog 16 #[.agg #[.string p, .int .i64 c], .agg #[.string q, .int .i64 d]] w fun e w' => e = .returned (.bool (lessE p c q d)) ∧ Below w.heap.size w w' := by
  by_cases hpq : p = q
  · subst hpq
    have hb := less_irrefl p.toList
    obtain ⟨x, hx⟩ : ∃ x, decide (c < d) = x := ⟨_, rfl⟩
    have HR : Hid (lessE p c p d = x) := Lib.hid (by unfold lessE; rw [if_pos rfl]; exact hx)
    cases x
    all_goals
      go_enter Tryd.func16, Tryd.ntmps16
      go_wp2
      go_ret
      exact ⟨by rw [HR.out]; first | done | rfl, by repeat (first | assumption | exact Below.refl _ _ | refine bch ?_ (by assumption) | refine Below.alloc ?_ (by (try simp) <;> omega) _)⟩
  · have e1 : (p.toList == q.toList) = false := by rw [ByteArray.toList_eq, ByteArray.toList_eq, beq_eq_false_iff_ne]; exact fun e => hpq (ByteArray.ext (Array.toList_inj.1 e))
    obtain ⟨x, hx⟩ : ∃ x, Op.bytesLess p.toList q.toList = x := ⟨_, rfl⟩
    have HR : Hid (lessE p c q d = x) := Lib.hid (by unfold lessE; rw [if_neg hpq]; exact hx)
    cases x
    all_goals
      go_enter Tryd.func16, Tryd.ntmps16
      go_wp2
      go_ret
      exact ⟨by rw [HR.out]; first | done | rfl, by repeat (first | assumption | exact Below.refl _ _ | refine bch ?_ (by assumption) | refine Below.alloc ?_ (by (try simp) <;> omega) _)⟩
end Go.Proofs.YtemmblfjmhcenaaDoor
