/- Texts of ends and keys: the program's own, walked. -/
import Derived.Test.YtemmblfjmhcenaaDoorNum
import Derived.Test.YtemmblfjmhcenaaDoorShelf
import Derived.BigQuiet
import Derived.Lib.ItoaLen
import Derived.Lib.AppendIntMem
import Derived.Lib.IndexMore
import Derived.WalkKit
import Derived.ProofKit
import Derived.Handy
import Derived.Below
import Derived.BigQuiet
import Derived.Lib.Hide
import Derived.IntWalk
import Derived.Outline
import Derived.WalkLawsBesides
import Derived.WalkSpells
namespace Go.Proofs.YtemmblfjmhcenaaDoor
open Go.RowKit
attribute [local go_sem] strV
/-- What the library asks of the world: MaxLen's cell holds some number, the powers of ten stand as laid. -/
def PW (w : World) : Prop := (∃ m, w.cell? ⟨0, 0, none⟩ = some (.int .i64 m)) ∧ Lib.TabIs Tryd.prog w "internal/strconv.uint64pow10" .u64 Lib.pow10Tab
theorem PW.size {w : World} (h : PW w) : 1 < w.heap.size := by
  obtain ⟨_, h⟩ := h
  have hgn : Tryd.prog.globalNamed "internal/strconv.uint64pow10" = some 1 := by kernel_rfl
  unfold Lib.TabIs World.var? at h
  rw [hgn] at h
  simp only [Option.bind_some] at h
  rcases Nat.lt_or_ge 1 w.heap.size with h' | h'
  · exact h'
  · rw [Array.getElem?_eq_none h'] at h; cases h
theorem PW.below {w w' : World} (h : PW w) (hb : Below w.heap.size w w') : PW w' := by
  have hs := h.size
  obtain ⟨⟨m, hm⟩, ht⟩ := h
  refine ⟨⟨m, (hb.cell (p := ⟨0, 0, none⟩) (show 0 < w.heap.size by omega)).trans hm⟩, ?_⟩
  have hgn : Tryd.prog.globalNamed "internal/strconv.uint64pow10" = some 1 := by kernel_rfl
  unfold Lib.TabIs World.var? at ht ⊢
  rw [hgn] at ht ⊢
  simp only [Option.bind_some] at ht ⊢
  rw [hb.block 1 hs]
  exact ht
/-- The decimal digits of a number. -/
def itB (n : Int) : ByteArray := ⟨(Lib.itoa n).toArray⟩
theorem itB_size (n : Int) (h0 : -9223372036854775808 ≤ n) (h1 : n ≤ 9223372036854775807) : (itB n).size ≤ 21 := by
  have := Lib.itoa_length_le n h0 h1
  unfold itB; rw [← str_len]; exact this
theorem itoa_any (n : Int) (w : World) (hW : PW w) (h0 : -9223372036854775808 ≤ n) (h1 : n ≤ 9223372036854775807) :
    Calls Tryd.prog 30 #[.int .i64 n] w fun e w' => e = .returned (.string (itB n)) ∧ Below w.heap.size w w' :=
  (Tryd.strconv_Itoa n h0 h1 w hW.2).mono fun e w' ⟨he, k, os, hw⟩ => ⟨he, by rw [hw]; exact Lib.below_grow _ _ (Nat.le_refl _) _ _⟩
def cutL (s sep : ByteArray) : List UInt8 × List UInt8 × Bool := Lib.cut s.data.toList sep.data.toList
theorem cut_any (s sep : ByteArray) (w : World) (hW : PW w) (hs : s.size < 4294967281) :
    Calls Tryd.prog 26 #[.string s, .string sep] w fun e w' => e = .returned (.tuple #[.string ⟨(cutL s sep).1.toArray⟩, .string ⟨(cutL s sep).2.1.toArray⟩, .bool (cutL s sep).2.2]) ∧ Below w.heap.size w w' := by
  obtain ⟨⟨m, hm⟩, _⟩ := hW
  exact (Tryd.strings_Cut s sep m w hs hm).mono fun e w' ⟨he, n, hw⟩ => ⟨he, by rw [hw]; exact drewN_below _ _⟩

/-- The text of an end. -/
def textE (p : ByteArray) (c : Int) : ByteArray := if mayE p c = true then p ++ ⟨#[47]⟩ ++ ⟨#[99, 104, 97, 110, 110, 101, 108, 45]⟩ ++ itB c else ⟨#[]⟩
theorem mayE_bd {p : ByteArray} {c : Int} (h : mayE p c = true) : p.size ≤ 12 ∧ 0 ≤ c ∧ c ≤ 999 := by
  unfold mayE nmB nameP at h
  simp only [Bool.and_eq_true, decide_eq_true_eq, str_len] at h
  exact ⟨by omega, by omega, by omega⟩
set_option maxRecDepth 100000 in
set_option maxHeartbeats 1600000 in
theorem text_any (p : ByteArray) (c : Int) (w : World) (hW : PW w) (hp : p.size ≤ maxLen) :
    Calls Tryd.prog 17 #[.agg #[.string p, .int .i64 c]] w fun e w' => e = .returned (.string (textE p c)) ∧ Below w.heap.size w w' := by
  cases hm : mayE p c
  · have HR : Hid (textE p c = ⟨#[]⟩) := Lib.hid (by unfold textE; rw [hm]; rfl)
    go_enter Tryd.func17, Tryd.ntmps17
    go_wp2_with (go_at_call 13; refine (mayEnd_any _ _ _ (by with_reducible assumption)).mono ?_; rintro e w1 ⟨rfl, hb⟩; rw [hm]; obtain ⟨hc1, hf1⟩ := bcell hb; have hz1 : w.heap.size < w1.heap.size := (by have := hb.size; (try simp at this); omega))
    go_ret
    exact ⟨by rw [HR.out]; first | done | rfl, by repeat (first | assumption | exact Below.refl _ _ | refine bch ?_ (by assumption) | refine Below.alloc ?_ (by simp) _)⟩
  · obtain ⟨h12, hc0, hc9⟩ := mayE_bd hm
    have hit := itB_size c (by omega) (by omega)
    have HR : Hid (textE p c = p ++ ⟨#[47]⟩ ++ ⟨#[99, 104, 97, 110, 110, 101, 108, 45]⟩ ++ itB c) := Lib.hid (by unfold textE; rw [hm]; rfl)
    go_enter Tryd.func17, Tryd.ntmps17
    go_wp2_with (go_at_call 13; refine (mayEnd_any _ _ _ (by with_reducible assumption)).mono ?_; rintro e w1 ⟨rfl, hb⟩; rw [hm]; obtain ⟨hc1, hf1⟩ := bcell hb; have hz1 : w.heap.size < w1.heap.size := (by have := hb.size; (try simp at this); omega); obtain ⟨hbc, hbf⟩ := beyond_cells (W := w1); have hbel1 : Below w.heap.size w w1 := by repeat (first | assumption | exact Below.refl _ _ | refine bch ?_ (by assumption) | refine Below.alloc ?_ (by simp) _))
    have C1 : ∀ n : Beyond w1, Calls Tryd.prog 30 #[.int .i64 c] n.x fun e w' => e = .returned (.string (itB c)) ∧ Below n.x.heap.size n.x w' := fun n => itoa_any c n.x (hW.below (bch hbel1 n.h)) (by omega) (by omega)
    refine wp_region_below (by kernel_rfl) (by kernel_rfl) ?_
    repeat (go_big_quiet_step ((go_at_call 30; exact quiet_below (C1 _))))
    intro w9 hw9
    have hb9 := beyond_below hw9
    go_wp2
    go_ret
    exact ⟨by rw [HR.out]; first | done | rfl, bch hbel1 hb9⟩
end Go.Proofs.YtemmblfjmhcenaaDoor
