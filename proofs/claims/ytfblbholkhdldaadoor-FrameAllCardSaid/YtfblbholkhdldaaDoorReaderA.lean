/- Both readers at whatever error they bear: one function for each question. -/
import Derived.Test.YtfblbholkhdldaaDoorReader3
import Derived.Test.YtfblbholkhdldaaDoorReaderE
import Derived.Test.YtfblbholkhdldaaDoorReaderT
import Derived.Test.YtfblbholkhdldaaDoorReaderV
import Derived.Test.YtfblbholkhdldaaDoorReaderK
import Derived.Test.YtfblbholkhdldaaDoorReaderK2
import Derived.WalkKit
import Derived.ProofKit
import Derived.Handy
import Derived.Below
import Derived.BigQuiet
import Derived.Lib.Hide
import Derived.IntWalk
import Derived.Outline
import Derived.WalkLawsBesides
import Derived.WalkSpells
namespace Go.Proofs.YtfblbholkhdldaaDoor
open Go.RowKit
attribute [local go_sem] strV
def zrow : Array Value := #[.int .u8 0, .int .u8 0, .int .u8 0, .int .u8 0, .int .u8 0, .int .u8 0, .int .u8 0, .int .u8 0, .int .u8 0, .int .u8 0, .int .u8 0, .int .u8 0, .int .u8 0, .int .u8 0, .int .u8 0, .int .u8 0, .int .u8 0, .int .u8 0, .int .u8 0, .int .u8 0, .int .u8 0, .int .u8 0, .int .u8 0, .int .u8 0, .int .u8 0, .int .u8 0, .int .u8 0, .int .u8 0, .int .u8 0, .int .u8 0, .int .u8 0, .int .u8 0]
def numG (s : ByteArray) (at_ err least most : Int) : Int × Int × Int := if err = 0 then numF s at_ least most else (0, at_, err)
def countG (s : ByteArray) (at_ err most : Int) : Int × Int × Int := if err = 0 then countF s at_ most else (0, at_, err)
def textG (s : ByteArray) (at_ err most : Int) : ByteArray × Int × Int := if err = 0 then textF s at_ most else (⟨#[]⟩, at_, err)
def hashG (s : ByteArray) (at_ err : Int) : Array Value × Int × Int := if err = 0 then (if (s.size : Int) - at_ < 32 then (zrow, at_, 2) else (hrow (hashL s at_), at_ + 32, 0)) else (zrow, at_, err)
/-- Where a reader stands is within its text. -/
theorem numF_in_text {s : ByteArray} {at_ least most : Int} (h0 : 0 ≤ at_) (h1 : at_ ≤ s.size) : 0 ≤ (numF s at_ least most).2.1 ∧ (numF s at_ least most).2.1 ≤ s.size := by
  obtain ⟨v, n, er, hx⟩ : ∃ v n er, nextS s.data.toList at_ = (v, n, er) := ⟨_, _, _, rfl⟩
  by_cases he : er = 0
  · subst he
    by_cases ho : v < least ∨ most < v
    · rw [numF_out hx ho]; exact ⟨h0, h1⟩
    · rw [numF_in hx ho]
      obtain ⟨i, m, X, rfl, rfl, rfl, hm1, hle, _⟩ := next_ok hx
      rw [str_len] at hle
      exact ⟨by simp; omega, by simp; omega⟩
  · rw [numF_err hx he]; exact ⟨h0, h1⟩
theorem countF_in_text {s : ByteArray} {at_ most : Int} (h0 : 0 ≤ at_) (h1 : at_ ≤ s.size) : 0 ≤ (countF s at_ most).2.1 ∧ (countF s at_ most).2.1 ≤ s.size := by
  obtain ⟨v, n, er, hx⟩ : ∃ v n er, nextS s.data.toList at_ = (v, n, er) := ⟨_, _, _, rfl⟩
  unfold countF; rw [hx]
  by_cases he : er = 0
  · subst he
    obtain ⟨i, m, X, rfl, rfl, rfl, hm1, hle, _⟩ := next_ok hx
    rw [str_len] at hle
    simp only [if_pos trivial]
    split
    · exact ⟨h0, h1⟩
    · exact ⟨by simp; omega, by simp; omega⟩
  · simp only [if_neg he]; exact ⟨h0, h1⟩
theorem textF_in_text {s : ByteArray} {at_ most : Int} (h0 : 0 ≤ at_) (h1 : at_ ≤ s.size) : 0 ≤ (textF s at_ most).2.1 ∧ (textF s at_ most).2.1 ≤ s.size := by
  obtain ⟨v, n, er, hx⟩ : ∃ v n er, nextS s.data.toList at_ = (v, n, er) := ⟨_, _, _, rfl⟩
  unfold textF; rw [hx]
  by_cases he : er = 0
  · subst he
    obtain ⟨i, m, X, rfl, rfl, rfl, hm1, hle, _⟩ := next_ok hx
    rw [str_len] at hle
    simp only [if_pos trivial]
    split
    · exact ⟨h0, h1⟩
    · split
      · exact ⟨h0, h1⟩
      · exact ⟨by simp; omega, by simp; omega⟩
  · simp only [if_neg he]; exact ⟨h0, h1⟩
theorem numG_in {s : ByteArray} {at_ err least most : Int} (h : 0 ≤ at_ ∧ at_ ≤ s.size) : 0 ≤ (numG s at_ err least most).2.1 ∧ (numG s at_ err least most).2.1 ≤ s.size := by
  unfold numG; split
  · exact numF_in_text h.1 h.2
  · exact h
theorem countG_in {s : ByteArray} {at_ err most : Int} (h : 0 ≤ at_ ∧ at_ ≤ s.size) : 0 ≤ (countG s at_ err most).2.1 ∧ (countG s at_ err most).2.1 ≤ s.size := by
  unfold countG; split
  · exact countF_in_text h.1 h.2
  · exact h
theorem textG_in {s : ByteArray} {at_ err most : Int} (h : 0 ≤ at_ ∧ at_ ≤ s.size) : 0 ≤ (textG s at_ err most).2.1 ∧ (textG s at_ err most).2.1 ≤ s.size := by
  unfold textG; split
  · exact textF_in_text h.1 h.2
  · exact h
theorem hashG_in {s : ByteArray} {at_ err : Int} (h : 0 ≤ at_ ∧ at_ ≤ s.size) : 0 ≤ (hashG s at_ err).2.1 ∧ (hashG s at_ err).2.1 ≤ s.size := by
  unfold hashG; split
  · split
    · exact h
    · exact ⟨by simp; omega, by simp; omega⟩
  · exact h
theorem hashG_size {s : ByteArray} {at_ err : Int} (h : 0 ≤ at_ ∧ at_ ≤ s.size) : (hashG s at_ err).1.size = 32 := by
  unfold hashG; split
  · split
    · rfl
    · exact (hrow_size _).trans (hashL_len s at_ h.1 (by omega))
  · rfl
set_option maxRecDepth 100000 in
set_option maxHeartbeats 1600000 in
theorem qnum_err (b : Nat) (w : World) (s : ByteArray) (at_ err : Int) (least most : Int) (h : QAt b w s at_ err) (he : (err == 0) = false) :
    Calls Tryd.prog 98 #[.pointer (some ⟨b, 0, none⟩), .int .i64 least, .int .i64 most] w fun e w' => e = .returned (.int .i64 0) ∧ Below w.heap.size w w' := by
  have c0 := h.c0; have c1 := h.c1; have c2 := h.c2
  go_enter Tryd.func98, Tryd.ntmps98
  go_wp2
  go_returns
  exact ⟨rfl, by first | exact Below.refl _ _ | exact drewN_below _ _⟩
set_option maxRecDepth 100000 in
set_option maxHeartbeats 1600000 in
theorem qtext_err (b : Nat) (w : World) (s : ByteArray) (at_ err : Int) (most : Int) (h : QAt b w s at_ err) (he : (err == 0) = false) :
    Calls Tryd.prog 97 #[.pointer (some ⟨b, 0, none⟩), .int .i64 most] w fun e w' => e = .returned (.string ⟨#[]⟩) ∧ Below w.heap.size w w' := by
  have c0 := h.c0; have c1 := h.c1; have c2 := h.c2
  go_enter Tryd.func97, Tryd.ntmps97
  go_wp2
  go_returns
  exact ⟨rfl, by first | exact Below.refl _ _ | exact drewN_below _ _⟩
theorem rnum_all (b : Nat) (w : World) (s : ByteArray) (at_ err : Int) (least most : Int) (h : RAt b w s at_ err) (hs : s.size ≤ 1000000000) :
    Calls Tryd.prog 95 #[.pointer (some ⟨b, 0, none⟩), .int .i64 least, .int .i64 most] w fun e w' => e = .returned (.int .i64 (numG s at_ err least most).1) ∧ RAt b w' s (numG s at_ err least most).2.1 (numG s at_ err least most).2.2 ∧ Kept b w w' := by
  unfold numG
  by_cases he : err = 0
  · subst he
    rw [if_pos rfl]
    exact rnum_kept b w s at_ least most h (by unfold maxLen; omega)
  · rw [if_neg he]
    refine (rnum_err b w s at_ err least most h (beq_eq_false_iff_ne.2 he)).mono ?_
    rintro e w' ⟨rfl, hb⟩
    exact ⟨rfl, h.below hb h.lt, Kept.of hb⟩
theorem qnum_all (b : Nat) (w : World) (s : ByteArray) (at_ err : Int) (least most : Int) (h : QAt b w s at_ err) (hs : s.size ≤ 1000000000) :
    Calls Tryd.prog 98 #[.pointer (some ⟨b, 0, none⟩), .int .i64 least, .int .i64 most] w fun e w' => e = .returned (.int .i64 (numG s at_ err least most).1) ∧ QAt b w' s (numG s at_ err least most).2.1 (numG s at_ err least most).2.2 ∧ Below b w w' := by
  unfold numG
  by_cases he : err = 0
  · subst he
    rw [if_pos rfl]
    exact qnum_any b b w s at_ least most h hs (Nat.le_refl _)
  · rw [if_neg he]
    refine (qnum_err b w s at_ err least most h (beq_eq_false_iff_ne.2 he)).mono ?_
    rintro e w' ⟨rfl, hb⟩
    exact ⟨rfl, h.below hb h.lt, hb.mono (Nat.le_of_lt h.lt)⟩
theorem rtext_all (b : Nat) (w : World) (s : ByteArray) (at_ err : Int) (most : Int) (h : RAt b w s at_ err) (hs : s.size ≤ 1000000000) :
    Calls Tryd.prog 96 #[.pointer (some ⟨b, 0, none⟩), .int .i64 most] w fun e w' => e = .returned (.string (textG s at_ err most).1) ∧ RAt b w' s (textG s at_ err most).2.1 (textG s at_ err most).2.2 ∧ Kept b w w' := by
  unfold textG
  by_cases he : err = 0
  · subst he
    rw [if_pos rfl]
    exact rtext_kept b w s at_ most h hs
  · rw [if_neg he]
    refine (rtext_err b w s at_ err most h (beq_eq_false_iff_ne.2 he)).mono ?_
    rintro e w' ⟨rfl, hb⟩
    exact ⟨rfl, h.below hb h.lt, Kept.of hb⟩
theorem qtext_all (b : Nat) (w : World) (s : ByteArray) (at_ err : Int) (most : Int) (h : QAt b w s at_ err) (hs : s.size ≤ 1000000000) :
    Calls Tryd.prog 97 #[.pointer (some ⟨b, 0, none⟩), .int .i64 most] w fun e w' => e = .returned (.string (textG s at_ err most).1) ∧ QAt b w' s (textG s at_ err most).2.1 (textG s at_ err most).2.2 ∧ Below b w w' := by
  unfold textG
  by_cases he : err = 0
  · subst he
    rw [if_pos rfl]
    exact qtext_any b b w s at_ most h hs (Nat.le_refl _)
  · rw [if_neg he]
    refine (qtext_err b w s at_ err most h (beq_eq_false_iff_ne.2 he)).mono ?_
    rintro e w' ⟨rfl, hb⟩
    exact ⟨rfl, h.below hb h.lt, hb.mono (Nat.le_of_lt h.lt)⟩
end Go.Proofs.YtfblbholkhdldaaDoor
