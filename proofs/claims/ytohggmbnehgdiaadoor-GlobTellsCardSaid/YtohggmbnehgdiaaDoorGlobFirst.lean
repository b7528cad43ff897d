/- The laws of chapter 20: what the examples fix, and GlobPlain. -/
import Derived.Test.YtohggmbnehgdiaaDoorGlobMatch
import Derived.WalkKit
import Derived.ProofKit
import Derived.Handy
import Derived.Below
import Derived.BigQuiet
import Derived.Lib.Hide
import Derived.IntWalk
import Derived.Outline
import Derived.WalkLawsBesides
import Derived.WalkSpells
namespace Go.Proofs.YtohggmbnehgdiaaDoor
open Go.RowKit
attribute [local go_sem] strV

set_option maxRecDepth 100000 in
set_option maxHeartbeats 1600000 in
theorem first20_any (w : World) :
    Calls Tryd.prog 7 #[] w fun e w' => e = .returned (.bool true) ∧ Below w.heap.size w w' := by
  have H1 : Hid (matchP (⟨#[116, 114, 97, 110, 115, 102, 101, 114, 47, 42, 45, 63]⟩ : ByteArray).data.toList (⟨#[116, 114, 97, 110, 115, 102, 101, 114, 47, 99, 104, 97, 110, 110, 101, 108, 45, 55]⟩ : ByteArray).data.toList = true) := Lib.hid (by decide +kernel)
  have H2 : Hid (matchP (⟨#[116, 114, 97, 110, 115, 102, 101, 114, 47, 42, 45, 63]⟩ : ByteArray).data.toList (⟨#[116, 114, 97, 110, 115, 102, 101, 114, 47, 99, 104, 97, 110, 110, 101, 108, 45, 49, 55]⟩ : ByteArray).data.toList = false) := Lib.hid (by decide +kernel)
  have H3 : Hid (matchP (⟨#[116, 114, 97, 110, 115, 102, 101, 114, 47, 42, 45, 63]⟩ : ByteArray).data.toList (⟨#[116, 114, 97, 110, 115, 102, 101, 114, 47, 99, 104, 97, 110, 110, 101, 108]⟩ : ByteArray).data.toList = false) := Lib.hid (by decide +kernel)
  have H4 : Hid (mayP (⟨#[42]⟩ : ByteArray).data.toList = true) := Lib.hid (by decide +kernel)
  have H5 : Hid (plainP (⟨#[42]⟩ : ByteArray).data.toList = false) := Lib.hid (by decide +kernel)
  go_enter Tryd.func7, Tryd.ntmps7
  go_wp2_with (first | (go_at_call 10; refine (match_any _ _ _ (by unfold maxLen; decide) (by unfold maxLen; decide)).mono ?_; rintro e w1 ⟨rfl, hb⟩; first | rw [H1.out] | rw [H2.out] | rw [H3.out]) | (go_at_call 8; refine (may_any _ _ (by unfold maxLen; decide)).mono ?_; rintro e w1 ⟨rfl, hw1⟩; obtain rfl := hw1.symm; rw [H4.out]) | (go_at_call 12; refine (plain_any _ _ (by unfold maxLen; decide)).mono ?_; rintro e w1 ⟨rfl, hb⟩; rw [H5.out]))
  go_ret
  exact ⟨rfl, by repeat (first | assumption | exact Below.refl _ _ | refine bch ?_ (by assumption) | refine Below.alloc ?_ (by simp) _)⟩

theorem gm_self {l : List UInt8} (h : ∀ c ∈ l, c ≠ 42) : gm l l = true := by
  induction l with
  | nil => rfl
  | cons c l ih => rw [gm_one_cons _ _ _ (h c (by simp)), ih (fun d hd => h d (by simp [hd]))]; simp
theorem fixed_self {l : List UInt8} (h : ∀ c ∈ l, c ≠ 42) : fixed l l := ⟨rfl, h, gm_self h⟩
theorem gm_plain {l : List UInt8} (h : ∀ c ∈ l, c ≠ 42) (h2 : ∀ c ∈ l, c ≠ 63) : ∀ s, gm l s = (l == s) := by
  induction l with
  | nil => intro s; rw [gm_nil]; cases s <;> rfl
  | cons c l ih =>
    intro s
    have hc := h c (by simp)
    have hc2 := h2 c (by simp)
    cases s with
    | nil => rw [gm_one_nil _ hc]; rfl
    | cons x s =>
      rw [gm_one_cons _ _ _ hc, ih (fun d hd => h d (by simp [hd])) (fun d hd => h2 d (by simp [hd]))]
      have : (c == 63) = false := beq_eq_false_iff_ne.2 hc2
      rw [this, Bool.false_or]; rfl
theorem plain_no {l : List UInt8} (h : plainL l = true) : (∀ c ∈ l, c ≠ 42) ∧ (∀ c ∈ l, c ≠ 63) := by
  unfold plainL at h
  rw [List.all_eq_true] at h
  constructor <;> (intro c hc e; have := h c hc; subst e; simp at this)
/-- l with a question mark at a. -/
def askL (l : List UInt8) (a : Nat) : List UInt8 := l.take a ++ [63] ++ l.drop (a + 1)
theorem ask_len {l : List UInt8} {a : Nat} (h : a < l.length) : (askL l a).length = l.length := by simp [askL]; omega
theorem ask_no {l : List UInt8} {a : Nat} (h : ∀ c ∈ l, c ≠ 42) : ∀ c ∈ askL l a, c ≠ 42 := by
  intro c hc
  simp only [askL, List.mem_append, List.mem_singleton] at hc
  rcases hc with (hc | hc) | hc
  · exact h c (List.mem_of_mem_take hc)
  · subst hc; decide
  · exact h c (List.mem_of_mem_drop hc)
theorem ask_may {l : List UInt8} {a : Nat} (h : mayP l = true) (ha : a < l.length) : mayP (askL l a) = true := by
  unfold mayP at h ⊢
  rw [ask_len ha]
  simp only [Bool.and_eq_true] at h ⊢
  refine ⟨h.1, ?_⟩
  have h2 := h.2
  unfold allL at h2 ⊢
  rw [List.all_eq_true] at h2 ⊢
  intro c hc
  simp only [askL, List.mem_append, List.mem_singleton] at hc
  rcases hc with (hc | hc) | hc
  · exact h2 c (List.mem_of_mem_take hc)
  · subst hc; rfl
  · exact h2 c (List.mem_of_mem_drop hc)
theorem ask_any {l : List UInt8} {a : Nat} (h : ∀ c ∈ l, c ≠ 42) (x : UInt8) : gm (askL l a) (l.take a ++ [x] ++ l.drop (a + 1)) = true := by
  unfold askL
  rw [List.append_assoc, List.append_assoc, gm_front (fixed_self (fun c hc => h c (List.mem_of_mem_take hc)))]
  show gm (63 :: l.drop (a + 1)) (x :: l.drop (a + 1)) = true
  rw [gm_one_cons _ _ _ (by decide), gm_self (fun c hc => h c (List.mem_of_mem_drop hc))]; rfl
theorem ask_self {l : List UInt8} {a : Nat} (h : ∀ c ∈ l, c ≠ 42) (ha : a < l.length) : gm (askL l a) l = true := by
  have := ask_any (a := a) h l[a]
  rwa [List.append_assoc, List.singleton_append, ← List.drop_eq_getElem_cons ha, List.take_append_drop] at this
theorem ask_not {l s : List UInt8} {a : Nat} (h : ∀ c ∈ l, c ≠ 42) (ha : a < l.length) (hs : s.length ≠ l.length) : gm (askL l a) s = false := by
  rw [Bool.eq_false_iff]
  intro hg
  have := gm_len (ask_no h) _ hg
  rw [ask_len ha] at this
  exact hs this

end Go.Proofs.YtohggmbnehgdiaaDoor
