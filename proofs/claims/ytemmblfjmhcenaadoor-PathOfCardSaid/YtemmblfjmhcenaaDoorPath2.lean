/- Texts of ends and keys: reading, keys; what the examples fix. -/
import Derived.Test.YtemmblfjmhcenaaDoorPath
import Derived.BigQuiet
import Derived.WalkKit
import Derived.ProofKit
import Derived.Handy
import Derived.Below
import Derived.BigQuiet
import Derived.Lib.Hide
import Derived.IntWalk
import Derived.Outline
import Derived.WalkLawsBesides
import Derived.WalkSpells
namespace Go.Proofs.YtemmblfjmhcenaaDoor
open Go.RowKit
attribute [local go_sem] strV
def numVB (x : ByteArray) : Int := numV x.data.toList
def numEB (x : ByteArray) : Int := numE x.data.toList
theorem numberB_any (x : ByteArray) (w : World) (hs : x.size ≤ maxLen) :
    Calls Tryd.prog 19 #[.string x] w fun e w' => e = .returned (.tuple #[.int .i64 (numVB x), .int .i64 (numEB x)]) ∧ w' = w := number_any x w hs
/-- A channel's name without its front. -/
def digs (x : ByteArray) : ByteArray := ⟨(Lib.trimPrefix x.data.toList (⟨#[99, 104, 97, 110, 110, 101, 108, 45]⟩ : ByteArray).data.toList).toArray⟩
def hasCh (x : ByteArray) : Bool := Lib.hasPrefix x.data.toList (⟨#[99, 104, 97, 110, 110, 101, 108, 45]⟩ : ByteArray).data.toList
theorem digs_size {x : ByteArray} (h : x.size ≤ maxLen) : (digs x).size ≤ maxLen := by
  unfold digs
  rw [← str_len]
  refine Nat.le_trans ?_ h
  show (Lib.trimPrefix x.data.toList _).length ≤ _
  rw [← str_len]
  unfold Lib.trimPrefix
  split <;> simp
theorem cutPrefix_any (x : ByteArray) (w : World) :
    Calls Tryd.prog 37 #[.string x, .string ⟨#[99, 104, 97, 110, 110, 101, 108, 45]⟩] w fun e w' => e = .returned (.tuple #[.string (digs x), .bool (hasCh x)]) ∧ w' = w := Tryd.strings_CutPrefix x _ w
theorem same2 {w : World} {b : Nat} {u v : Value} (x y : Value) (h0 : w.cell? ⟨b, 0, none⟩ = some u) (h1 : w.cell? ⟨b, 1, none⟩ = some v) :
    (w.setCell ⟨b, 0, none⟩ x).cell? ⟨b, 0, none⟩ = some x ∧ ((w.setCell ⟨b, 0, none⟩ x).setCell ⟨b, 1, none⟩ y).cell? ⟨b, 0, none⟩ = some x ∧ ((w.setCell ⟨b, 0, none⟩ x).setCell ⟨b, 1, none⟩ y).cell? ⟨b, 1, none⟩ = some y := by
  have e0 := World.cell?_setCell_same w ⟨b, 0, none⟩ x h0
  have e1 : (w.setCell ⟨b, 0, none⟩ x).cell? ⟨b, 1, none⟩ = some v := (World.cell?_setCell_other _ _ _ _ (by simp)).trans h1
  exact ⟨e0, (World.cell?_setCell_other _ _ _ _ (by simp)).trans e0, World.cell?_setCell_same _ _ _ e1⟩
theorem same2a {w : World} {b : Nat} {u v : Value} (x y : Value) (o : Obj) (h0 : w.cell? ⟨b, 0, none⟩ = some u) (h1 : w.cell? ⟨b, 1, none⟩ = some v) (hb : b < w.heap.size) :
    (((w.setCell ⟨b, 0, none⟩ x).setCell ⟨b, 1, none⟩ y).alloc o).cell? ⟨b, 0, none⟩ = some x ∧ (((w.setCell ⟨b, 0, none⟩ x).setCell ⟨b, 1, none⟩ y).alloc o).cell? ⟨b, 1, none⟩ = some y := by
  obtain ⟨_, q1, q2⟩ := same2 x y h0 h1
  have hbl : Below (w.setCell ⟨b, 0, none⟩ x |>.setCell ⟨b, 1, none⟩ y).heap.size (w.setCell ⟨b, 0, none⟩ x |>.setCell ⟨b, 1, none⟩ y) (((w.setCell ⟨b, 0, none⟩ x).setCell ⟨b, 1, none⟩ y).alloc o) := Below.alloc (Below.refl _ _) (Nat.le_refl _) _
  have hs : b < (w.setCell ⟨b, 0, none⟩ x |>.setCell ⟨b, 1, none⟩ y).heap.size := by simpa using hb
  exact ⟨(hbl.cell (p := ⟨b, 0, none⟩) hs).trans q1, (hbl.cell (p := ⟨b, 1, none⟩) hs).trans q2⟩
def okE (p x : ByteArray) : Bool := hasCh x && (numEB (digs x) == 0) && mayE p (numVB (digs x))
def endR (p x : ByteArray) : Ending := if okE p x = true then .returned (.tuple #[.agg #[.string p, .int .i64 (numVB (digs x))], .bool true]) else .returned (.tuple #[.agg #[.string ⟨#[]⟩, .int .i64 0], .bool false])
set_option maxRecDepth 100000 in
set_option maxHeartbeats 1600000 in
theorem end_any (p x : ByteArray) (w : World) (hp : p.size ≤ maxLen) (hx : x.size ≤ maxLen) :
    Calls Tryd.prog 27 #[.string p, .string x] w fun e w' => e = endR p x ∧ Below w.heap.size w w' := by
  have hds := digs_size hx
  obtain ⟨v, hv⟩ : ∃ v, numVB (digs x) = v := ⟨_, rfl⟩
  obtain ⟨n, he⟩ : ∃ n, numEB (digs x) = n := ⟨_, rfl⟩
  cases hf : hasCh x
  · have HR : Hid (endR p x = _) := Lib.hid (show endR p x = .returned (.tuple #[.agg #[.string ⟨#[]⟩, .int .i64 0], .bool false]) from by unfold endR okE; rw [hf]; rfl)
    go_enter Tryd.func27, Tryd.ntmps27
    go_wp2_with (first | (go_at_call 19; refine (numberB_any _ _ (by with_reducible assumption)).mono ?_; rintro e w1 ⟨rfl, hw1⟩; obtain rfl : _ = w1 := hw1.symm; rw [hv, he]) | (go_at_call 37; refine (cutPrefix_any _ _).mono ?_; rintro e w1 ⟨rfl, hw1⟩; obtain rfl : _ = w1 := hw1.symm; rw [hf]))
    go_returns
    exact ⟨by rw [HR.out]; first | done | rfl, by repeat (first | assumption | exact Below.refl _ _ | refine bch ?_ (by assumption) | refine Below.alloc ?_ (by simp) _)⟩
  · by_cases hn : n = 0
    rotate_left
    · have h0 : (n == 0) = false := beq_eq_false_iff_ne.2 hn
      have HR : Hid (endR p x = _) := Lib.hid (show endR p x = .returned (.tuple #[.agg #[.string ⟨#[]⟩, .int .i64 0], .bool false]) from by unfold endR okE; rw [hf, he, h0]; rfl)
      go_enter Tryd.func27, Tryd.ntmps27
      go_wp2_with (first | (go_at_call 19; refine (numberB_any _ _ (by with_reducible assumption)).mono ?_; rintro e w1 ⟨rfl, hw1⟩; obtain rfl : _ = w1 := hw1.symm; rw [hv, he]) | (go_at_call 37; refine (cutPrefix_any _ _).mono ?_; rintro e w1 ⟨rfl, hw1⟩; obtain rfl : _ = w1 := hw1.symm; rw [hf]))
      go_returns
      exact ⟨by rw [HR.out]; first | done | rfl, by repeat (first | assumption | exact Below.refl _ _ | refine bch ?_ (by assumption) | refine Below.alloc ?_ (by simp) _)⟩
    · have h0 : (n == 0) = true := beq_iff_eq.2 hn
      subst hn
      cases hm : mayE p v
      · have HR : Hid (endR p x = _) := Lib.hid (show endR p x = .returned (.tuple #[.agg #[.string ⟨#[]⟩, .int .i64 0], .bool false]) from by unfold endR okE; rw [hf, he, h0, hv, hm]; rfl)
        go_enter Tryd.func27, Tryd.ntmps27
        go_wp2_with (first | (go_at_call 19; refine (numberB_any _ _ (by with_reducible assumption)).mono ?_; rintro e w1 ⟨rfl, hw1⟩; obtain rfl : _ = w1 := hw1.symm; rw [hv, he]) | (go_at_call 37; refine (cutPrefix_any _ _).mono ?_; rintro e w1 ⟨rfl, hw1⟩; obtain rfl : _ = w1 := hw1.symm; rw [hf]) | (go_at_call 13; refine (mayEnd_any _ _ _ (by with_reducible assumption)).mono ?_; rintro e w1 ⟨rfl, hb⟩; rw [hm]; obtain ⟨hc1, hf1⟩ := bcell hb; have hz1 : w.heap.size < w1.heap.size := (by have := hb.size; (try simp at this); omega)))
        have k0 : w1.cell? ⟨w.heap.size, 0, none⟩ = some (.string ⟨#[]⟩) := by rw [hc1 _ _ (by simp; omega)]; go_cell
        have k1 : w1.cell? ⟨w.heap.size, 1, none⟩ = some (.int .i64 0) := by rw [hc1 _ _ (by simp; omega)]; go_cell
        obtain ⟨_, q1, q2⟩ := same2 (.string ⟨#[]⟩) (.int .i64 0) k0 k1
        refine bodyPost_ret (by simp [results, Tryd.results27, go_sem, q1, q2]; try rfl) rfl ?_
        exact ⟨by rw [HR.out]; first | done | rfl, by repeat (first | refine Below.setCell ?_ (by simp) _ | assumption | exact Below.refl _ _ | refine bch ?_ (by assumption) | refine Below.alloc ?_ (by (try simp) <;> omega) _)⟩
      · have HR : Hid (endR p x = _) := Lib.hid (show endR p x = .returned (.tuple #[.agg #[.string p, .int .i64 v], .bool true]) from by unfold endR okE; rw [hf, he, h0, hv, hm]; rfl)
        go_enter Tryd.func27, Tryd.ntmps27
        go_wp2_with (first | (go_at_call 19; refine (numberB_any _ _ (by with_reducible assumption)).mono ?_; rintro e w1 ⟨rfl, hw1⟩; obtain rfl : _ = w1 := hw1.symm; rw [hv, he]) | (go_at_call 37; refine (cutPrefix_any _ _).mono ?_; rintro e w1 ⟨rfl, hw1⟩; obtain rfl : _ = w1 := hw1.symm; rw [hf]) | (go_at_call 13; refine (mayEnd_any _ _ _ (by with_reducible assumption)).mono ?_; rintro e w1 ⟨rfl, hb⟩; rw [hm]; obtain ⟨hc1, hf1⟩ := bcell hb; have hz1 : w.heap.size < w1.heap.size := (by have := hb.size; (try simp at this); omega)))
        have k0 : w1.cell? ⟨w.heap.size, 0, none⟩ = some (.string ⟨#[]⟩) := by rw [hc1 _ _ (by simp; omega)]; go_cell
        have k1 : w1.cell? ⟨w.heap.size, 1, none⟩ = some (.int .i64 0) := by rw [hc1 _ _ (by simp; omega)]; go_cell
        obtain ⟨_, q1, q2⟩ := same2 (.string p) (.int .i64 v) k0 k1
        refine bodyPost_ret (by simp [results, Tryd.results27, go_sem, q1, q2]; try rfl) rfl ?_
        exact ⟨by rw [HR.out]; first | done | rfl, by repeat (first | refine Below.setCell ?_ (by simp) _ | assumption | exact Below.refl _ _ | refine bch ?_ (by assumption) | refine Below.alloc ?_ (by (try simp) <;> omega) _)⟩

def pPort (s : ByteArray) : ByteArray := ⟨(cutL s ⟨#[47]⟩).1.toArray⟩
def pRest (s : ByteArray) : ByteArray := ⟨(cutL s ⟨#[47]⟩).2.1.toArray⟩
def cutSl (s : ByteArray) : Bool := (cutL s ⟨#[47]⟩).2.2
theorem cutSl_any (s : ByteArray) (w : World) (hW : PW w) (hs : s.size < 4294967281) :
    Calls Tryd.prog 26 #[.string s, .string ⟨#[47]⟩] w fun e w' => e = .returned (.tuple #[.string (pPort s), .string (pRest s), .bool (cutSl s)]) ∧ Below w.heap.size w w' := cut_any s _ w hW hs
theorem cut_le (s sep : List UInt8) : (Lib.cut s sep).1.length ≤ s.length ∧ (Lib.cut s sep).2.1.length ≤ s.length := by
  unfold Lib.cut
  split
  · constructor
    · rw [List.length_take]; omega
    · rw [List.length_drop]; omega
  · simp
theorem pPort_size (s : ByteArray) : (pPort s).size ≤ s.size := by unfold pPort cutL; rw [← str_len, ← str_len]; exact (cut_le _ _).1
theorem pRest_size (s : ByteArray) : (pRest s).size ≤ s.size := by unfold pRest cutL; rw [← str_len, ← str_len]; exact (cut_le _ _).2
def parseR (s : ByteArray) : Ending := if okE (pPort s) (pRest s) = true then .returned (.tuple #[.agg #[.string (pPort s), .int .i64 (numVB (digs (pRest s)))], .int .i64 0]) else .returned (.tuple #[.agg #[.string ⟨#[]⟩, .int .i64 0], .int .i64 3])
set_option maxRecDepth 100000 in
set_option maxHeartbeats 1600000 in
theorem parse_any (s : ByteArray) (w : World) (hW : PW w) (hs : s.size < 4294967281) :
    Calls Tryd.prog 9 #[.string s] w fun e w' => e = parseR s ∧ Below w.heap.size w w' := by
  have s1 : (pPort s).size ≤ maxLen := by have := pPort_size s; unfold maxLen; omega
  have s2 : (pRest s).size ≤ maxLen := by have := pRest_size s; unfold maxLen; omega
  cases ho : okE (pPort s) (pRest s)
  · have HR : Hid (parseR s = _) := Lib.hid (show parseR s = .returned (.tuple #[.agg #[.string ⟨#[]⟩, .int .i64 0], .int .i64 3]) from by unfold parseR; rw [ho]; rfl)
    have he : endR (pPort s) (pRest s) = .returned (.tuple #[.agg #[.string ⟨#[]⟩, .int .i64 0], .bool false]) := by unfold endR; rw [ho]; rfl
    go_enter Tryd.func9, Tryd.ntmps9
    go_wp2_with (first | (go_at_call 26; refine (cutSl_any _ _ (hW.below (by repeat (first | assumption | exact Below.refl _ _ | refine bch ?_ (by assumption) | refine Below.alloc ?_ (by simp) _))) (by with_reducible assumption)).mono ?_; rintro e w1 ⟨rfl, hb⟩; obtain ⟨hc1, hf1⟩ := bcell hb; have hz1 : w.heap.size < w1.heap.size := (by have := hb.size; (try simp at this); omega); have hzc := hz1; have k0 : w1.cell? ⟨w.heap.size, 0, none⟩ = some (.string ⟨#[]⟩) := (by rw [hc1 _ _ (by simp)]; go_cell); have k1 : w1.cell? ⟨w.heap.size, 1, none⟩ = some (.int .i64 0) := (by rw [hc1 _ _ (by simp)]; go_cell)) | (go_at_call 27; refine (end_any _ _ _ (by with_reducible assumption) (by with_reducible assumption)).mono ?_; rintro e w1 ⟨rfl, hb⟩; rw [he]; obtain ⟨hc1, hf1⟩ := bcell hb; have hz1 : w.heap.size < w1.heap.size := (by have := hb.size; (try simp at this); omega); have k0 := (hc1 _ _ hzc).trans k0; have k1 := (hc1 _ _ hzc).trans k1))
    obtain ⟨q1, q2⟩ := same2a (.string ⟨#[]⟩) (.int .i64 0) (.cells #[.string ⟨#[]⟩, .int .i64 0] 23) k0 k1 hz1
    refine bodyPost_ret (by simp [results, Tryd.results9, go_sem, q1, q2]; try rfl) rfl ?_
    exact ⟨by rw [HR.out]; first | done | rfl, by repeat (first | refine Below.setCell ?_ (by simp) _ | assumption | exact Below.refl _ _ | refine bch ?_ (by assumption) | refine Below.alloc ?_ (by (try simp) <;> omega) _)⟩
  · have HR : Hid (parseR s = _) := Lib.hid (show parseR s = .returned (.tuple #[.agg #[.string (pPort s), .int .i64 (numVB (digs (pRest s)))], .int .i64 0]) from by unfold parseR; rw [ho]; rfl)
    have he : endR (pPort s) (pRest s) = .returned (.tuple #[.agg #[.string (pPort s), .int .i64 (numVB (digs (pRest s)))], .bool true]) := by unfold endR; rw [ho]; rfl
    go_enter Tryd.func9, Tryd.ntmps9
    go_wp2_with (first | (go_at_call 26; refine (cutSl_any _ _ (hW.below (by repeat (first | assumption | exact Below.refl _ _ | refine bch ?_ (by assumption) | refine Below.alloc ?_ (by simp) _))) (by with_reducible assumption)).mono ?_; rintro e w1 ⟨rfl, hb⟩; obtain ⟨hc1, hf1⟩ := bcell hb; have hz1 : w.heap.size < w1.heap.size := (by have := hb.size; (try simp at this); omega); have hzc := hz1; have k0 : w1.cell? ⟨w.heap.size, 0, none⟩ = some (.string ⟨#[]⟩) := (by rw [hc1 _ _ (by simp)]; go_cell); have k1 : w1.cell? ⟨w.heap.size, 1, none⟩ = some (.int .i64 0) := (by rw [hc1 _ _ (by simp)]; go_cell)) | (go_at_call 27; refine (end_any _ _ _ (by with_reducible assumption) (by with_reducible assumption)).mono ?_; rintro e w1 ⟨rfl, hb⟩; rw [he]; obtain ⟨hc1, hf1⟩ := bcell hb; have hz1 : w.heap.size < w1.heap.size := (by have := hb.size; (try simp at this); omega); have k0 := (hc1 _ _ hzc).trans k0; have k1 := (hc1 _ _ hzc).trans k1))
    obtain ⟨q1, q2⟩ := same2a (.string (pPort s)) (.int .i64 (numVB (digs (pRest s)))) (.cells #[.string (pPort s), .int .i64 (numVB (digs (pRest s)))] 23) k0 k1 hz1
    refine bodyPost_ret (by simp [results, Tryd.results9, go_sem, q1, q2]; try rfl) rfl ?_
    exact ⟨by rw [HR.out]; first | done | rfl, by repeat (first | refine Below.setCell ?_ (by simp) _ | assumption | exact Below.refl _ _ | refine bch ?_ (by assumption) | refine Below.alloc ?_ (by (try simp) <;> omega) _)⟩

/-- The word of a kind. -/
def wordB (k : Int) : ByteArray := if k = 1 then ⟨#[99, 111, 109, 109, 105, 116, 109, 101, 110, 116, 115]⟩ else if k = 2 then ⟨#[114, 101, 99, 101, 105, 112, 116, 115]⟩ else if k = 3 then ⟨#[97, 99, 107, 115]⟩ else if k = 4 then ⟨#[110, 101, 120, 116, 83, 101, 113, 117, 101, 110, 99, 101, 83, 101, 110, 100]⟩ else if k = 5 then ⟨#[110, 101, 120, 116, 83, 101, 113, 117, 101, 110, 99, 101, 82, 101, 99, 118]⟩ else if k = 6 then ⟨#[110, 101, 120, 116, 83, 101, 113, 117, 101, 110, 99, 101, 65, 99, 107]⟩ else if k = 7 then ⟨#[99, 104, 97, 110, 110, 101, 108, 69, 110, 100, 115]⟩ else ⟨#[]⟩
def kindB (k : Int) : Bool := decide (1 ≤ k) && decide (k ≤ 7)
theorem kind_cases (k : Int) : ((k = 1 ∨ k = 2 ∨ k = 3 ∨ k = 4 ∨ k = 5 ∨ k = 6 ∨ k = 7) ∧ kindB k = true) ∨ (k ≠ 1 ∧ k ≠ 2 ∧ k ≠ 3 ∧ k ≠ 4 ∧ k ≠ 5 ∧ k ≠ 6 ∧ k ≠ 7) ∧ kindB k = false := by
  unfold kindB
  by_cases h : 1 ≤ k ∧ k ≤ 7
  · left; exact ⟨by omega, by simp [h]⟩
  · right; refine ⟨by omega, ?_⟩
    rw [Bool.eq_false_iff]; intro e; simp only [Bool.and_eq_true, decide_eq_true_eq] at e; exact h e
theorem word_none {k : Int} (h : kindB k = false) : wordB k = ⟨#[]⟩ := by
  rcases kind_cases k with ⟨_, h2⟩ | ⟨⟨h1, h2, h3, h4, h5, h6, h7⟩, _⟩
  · rw [h] at h2; cases h2
  · unfold wordB; rw [if_neg h1, if_neg h2, if_neg h3, if_neg h4, if_neg h5, if_neg h6, if_neg h7]
theorem word_some {k : Int} (h : kindB k = true) : 0 < (wordB k).size ∧ (wordB k).size ≤ 16 := by
  rcases kind_cases k with ⟨h1, _⟩ | ⟨_, h2⟩
  · rcases h1 with rfl | rfl | rfl | rfl | rfl | rfl | rfl <;> decide
  · rw [h] at h2; cases h2

set_option maxRecDepth 100000 in
set_option maxHeartbeats 1600000 in
theorem word_any (k : Int) (w : World) :
    Calls Tryd.prog 33 #[.int .i64 k] w fun e w' => e = .returned (.string (wordB k)) ∧ w' = w := by
  rcases kind_cases k with ⟨h, _⟩ | ⟨⟨h1, h2, h3, h4, h5, h6, h7⟩, hk⟩
  · rcases h with rfl | rfl | rfl | rfl | rfl | rfl | rfl
    all_goals
      go_enter Tryd.func33, Tryd.ntmps33
      go_wp2
      go_ret
      exact ⟨rfl, by first | rfl | trivial⟩
  · have HR := Lib.hid (word_none hk)
    have e1 : (k == 1) = false := beq_eq_false_iff_ne.2 h1
    have e2 : (k == 2) = false := beq_eq_false_iff_ne.2 h2
    have e3 : (k == 3) = false := beq_eq_false_iff_ne.2 h3
    have e4 : (k == 4) = false := beq_eq_false_iff_ne.2 h4
    have e5 : (k == 5) = false := beq_eq_false_iff_ne.2 h5
    have e6 : (k == 6) = false := beq_eq_false_iff_ne.2 h6
    have e7 : (k == 7) = false := beq_eq_false_iff_ne.2 h7
    go_enter Tryd.func33, Tryd.ntmps33
    go_wp2
    go_ret
    exact ⟨by rw [HR.out]; first | done | rfl, by first | rfl | trivial⟩

set_option maxRecDepth 100000 in
set_option maxHeartbeats 1600000 in
theorem refWord_any (k : Int) (w : World) :
    Calls Tryd.prog 35 #[.int .i64 k] w fun e w' => e = .returned (.string (wordB k)) ∧ w' = w := by
  rcases kind_cases k with ⟨h, _⟩ | ⟨⟨h1, h2, h3, h4, h5, h6, h7⟩, hk⟩
  · rcases h with rfl | rfl | rfl | rfl | rfl | rfl | rfl
    all_goals
      go_enter Tryd.func35, Tryd.ntmps35
      go_wp2
      go_ret
      exact ⟨rfl, by first | rfl | trivial⟩
  · have HR := Lib.hid (word_none hk)
    have e1 : (k == 1) = false := beq_eq_false_iff_ne.2 h1
    have e2 : (k == 2) = false := beq_eq_false_iff_ne.2 h2
    have e3 : (k == 3) = false := beq_eq_false_iff_ne.2 h3
    have e4 : (k == 4) = false := beq_eq_false_iff_ne.2 h4
    have e5 : (k == 5) = false := beq_eq_false_iff_ne.2 h5
    have e6 : (k == 6) = false := beq_eq_false_iff_ne.2 h6
    have e7 : (k == 7) = false := beq_eq_false_iff_ne.2 h7
    go_enter Tryd.func35, Tryd.ntmps35
    go_wp2
    go_ret
    exact ⟨by rw [HR.out]; first | done | rfl, by first | rfl | trivial⟩

def numdB (k : Int) : Bool := k == 1 || k == 2 || k == 3
set_option maxRecDepth 100000 in
set_option maxHeartbeats 1600000 in
theorem numbered_any (k : Int) (w : World) :
    Calls Tryd.prog 34 #[.int .i64 k] w fun e w' => e = .returned (.bool (numdB k)) ∧ w' = w := by
  obtain ⟨a, ha⟩ : ∃ a, (k == 1) = a := ⟨_, rfl⟩
  obtain ⟨b, hb⟩ : ∃ a, (k == 2) = a := ⟨_, rfl⟩
  obtain ⟨c, hc⟩ : ∃ a, (k == 3) = a := ⟨_, rfl⟩
  have HR := Lib.hid (show numdB k = (a || b || c) from by unfold numdB; rw [ha, hb, hc])
  cases a <;> cases b <;> cases c
  all_goals
    go_enter Tryd.func34, Tryd.ntmps34
    go_wp2
    go_ret
    exact ⟨by rw [HR.out]; first | done | rfl, by first | rfl | trivial⟩
end Go.Proofs.YtemmblfjmhcenaaDoor
