/- What the numbers of groups are. -/
import Derived.Test.YthipnkbfdkmhaaaGr1
import Derived.WalkKit
import Derived.ProofKit
import Derived.Handy
import Derived.Below
import Derived.Lib.Hide
import Derived.IntWalk
import Derived.Outline
import Derived.WalkLawsBesides
import Derived.WalkSpells
namespace Go.Proofs.Ythipnkbfdkmhaaa
open Go.RowKit
attribute [local go_sem] strV
set_option linter.unusedVariables false
theorem grF_pre (js : List (ItV × Bool)) : ∀ k, k ≤ js.length → ∃ l, (grF js).1 = (grF (js.take k)).1 ++ l := by
  intro k hk
  obtain ⟨d, hd⟩ : ∃ d, js.length - k = d := ⟨_, rfl⟩
  induction d generalizing k with
  | zero => exact ⟨[], by rw [List.take_of_length_le (by omega), List.append_nil]⟩
  | succ d ih =>
    obtain ⟨l, hl⟩ := ih (k + 1) (by omega) (by omega)
    rw [grF_take (show k < js.length by omega)] at hl
    unfold grStep at hl
    split at hl
    · split at hl
      · exact ⟨l, hl⟩
      · exact ⟨[js[k].1.top] ++ l, by rw [hl, List.append_assoc]⟩
    · exact ⟨l, hl⟩
theorem numOf_pre {ks l : List ItV} {z : ItV} (h : z ∈ ks) : numOf (ks ++ l) z = numOf ks z := by
  unfold numOf
  rw [if_pos (List.mem_append_left _ h), if_pos h, List.idxOf_append, if_pos h]
/-- The number of job k. -/
def grN (js : List (ItV × Bool)) (k : Nat) : Int := match js[k]? with | some j => if inGroup j = true then ((numOf (grF js).1 j.1.top : Nat) : Int) else 0 | none => 0
/-- How many groups there are among the first k jobs. -/
def grM (js : List (ItV × Bool)) (k : Nat) : Nat := (grF (js.take k)).1.length
theorem grF_out (js : List (ItV × Bool)) : ∀ k, k ≤ js.length → (grF (js.take k)).2 = (List.range k).map (grN js) := by
  intro k
  induction k with
  | zero => intro _; rfl
  | succ k ih =>
    intro hk
    have hk' : k < js.length := by omega
    have hp := grF_pre js (k + 1) hk
    rw [List.range_succ, List.map_append, ← ih (by omega), List.map_singleton]
    have hg : grN js k = if inGroup js[k] = true then ((numOf (grF js).1 js[k].1.top : Nat) : Int) else 0 := by unfold grN; rw [List.getElem?_eq_getElem hk']
    rw [hg]
    obtain ⟨l, hl⟩ := hp
    rw [grF_take hk'] at hl ⊢
    unfold grStep at hl ⊢
    cases hin : inGroup js[k] with
    | false => rfl
    | true =>
      rw [hin, if_pos rfl] at hl
      rw [if_pos rfl, if_pos rfl]
      by_cases hm : js[k].1.top ∈ (grF (js.take k)).1
      · rw [if_pos hm] at hl ⊢
        rw [hl, numOf_pre hm]
      · rw [if_neg hm] at hl ⊢
        rw [hl, numOf_pre (by simp), numOf_new _ hm]
theorem grN_at {js : List (ItV × Bool)} {k : Nat} (hk : k < js.length) : grN js k = if inGroup js[k] = true then ((numOf (grF js).1 js[k].1.top : Nat) : Int) else 0 := by unfold grN; rw [List.getElem?_eq_getElem hk]
theorem grM_step {js : List (ItV × Bool)} {k : Nat} (hk : k < js.length) : (0 < grN js k ↔ inGroup js[k] = true) ∧ 0 ≤ grN js k ∧ grN js k ≤ (grM js k : Int) + 1 ∧ max (grM js k : Int) (grN js k) = (grM js (k + 1) : Int) ∧ (inGroup js[k] = true → js[k].1.top ∈ (grF js).1) := by
  obtain ⟨l, hl⟩ := grF_pre js (k + 1) hk
  have hg := grN_at hk
  unfold grM
  rw [grF_take hk] at hl ⊢
  unfold grStep at hl ⊢
  cases hin : inGroup js[k] with
  | false =>
    rw [hin, if_neg Bool.false_ne_true] at hg
    rw [if_neg Bool.false_ne_true, hg]
    refine ⟨⟨fun h => by omega, fun h => by cases h⟩, by omega, by omega, by dsimp only; omega, fun h => by cases h⟩
  | true =>
    rw [hin, if_pos rfl] at hl hg
    rw [if_pos rfl]
    by_cases hm : js[k].1.top ∈ (grF (js.take k)).1
    · rw [if_pos hm] at hl ⊢
      have hlt := List.idxOf_lt_length_of_mem hm
      have hn : numOf (grF js).1 js[k].1.top = (grF (js.take k)).1.idxOf js[k].1.top + 1 := by rw [hl, numOf_pre hm]; unfold numOf; rw [if_pos hm]
      rw [hn] at hg
      refine ⟨⟨fun _ => rfl, fun _ => by omega⟩, by omega, by omega, by dsimp only; omega, fun _ => by rw [hl]; exact List.mem_append_left _ hm⟩
    · rw [if_neg hm] at hl ⊢
      have hn : numOf (grF js).1 js[k].1.top = (grF (js.take k)).1.length + 1 := by rw [hl, numOf_pre (by simp), numOf_new _ hm]
      rw [hn] at hg
      refine ⟨⟨fun _ => rfl, fun _ => by omega⟩, by omega, by omega, by rw [List.length_append, List.length_singleton]; omega, fun _ => by rw [hl]; simp⟩
theorem numOf_inj {ks : List ItV} {y z : ItV} (hy : y ∈ ks) (hz : z ∈ ks) (h : numOf ks y = numOf ks z) : y = z := by
  unfold numOf at h
  rw [if_pos hy, if_pos hz] at h
  have h1 := List.getElem_idxOf (List.idxOf_lt_length_of_mem hy)
  have h2 := List.getElem_idxOf (List.idxOf_lt_length_of_mem hz)
  rw [← h1, ← h2]
  congr 1
  omega
/-- Are two items of one kind, side and end? -/
def sameIt (x y : ItV) : Bool := (x.kd == y.kd) && (x.to == y.to) && ((x.port.toList == y.port.toList) && (x.ch == y.ch))
theorem tlG {x y : ByteArray} : (x.toList == y.toList) = true ↔ x = y := by
  rw [beq_iff_eq, ByteArray.toList_eq, ByteArray.toList_eq]
  constructor
  · intro h
    cases x; cases y
    simp only [ByteArray.mk.injEq]
    exact Array.toList_inj.1 h
  · intro h; rw [h]
theorem sameIt_top (x y : ItV) : sameIt x y = decide (x.top = y.top) := by
  unfold sameIt ItV.top
  rw [Bool.eq_iff_iff, decide_eq_true_eq, ItV.mk.injEq]
  rw [Bool.and_eq_true, Bool.and_eq_true, Bool.and_eq_true, tlG, beq_iff_eq, beq_iff_eq, beq_iff_eq]
  constructor
  · rintro ⟨⟨a, b⟩, c, d⟩; exact ⟨a, b, c, d, rfl⟩
  · rintro ⟨a, b, c, d, _⟩; exact ⟨⟨a, b⟩, c, d⟩
theorem grN_same {js : List (ItV × Bool)} {i k : Nat} (hi : i < js.length) (hk : k < js.length) (hin : inGroup js[i] = true) (hg : 0 < grN js k) : (grN js k == grN js i) = sameIt js[i].1 js[k].1 := by
  have hki := (grM_step hk).1.1 hg
  have a1 := (grM_step hi).2.2.2.2 hin
  have a2 := (grM_step hk).2.2.2.2 hki
  rw [grN_at hi, grN_at hk, if_pos hin, if_pos hki, sameIt_top, Bool.eq_iff_iff, beq_iff_eq, decide_eq_true_eq]
  constructor
  · intro h
    exact (numOf_inj a2 a1 (by omega)).symm
  · intro h; rw [h]
theorem run_equal_endG (W : World) (p q : ByteArray) (c d : Int) : (Op.equalIn 10000 27 (.agg #[.string p, .int .i64 c]) (.agg #[.string q, .int .i64 d])).run Try.prog W = .ok ((p.toList == q.toList) && (c == d)) W := by
  cases h1 : (p.toList == q.toList)
  · simp [go_sem, h1]
  cases h2 : (c == d)
  · simp [go_sem, h1, h2]
  · simp [go_sem, h1, h2]
end Go.Proofs.Ythipnkbfdkmhaaa
