/- What reads as a key of a life.Table's maps; keys collected. -/
import Derived.Test.YtbckncopdkmoeaaLfO
import Derived.Maps.Range
import Derived.Sort.KeysCollected
import Derived.WalkKit
import Derived.ProofKit
import Derived.Handy
import Derived.Below
import Derived.Lib.Hide
import Derived.IntWalk
import Derived.Outline
import Derived.WalkLawsBesides
import Derived.WalkSpells
namespace Go.Proofs.Ytbckncopdkmoeaa
open Go.RowKit
attribute [local go_sem] strV
set_option linter.unusedVariables false
open Go.Maps
set_option linter.unusedSimpArgs false
theorem lits_strI {n : Nat} {a : Value} {l : List Lit} (h : Try.prog.keyLits (n + 1) 9 [a] = some l) : ∃ s : ByteArray, a = .string s ∧ s.size ≤ maxLen ∧ l = [.string s.data.toList] := by
  unfold Program.keyLits at h
  rw [show Try.prog.underlying 9 = some .string by kernel_rfl] at h
  cases a <;> simp at h
  exact ⟨_, rfl, h.1, h.2.symm⟩
theorem lits_boolI {n : Nat} {a : Value} {l : List Lit} (h : Try.prog.keyLits (n + 1) 4 [a] = some l) : ∃ b : Bool, a = .bool b ∧ l = [.bool b] := by
  unfold Program.keyLits at h
  rw [show Try.prog.underlying 4 = some .bool by kernel_rfl] at h
  cases a <;> simp at h
  exact ⟨_, rfl, h.symm⟩
set_option maxRecDepth 100000 in
theorem lits_intI {n : Nat} {a : Value} {l : List Lit} (h : Try.prog.keyLits (n + 1) 3 [a] = some l) : ∃ z : Int, a = .int .i64 z ∧ (Lit.int .i64 z).wf = true ∧ l = [.int .i64 z] := by
  unfold Program.keyLits at h
  rw [Try.underlying3] at h
  cases a <;> simp at h
  obtain ⟨⟨rfl, h2⟩, h3⟩ := h
  exact ⟨_, rfl, h2, h3.symm⟩
theorem mapM_three {α : Type} {f : α → Option (List Lit)} {a b c : α} {l : List (List Lit)} (h : [a, b, c].mapM f = some l) : ∃ x y z, f a = some x ∧ f b = some y ∧ f c = some z ∧ l = [x, y, z] := by
  rw [List.mapM_cons, List.mapM_cons, List.mapM_cons, List.mapM_nil] at h
  cases ha : f a <;> cases hb : f b <;> cases hc : f c <;> simp [ha, hb, hc] at h
  exact ⟨_, _, _, rfl, rfl, rfl, h.symm⟩
theorem mapM_two {α : Type} {f : α → Option (List Lit)} {a b : α} {l : List (List Lit)} (h : [a, b].mapM f = some l) : ∃ x y, f a = some x ∧ f b = some y ∧ l = [x, y] := by
  rw [List.mapM_cons, List.mapM_cons, List.mapM_nil] at h
  cases ha : f a <;> cases hb : f b <;> simp [ha, hb] at h
  exact ⟨_, _, rfl, rfl, h.symm⟩
set_option maxRecDepth 100000 in
theorem lits_endI {n : Nat} {a b : Value} {l : List Lit} (h : Try.prog.keyLits (n + 2) 60 [a, b] = some l) : ∃ (p : ByteArray) (c : Int), a = .string p ∧ b = .int .i64 c ∧ p.size ≤ maxLen ∧ (Lit.int .i64 c).wf = true ∧ l = [.string p.data.toList, .int .i64 c] := by
  have c1 : Try.prog.cellsOf 60 = 2 := by kernel_rfl
  have c2 : Try.prog.cellsOf 9 = 1 := by kernel_rfl
  have c3 : Try.prog.cellsOf 3 = 1 := by kernel_rfl
  unfold Program.keyLits at h
  rw [Try.underlying60] at h
  simp only [c1, List.length_cons, List.length_nil] at h
  split at h
  · obtain ⟨L, hL, rfl⟩ := Option.map_eq_some_iff.1 h
    obtain ⟨x, y, hx, hy, rfl⟩ := mapM_two hL
    simp only [c2, c3, List.drop_zero, List.take_succ_cons, List.take_zero, List.drop_succ_cons] at hx hy
    obtain ⟨s, rfl, h1, rfl⟩ := lits_strI hx
    obtain ⟨z, rfl, h2, rfl⟩ := lits_intI hy
    exact ⟨s, z, rfl, rfl, h1, h2, rfl⟩
  · cases h
theorem list4 {α : Type} {l : List α} (h : l.length = 4) : ∃ a b c d, l = [a, b, c, d] := by
  match l, h with
  | [a, b, c, d], _ => exact ⟨a, b, c, d, rfl⟩
theorem list2 {α : Type} {l : List α} (h : l.length = 2) : ∃ a b, l = [a, b] := by
  match l, h with
  | [a, b], _ => exact ⟨a, b, rfl⟩
set_option maxRecDepth 100000 in
theorem lk_inv {v : Value} {kl : Lit} (h : keyOf Try.prog 62 v = some kl) : ∃ x : Lk, v = .agg x.row ∧ kl = x.lit ∧ x.wf := by
  have h0 := h
  unfold keyOf at h
  rw [Try.underlying62] at h
  simp only at h
  split at h
  rotate_left
  · cases h
  rename_i hkf
  have hf := (Bool.and_eq_true_iff.1 hkf).2
  have c1 : Try.prog.cellsOf 62 = 4 := by kernel_rfl
  have c2 : Try.prog.cellsOf 60 = 2 := by kernel_rfl
  have c3 : Try.prog.cellsOf 3 = 1 := by kernel_rfl
  have c4 : Try.prog.cellsOf 4 = 1 := by kernel_rfl
  have hag : ∃ cs : Array Value, v = .agg cs ∧ cs.size = 4 := by
    unfold Value.formed at hf
    rw [Try.underlying62] at hf
    cases v <;> simp [c1] at hf
    exact ⟨_, rfl, hf⟩
  obtain ⟨cs, rfl, hcs⟩ := hag
  obtain ⟨a, b, c, d, hl⟩ := list4 (show cs.toList.length = 4 by rw [Array.length_toList]; exact hcs)
  obtain rfl : cs = #[a, b, c, d] := by rw [← Array.toList_inj]; exact hl
  obtain ⟨L, hL, hkl⟩ := Option.map_eq_some_iff.1 h
  have hsz : (Try.prog.types.size - 4 + 5 == Try.prog.types.size + 1) = true := by kernel_rfl
  obtain ⟨n, hn⟩ : ∃ n, Try.prog.types.size + 1 = n + 5 := ⟨Try.prog.types.size - 4, (beq_iff_eq.1 hsz).symm⟩
  rw [hn] at hL
  rw [show (Value.agg #[a, b, c, d]).cells.toList = [a, b, c, d] by simp [Value.cells]] at hL
  unfold Program.keyLits at hL
  rw [Try.underlying62] at hL
  simp only [c1, List.length_cons, List.length_nil] at hL
  split at hL
  · obtain ⟨L2, hL2, rfl⟩ := Option.map_eq_some_iff.1 hL
    obtain ⟨x, y, z, hx, hy, hz, rfl⟩ := mapM_three hL2
    simp only [c2, c3, c4, List.drop_zero, List.take_succ_cons, List.take_zero, List.drop_succ_cons] at hx hy hz
    obtain ⟨s, i, rfl, rfl, h1, h2, rfl⟩ := lits_endI hx
    obtain ⟨u, rfl, rfl⟩ := lits_boolI hy
    obtain ⟨j, rfl, h4, rfl⟩ := lits_intI hz
    exact ⟨⟨s, i, u, j⟩, rfl, hkl.symm, h2, h4, h1⟩
  · cases hL
set_option maxRecDepth 100000 in
theorem en_inv {v : Value} {kl : Lit} (h : keyOf Try.prog 60 v = some kl) : ∃ (p : ByteArray) (c : Int), v = .agg #[.string p, .int .i64 c] ∧ kl = (⟨p, c, false, 0⟩ : Lk).elit ∧ (⟨p, c, false, 0⟩ : Lk).wf := by
  unfold keyOf at h
  rw [Try.underlying60] at h
  simp only at h
  split at h
  rotate_left
  · cases h
  rename_i hkf
  have hf := (Bool.and_eq_true_iff.1 hkf).2
  have c1 : Try.prog.cellsOf 60 = 2 := by kernel_rfl
  have hag : ∃ cs : Array Value, v = .agg cs ∧ cs.size = 2 := by
    unfold Value.formed at hf
    rw [Try.underlying60] at hf
    cases v <;> simp [c1] at hf
    exact ⟨_, rfl, hf⟩
  obtain ⟨cs, rfl, hcs⟩ := hag
  obtain ⟨a, b, hl⟩ := list2 (show cs.toList.length = 2 by rw [Array.length_toList]; exact hcs)
  obtain rfl : cs = #[a, b] := by rw [← Array.toList_inj]; exact hl
  obtain ⟨L, hL, hkl⟩ := Option.map_eq_some_iff.1 h
  have hsz : (Try.prog.types.size - 4 + 5 == Try.prog.types.size + 1) = true := by kernel_rfl
  obtain ⟨n, hn⟩ : ∃ n, Try.prog.types.size + 1 = n + 5 := ⟨Try.prog.types.size - 4, (beq_iff_eq.1 hsz).symm⟩
  rw [hn] at hL
  rw [show (Value.agg #[a, b]).cells.toList = [a, b] by simp [Value.cells]] at hL
  obtain ⟨s, i, rfl, rfl, h1, h2, rfl⟩ := lits_endI (n := n + 3) hL
  exact ⟨s, i, rfl, hkl.symm, h2, (show (Lit.int .i64 0).wf = true by decide), h1⟩
/-- An end, as a key. -/
structure Pe where
  po : ByteArray
  ch : Int
def Pe.L (e : Pe) : List Value := [.string e.po, .int .i64 e.ch]
def Pe.row (e : Pe) : Array Value := #[.string e.po, .int .i64 e.ch]
def Pe.lk (e : Pe) : Lk := ⟨e.po, e.ch, false, 0⟩
def Pe.wf (e : Pe) : Prop := e.lk.wf
def Pe.lit (e : Pe) : Lit := e.lk.elit
theorem Pe.lit_inj {x y : Pe} (hx : x.wf) (hy : y.wf) (h : x.lit = y.lit) : x = y := by
  have h1 := Lk.ekey hx
  rw [show x.lk.elit = y.lk.elit from h] at h1
  have h2 := en_keyed.inj h1 (Lk.ekey hy)
  unfold Lk.erow at h2
  cases x; cases y
  simp [Pe.lk] at h2
  obtain ⟨rfl, rfl⟩ := h2
  rfl
theorem pe_inv {v : Value} {kl : Lit} (h : keyOf Try.prog 60 v = some kl) : ∃ x : Pe, v = .agg x.row ∧ kl = x.lit ∧ x.wf := by
  obtain ⟨p, c, h1, h2, h3⟩ := en_inv h
  exact ⟨⟨p, c⟩, h1, h2, h3⟩
instance : Inhabited Lk := ⟨⟨⟨#[]⟩, 0, false, 0⟩⟩
instance : Inhabited Pe := ⟨⟨⟨#[]⟩, 0⟩⟩
/-- The keys met so far: none twice; a key is among them just where the map has it and it is no longer to come. -/
def CollL (D0 : DataW Value) (left : Lit → Bool) (ss : List Lk) : Prop := ss.Nodup ∧ (∀ x ∈ ss, x.wf) ∧ ∀ x : Lk, x.wf → (x ∈ ss ↔ (has D0 x.lit = true ∧ left x.lit = false))
theorem CollL.start (D0 : DataW Value) : CollL D0 (has D0) [] := ⟨List.nodup_nil, by simp, fun x _ => by cases has D0 x.lit <;> simp⟩
theorem CollL.step {D0 : DataW Value} {left : Lit → Bool} {ss : List Lk} (h : CollL D0 left ss) {x : Lk} (hx : x.wf) {y : DataW Value} (hlk : left x.lit = true) (hat : ∀ zd, D0.atKey x.lit zd = y) : CollL D0 (fun z => left z && !z.sameKey x.lit) (ss ++ [x]) := by
  have hhas : has D0 x.lit = true := has_true_of_atKey hat
  have hnew : x ∉ ss := fun hm => by have := ((h.2.2 x hx).1 hm).2; rw [hlk] at this; cases this
  refine ⟨List.nodup_append.2 ⟨h.1, by simp, fun a ha b hb => by simp at hb; subst hb; exact fun e => hnew (e ▸ ha)⟩, fun z hz => ?_, fun y hy => ?_⟩
  · rcases List.mem_append.1 hz with hz | hz
    · exact h.2.1 z hz
    · simp at hz; subst hz; exact hx
  by_cases hyx : y = x
  · subst hyx
    have hs : (y.lit).sameKey y.lit = true := WideAt.sameKey_self (Lk.isKey hy)
    simp [hhas, hs]
  · have hs : (y.lit).sameKey x.lit = false := by
      cases hb : (y.lit).sameKey x.lit
      · rfl
      · exact absurd (Lk.lit_inj hy hx (WideAt.sameKey_eq hb)) hyx
    simp [h.2.2 y hy, hyx, hs]
/-- The keys met so far: none twice; a key is among them just where the map has it and it is no longer to come. -/
def CollP (D0 : DataW Value) (left : Lit → Bool) (ss : List Pe) : Prop := ss.Nodup ∧ (∀ x ∈ ss, x.wf) ∧ ∀ x : Pe, x.wf → (x ∈ ss ↔ (has D0 x.lit = true ∧ left x.lit = false))
theorem CollP.start (D0 : DataW Value) : CollP D0 (has D0) [] := ⟨List.nodup_nil, by simp, fun x _ => by cases has D0 x.lit <;> simp⟩
theorem CollP.step {D0 : DataW Value} {left : Lit → Bool} {ss : List Pe} (h : CollP D0 left ss) {x : Pe} (hx : x.wf) {y : DataW Value} (hlk : left x.lit = true) (hat : ∀ zd, D0.atKey x.lit zd = y) : CollP D0 (fun z => left z && !z.sameKey x.lit) (ss ++ [x]) := by
  have hhas : has D0 x.lit = true := has_true_of_atKey hat
  have hnew : x ∉ ss := fun hm => by have := ((h.2.2 x hx).1 hm).2; rw [hlk] at this; cases this
  refine ⟨List.nodup_append.2 ⟨h.1, by simp, fun a ha b hb => by simp at hb; subst hb; exact fun e => hnew (e ▸ ha)⟩, fun z hz => ?_, fun y hy => ?_⟩
  · rcases List.mem_append.1 hz with hz | hz
    · exact h.2.1 z hz
    · simp at hz; subst hz; exact hx
  by_cases hyx : y = x
  · subst hyx
    have hs : (y.lit).sameKey y.lit = true := WideAt.sameKey_self (Lk.isEKey hy)
    simp [hhas, hs]
  · have hs : (y.lit).sameKey x.lit = false := by
      cases hb : (y.lit).sameKey x.lit
      · rfl
      · exact absurd (Pe.lit_inj hy hx (WideAt.sameKey_eq hb)) hyx
    simp [h.2.2 y hy, hyx, hs]
end Go.Proofs.Ytbckncopdkmoeaa
