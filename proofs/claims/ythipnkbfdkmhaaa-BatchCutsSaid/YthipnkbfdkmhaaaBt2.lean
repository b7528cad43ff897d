/- Cutting messages into transactions: what is owned. -/
import Derived.Test.YthipnkbfdkmhaaaBt1
import Derived.Test.YthipnkbfdkmhaaaSE
import Derived.Maps.AppendAt
import Derived.Maps.OwnRows
import Derived.WalkKit
import Derived.ProofKit
import Derived.Handy
import Derived.Below
import Derived.Lib.Hide
import Derived.IntWalk
import Derived.Outline
import Derived.WalkLawsBesides
import Derived.WalkSpells
namespace Go.Proofs.Ythipnkbfdkmhaaa
open Go.RowKit
attribute [local go_sem] strV
set_option linter.unusedVariables false
def groupF (gs : List Int) (n i : Nat) : Int := if gs.length = n then max (gs.getD i 0) 0 else 0
def addL (x y : Int × Int × Int) : Int × Int × Int := (x.1 + y.1, x.2.1 + y.2.1, x.2.2 + y.2.2)
def inL (l x : Int × Int × Int) : Bool := withinB x.1 x.2.1 x.2.2 l.1 l.2.1 l.2.2
def wL (m : MsgV) : Int × Int × Int := (1, wB m, priceM m)
structure CutS where
  txs : List (List Int)
  sk : List Int
  cur : Int × Int × Int
  br : List Int
def putLast (l : List (List Int)) (i : Int) : List (List Int) := l.dropLast ++ [l.getLastD [] ++ [i]]
def cutOut (l fst : Int × Int × Int) (poss : Bool) (g : Int) (br : List Int) (m : MsgV) : Bool := !poss || !mayMsgB m || !inL l (addL fst (wL m)) || decide (0 < br.count g)
def cutStep (l fst : Int × Int × Int) (poss : Bool) (g : Int) (s : CutS) (i : Nat) (m : MsgV) : CutS :=
  if cutOut l fst poss g s.br m = true then ⟨s.txs, s.sk ++ [(i : Int)], s.cur, if 0 < g then s.br ++ [g] else s.br⟩
  else if s.txs = [] then ⟨[[(i : Int)]], s.sk, addL s.cur (wL m), s.br⟩
  else if inL l (addL s.cur (wL m)) = true then ⟨putLast s.txs i, s.sk, addL s.cur (wL m), s.br⟩
  else ⟨s.txs ++ [[(i : Int)]], s.sk, addL (0, 1, 0) (wL m), s.br⟩
def cutK (l : Int × Int × Int) (up : List MsgV) (gs : List Int) (ms : List MsgV) : Nat → CutS
  | 0 => ⟨[], [], (beginL up).1, []⟩
  | k + 1 => match ms[k]? with | some m => cutStep l (beginL up).1 (beginL up).2 (groupF gs ms.length k) (cutK l up gs ms k) k m | none => cutK l up gs ms k
def cutF (l : Int × Int × Int) (up ms : List MsgV) (gs : List Int) : List (List Int) × List Int := ((cutK l up gs ms ms.length).txs, (cutK l up gs ms ms.length).sk)
/-- No row of both. -/
def Apart (a b : Value) : Prop := a.ownBlock = none ∨ b.ownBlock = none ∨ a.ownBlock ≠ b.ownBlock
theorem Apart.symm {a b : Value} (h : Apart a b) : Apart b a := by
  rcases h with h | h | h
  · exact .inr (.inl h)
  · exact .inl h
  · exact .inr (.inr (Ne.symm h))
theorem Apart.off {a b : Value} (h : Apart a b) : b.ownBlock = none ∨ b.ownBlock ≠ a.ownBlock := by
  rcases h with h | h | h
  · rw [h]; cases hb : b.ownBlock
    · exact .inl rfl
    · exact .inr (by simp)
  · exact .inl h
  · exact .inr (Ne.symm h)
theorem Apart.new {a a' b : Value} {N : Nat} (h : Apart a b) (hat : a'.ownBlock = a.ownBlock ∨ a'.ownBlock = some N) (hb : ∀ k, b.ownBlock = some k → k < N) : Apart a' b := by
  rcases hat with hat | hat
  · unfold Apart at h ⊢; rw [hat]; exact h
  · cases hk : b.ownBlock with
    | none => exact .inr (.inl hk)
    | some k =>
      have := hb k hk
      exact .inr (.inr (by rw [hat, hk]; intro e; have := Option.some.inj e; omega))
theorem Apart.nil (b : Value) : Apart (.slice none 0 0) b := .inl rfl
theorem grown_below {w w' : World} (hb : Below w.heap.size w w') : w.grownBy w' none := ⟨hb.os, hb.tape, hb.output, hb.size, fun i hi _ => hb.block i hi⟩
structure Nest (w : World) (base : Nat) (tv sv : Value) (vs : List Value) (txs : List (List Int)) (sk : List Int) : Prop where
  o : w.ownsRow base 59 1 tv vs.length vs
  s : w.ownsInts base 3 .i64 sv sk
  len : vs.length = txs.length
  i : ∀ (j : Nat) v zs, vs[j]? = some v → txs[j]? = some zs → w.ownsInts base 3 .i64 v zs
  d1 : Apart tv sv
  d2 : ∀ (j : Nat) v, vs[j]? = some v → Apart tv v
  d3 : ∀ (j : Nat) v, vs[j]? = some v → Apart sv v
  d4 : ∀ (j k : Nat) v u, j ≠ k → vs[j]? = some v → vs[k]? = some u → Apart v u
section
variable {w w' : World} {base : Nat} {tv sv : Value} {vs : List Value} {txs : List (List Int)} {sk : List Int}
theorem Nest.ivl (h : Nest w base tv sv vs txs sk) {j : Nat} {v : Value} (hv : vs[j]? = some v) : ∃ zs, txs[j]? = some zs ∧ w.ownsInts base 3 .i64 v zs := by
  have hj := (List.getElem?_eq_some_iff.1 hv).1
  have hj2 : j < txs.length := by rw [← h.len]; exact hj
  exact ⟨txs[j], List.getElem?_eq_getElem hj2, h.i j v _ hv (List.getElem?_eq_getElem hj2)⟩
theorem Nest.nil (w : World) (base : Nat) : Nest w base (.slice none 0 0) (.slice none 0 0) [] [] [] :=
  ⟨World.ownsRow_nil _ _ _ _, World.ownsInts_nil _ _ _ _, rfl, fun j v zs h => (by simp at h), .inl rfl, fun j v h => (by simp at h), fun j v h => (by simp at h), fun j k v u _ h => (by simp at h)⟩
theorem Nest.kept (h : Nest w base tv sv vs txs sk) {row : Option Nat} (hg : w.grownBy w' row) (hr : ∀ k, row = some k → k < base) : Nest w' base tv sv vs txs sk := by
  have off : ∀ v : Value, (∀ k, v.ownBlock = some k → base ≤ k ∧ k < w.heap.size) → v.ownBlock = none ∨ v.ownBlock ≠ row := fun v hv => by
    cases hk : v.ownBlock with
    | none => exact .inl rfl
    | some k =>
      refine .inr (fun e => ?_)
      have := hr k e.symm
      have := (hv k hk).1
      omega
  exact ⟨h.o.kept hg (off _ h.o.lt), h.s.kept hg (off _ h.s.1.lt), h.len, fun j v zs hv hz => (h.i j v zs hv hz).kept hg (off _ (h.i j v zs hv hz).1.lt), h.d1, h.d2, h.d3, h.d4⟩
theorem Nest.below (h : Nest w base tv sv vs txs sk) (hb : Below w.heap.size w w') : Nest w' base tv sv vs txs sk := h.kept (grown_below hb) (fun k e => by cases e)
theorem Nest.setRow (h : Nest w base tv sv vs txs sk) {g : Nat} (hg : g < base) (cs : Array Value) : Nest (w.setRow g cs) base tv sv vs txs sk :=
  h.kept (row := some g) ⟨rfl, rfl, rfl, by rw [setRow_size]; exact Nat.le_refl _, fun i hi hne => setRow_other _ _ _ _ (fun e => hne (by rw [e]))⟩ (fun k e => by cases e; exact hg)
/-- One index more is skipped. -/
theorem Nest.skip (h : Nest w base tv sv vs txs sk) {sv' : Value} {x : Int} (hx : (Lit.int .i64 x).wf = true) (hown : w'.ownsRow base 3 1 sv' (sk.length + 1) (sk.map (Value.int .i64) ++ [.int .i64 x])) (hg : w.grownBy w' sv.ownBlock)
    (hat : sv'.ownBlock = sv.ownBlock ∨ sv'.ownBlock = some w.heap.size) : Nest w' base tv sv' vs txs (sk ++ [x]) :=
  ⟨h.o.kept hg h.d1.symm.off, h.s.appended hown hx, h.len, fun j v zs hv hz => (h.i j v zs hv hz).kept hg (h.d3 j v hv).off, (h.d1.symm.new hat (fun k hk => (h.o.lt k hk).2)).symm, h.d2,
    fun j v hv => (h.d3 j v hv).new hat (fun k hk => by obtain ⟨zs, _, q⟩ := h.ivl hv; exact (q.1.lt k hk).2), h.d4⟩
/-- A new transaction, empty. -/
theorem Nest.opened (h : Nest w base tv sv vs txs sk) {tv' : Value} (hown : w'.ownsRow base 59 1 tv' (vs.length + 1) (vs ++ [.slice none 0 0])) (hg : w.grownBy w' tv.ownBlock)
    (hat : tv'.ownBlock = tv.ownBlock ∨ tv'.ownBlock = some w.heap.size) : Nest w' base tv' sv (vs ++ [.slice none 0 0]) (txs ++ [[]]) sk := by
  have last : ∀ (j : Nat) v, (vs ++ [Value.slice none 0 0])[j]? = some v → (vs[j]? = some v ∧ j < vs.length) ∨ (j = vs.length ∧ v = .slice none 0 0) := fun j v hv => by
    rcases Nat.lt_trichotomy j vs.length with hj | hj | hj
    · rw [List.getElem?_append_left hj] at hv; exact .inl ⟨hv, hj⟩
    · subst hj; rw [List.getElem?_append_right (Nat.le_refl _), Nat.sub_self] at hv; exact .inr ⟨rfl, (Option.some.inj hv).symm⟩
    · rw [List.getElem?_eq_none (by simp; omega)] at hv; cases hv
  refine ⟨by simpa using hown, h.s.kept hg h.d1.off, by simp [h.len], fun j v zs hv hz => ?_, h.d1.new hat (fun k hk => (h.s.1.lt k hk).2), fun j v hv => ?_, fun j v hv => ?_, fun j k v u hjk hv hu => ?_⟩
  · rcases last j v hv with ⟨hv, hj⟩ | ⟨rfl, rfl⟩
    · rw [List.getElem?_append_left (by rw [← h.len]; exact hj)] at hz
      exact (h.i j v zs hv hz).kept hg (h.d2 j v hv).off
    · rw [h.len, List.getElem?_append_right (Nat.le_refl _), Nat.sub_self] at hz
      obtain rfl := Option.some.inj hz
      exact World.ownsInts_nil _ _ _ _
  · rcases last j v hv with ⟨hv, _⟩ | ⟨_, rfl⟩
    · exact (h.d2 j v hv).new hat (fun k hk => by obtain ⟨zs, _, q⟩ := h.ivl hv; exact (q.1.lt k hk).2)
    · exact .inr (.inl rfl)
  · rcases last j v hv with ⟨hv, _⟩ | ⟨_, rfl⟩
    · exact h.d3 j v hv
    · exact .inr (.inl rfl)
  · rcases last j v hv with ⟨hv, hj⟩ | ⟨e1, rfl⟩
    · rcases last k u hu with ⟨hu, hk⟩ | ⟨_, rfl⟩
      · exact h.d4 j k v u hjk hv hu
      · exact .inr (.inl rfl)
    · exact .inl rfl
/-- One index more in the last transaction. -/
theorem Nest.push (h : Nest w base tv sv vs txs sk) {g n cap k : Nat} {v v' : Value} {zs : List Int} {x : Int} (htv : tv = .slice (some ⟨g, 0, none⟩) n cap) (hn : n = vs.length) (hv : vs[k]? = some v) (hz : txs[k]? = some zs) (hx : (Lit.int .i64 x).wf = true)
    (hown : w'.ownsRow base 3 1 v' (zs.length + 1) (zs.map (Value.int .i64) ++ [.int .i64 x])) (hg : w.grownBy w' v.ownBlock) (hat : v'.ownBlock = v.ownBlock ∨ v'.ownBlock = some w.heap.size) :
    Nest (w'.setCell ⟨g, k, none⟩ v') base tv sv (vs.set k v') (txs.set k (zs ++ [x])) sk := by
  have hzs := h.i k v zs hv hz
  have o1 := h.o.kept hg (h.d2 k v hv).symm.off
  have htb : tv.ownBlock = some g := by rw [htv]; rfl
  rw [htv, ← hn] at o1
  obtain ⟨o2, g2⟩ := o1.stored k v'
  have new : ∀ u : Value, Apart v u → (∀ q, u.ownBlock = some q → q < w.heap.size) → Apart v' u := fun u hu hl => hu.new hat hl
  have a2 : Apart tv v' := (new tv (h.d2 k v hv).symm (fun q hq => (h.o.lt q hq).2)).symm
  have offg : ∀ u : Value, Apart tv u → u.ownBlock = none ∨ u.ownBlock ≠ some g := fun u hu => by rw [← htb]; exact hu.off
  have at_ : ∀ (j : Nat) u, (vs.set k v')[j]? = some u → (j = k ∧ u = v') ∨ (j ≠ k ∧ vs[j]? = some u) := fun j u hu => by
    by_cases hj : j = k
    · subst hj
      have hjl := (List.getElem?_eq_some_iff.1 hv).1
      rw [List.getElem?_set_self hjl] at hu
      exact .inl ⟨rfl, (Option.some.inj hu).symm⟩
    · rw [List.getElem?_set_ne (Ne.symm hj)] at hu
      exact .inr ⟨hj, hu⟩
  refine ⟨by rw [List.length_set, htv, ← hn]; exact o2, (h.s.kept hg (h.d3 k v hv).symm.off).kept g2 (offg _ h.d1), by rw [List.length_set, List.length_set]; exact h.len, fun j u ys hu hy => ?_, h.d1, fun j u hu => ?_, fun j u hu => ?_, fun j q u t hjq hu ht => ?_⟩
  · rcases at_ j u hu with ⟨rfl, rfl⟩ | ⟨hj, hu⟩
    · have hjl := (List.getElem?_eq_some_iff.1 hz).1
      rw [List.getElem?_set_self hjl] at hy
      obtain rfl := Option.some.inj hy
      exact (hzs.appended hown hx).kept g2 (offg _ a2)
    · rw [List.getElem?_set_ne (Ne.symm hj)] at hy
      exact ((h.i j u ys hu hy).kept hg (h.d4 k j v u (Ne.symm hj) hv hu).off).kept g2 (offg _ (h.d2 j u hu))
  · rcases at_ j u hu with ⟨rfl, rfl⟩ | ⟨hj, hu⟩
    · exact a2
    · exact h.d2 j u hu
  · rcases at_ j u hu with ⟨rfl, rfl⟩ | ⟨hj, hu⟩
    · exact (new sv (h.d3 j v hv).symm (fun q hq => (h.s.1.lt q hq).2)).symm
    · exact h.d3 j u hu
  · rcases at_ j u hu with ⟨rfl, rfl⟩ | ⟨hj, hu2⟩
    · rcases at_ q t ht with ⟨rfl, _⟩ | ⟨hq, ht2⟩
      · exact absurd rfl hjq
      · exact new t (h.d4 j q v t hjq hv ht2) (fun r hr => by obtain ⟨zs', _, q'⟩ := h.ivl ht2; exact (q'.1.lt r hr).2)
    · rcases at_ q t ht with ⟨e1, rfl⟩ | ⟨hq, ht2⟩
      · exact (new u (h.d4 k j v u (e1 ▸ Ne.symm hjq) hv hu2) (fun r hr => by obtain ⟨zs', _, q'⟩ := h.ivl hu2; exact (q'.1.lt r hr).2)).symm
      · exact h.d4 j q u t hjq hu2 ht2
theorem putLast_set {l : List (List Int)} {k : Nat} {zs : List Int} (hk : l.length = k + 1) (hz : l[k]? = some zs) (x : Int) : l.set k (zs ++ [x]) = putLast l x := by
  unfold putLast
  have hne : l ≠ [] := fun e => by rw [e] at hk; simp at hk
  have h1 : l.dropLast ++ [l.getLast hne] = l := List.dropLast_concat_getLast hne
  have h2 : l.getLast hne = zs := by
    rw [List.getLast_eq_getElem]
    have := (List.getElem?_eq_some_iff.1 hz).2
    simp only [hk, Nat.add_sub_cancel]
    exact this
  have h3 : l.getLastD [] = zs := by rw [List.getLastD_eq_getLast?, List.getLast?_eq_some_getLast hne, h2]; rfl
  rw [h3]
  have h4 : l.dropLast.length = k := by rw [List.length_dropLast, hk]; rfl
  rw [← h1, List.set_append_right _ _ (by omega), h4, Nat.sub_self]
  simp
end
end Go.Proofs.Ythipnkbfdkmhaaa
