/- Readers and what they read, put together: what was written is read, what is read was written so, cut short it is none. Lists of texts, each of which is read further: what was written is read, what is read was written so, cut short it is none. A count that is read. Slices of integers that came in: what a walk is told of them. Rows of cells: what a walk is told of a slice whose elements it reads, whoever made it. -/
import Derived.Test.YthipnkbfdkmhaaaGD
import Derived.Test.YthipnkbfdkmhaaaGA
import Derived.SizedLaws
namespace Go.Proofs.Ythipnkbfdkmhaaa
open Go.RowKit
set_option linter.unusedVariables false
/-- A reading P of values whose bytes are enc; ok: the values that it reads. -/
structure Codec {α : Type} (P : ByteArray → Int → Int → α × Int × Int) (enc : α → List UInt8) (ok : α → Prop) : Prop where
  good : ∀ {s : ByteArray} {A B : List UInt8} {x : α}, ok x → s.data.toList = A ++ enc x ++ B → P s A.length 0 = (x, ((A.length + (enc x).length : Nat) : Int), 0)
  cut : ∀ {s : ByteArray} {A : List UInt8} {x : α} {k : Nat}, ok x → s.data.toList = A ++ (enc x).take k → k < (enc x).length → (P s A.length 0).2.2 = 2
  stay : ∀ {s : ByteArray} {a e : Int}, e ≠ 0 → (P s a e).2.2 = e
  back : ∀ {s : ByteArray} {i : Nat} {a' : Int} {x : α}, i ≤ s.size → P s i 0 = (x, a', 0) → ok x ∧ ∃ m : Nat, a' = ((i + m : Nat) : Int) ∧ i + m ≤ s.size ∧ enc x = (s.data.toList.drop i).take m
def textB (t : ByteArray) : List UInt8 := putL (t.size : Int) ++ t.data.toList
/-- One thing after another; how the second is read may go by the first. -/
def seqP {α β : Type} (P : ByteArray → Int → Int → α × Int × Int) (Q : α → ByteArray → Int → Int → β × Int × Int) (s : ByteArray) (a e : Int) : (α × β) × Int × Int :=
  let x := P s a e
  let y := Q x.1 s x.2.1 x.2.2
  ((x.1, y.1), y.2.1, y.2.2)
theorem Codec.seq {α β : Type} {P : ByteArray → Int → Int → α × Int × Int} {Q : α → ByteArray → Int → Int → β × Int × Int} {encP : α → List UInt8} {encQ : α → β → List UInt8} {okP : α → Prop} {okQ : α → β → Prop}
    (hP : Codec P encP okP) (hQ : ∀ x, okP x → Codec (Q x) (encQ x) (okQ x)) (hS : ∀ x s a e, e ≠ 0 → (Q x s a e).2.2 = e) :
    Codec (seqP P Q) (fun p => encP p.1 ++ encQ p.1 p.2) (fun p => okP p.1 ∧ okQ p.1 p.2) := by
  refine ⟨fun {s A B x} hx hs => ?_, fun {s A x k} hx hs hk => ?_, fun {s a e} he => ?_, fun {s i a' x} hi' h => ?_⟩
  · obtain ⟨x1, x2⟩ := x
    simp only at hx hs
    have g1 := hP.good (s := s) (A := A) (B := encQ x1 x2 ++ B) hx.1 (by rw [hs]; simp)
    have g2 := (hQ x1 hx.1).good (s := s) (A := A ++ encP x1) (B := B) hx.2 (by rw [hs]; simp)
    rw [List.length_append] at g2
    unfold seqP
    simp only [g1, g2]
    rw [List.length_append, Nat.add_assoc]
  · obtain ⟨x1, x2⟩ := x
    simp only at hx hs hk
    unfold seqP
    simp only
    rcases Nat.lt_or_ge k (encP x1).length with hlt | hge
    · rw [List.take_append_of_le_length (by omega)] at hs
      have g1 := hP.cut (s := s) (A := A) (k := k) hx.1 hs hlt
      rw [g1]
      exact hS _ _ _ _ (by decide)
    · obtain ⟨j, rfl⟩ : ∃ j, k = (encP x1).length + j := ⟨k - (encP x1).length, by omega⟩
      rw [List.take_length_add_append, ← List.append_assoc] at hs
      rw [List.length_append] at hk
      have g1 := hP.good (s := s) (A := A) (B := (encQ x1 x2).take j) hx.1 hs
      have g2 := (hQ x1 hx.1).cut (s := s) (A := A ++ encP x1) (k := j) hx.2 hs (by omega)
      rw [List.length_append] at g2
      simp only [g1]
      exact g2
  · show (Q (P s a e).1 s (P s a e).2.1 (P s a e).2.2).2.2 = e
    rw [hP.stay he]
    exact hS _ _ _ _ he
  · unfold seqP at h
    obtain ⟨⟨x1, a1, e1⟩, hx⟩ : ∃ t, P s i 0 = t := ⟨_, rfl⟩
    simp only [hx] at h
    by_cases he : e1 = 0
    · subst he
      obtain ⟨ok1, m, rfl, hm, q1⟩ := hP.back hi' hx
      obtain ⟨⟨x2, a2, e2⟩, hy⟩ : ∃ t, Q x1 s ((i + m : Nat) : Int) 0 = t := ⟨_, rfl⟩
      simp only [hy, Prod.mk.injEq] at h
      obtain ⟨rfl, rfl, rfl⟩ := h
      obtain ⟨ok2, n, rfl, hn, q2⟩ := (hQ x1 ok1).back hm hy
      refine ⟨⟨ok1, ok2⟩, m + n, by omega, by omega, ?_⟩
      simp only [q1, q2]
      rw [List.take_add, List.drop_drop]
    · have := hS x1 s a1 e1 he
      simp only [Prod.mk.injEq] at h
      rw [h.2.2] at this
      exact absurd this.symm he
theorem Codec.map {α β : Type} {P : ByteArray → Int → Int → α × Int × Int} {enc : α → List UInt8} {ok : α → Prop} (h : Codec P enc ok) (f : α → β) (g : β → α) (hgf : ∀ x, ok x → g (f x) = x) :
    Codec (fun s a e => (f (P s a e).1, (P s a e).2.1, (P s a e).2.2)) (fun b => enc (g b)) (fun b => ok (g b) ∧ f (g b) = b) := by
  refine ⟨fun {s A B x} hx hs => ?_, fun {s A x k} hx hs hk => ?_, fun {s a e} he => ?_, fun {s i a' x} hi' hh => ?_⟩
  · simp only [h.good hx.1 hs, hx.2]
  · exact h.cut hx.1 hs hk
  · exact h.stay he
  · obtain ⟨⟨x1, a1, e1⟩, hx⟩ : ∃ t, P s i 0 = t := ⟨_, rfl⟩
    simp only [hx, Prod.mk.injEq] at hh
    obtain ⟨rfl, rfl, rfl⟩ := hh
    obtain ⟨o, m, r1, r2, r3⟩ := h.back hi' hx
    exact ⟨⟨by rw [hgf _ o]; exact o, by rw [hgf _ o]⟩, m, r1, r2, by rw [hgf _ o]; exact r3⟩
section
variable {α : Type} {P : ByteArray → Int → Int → α × Int × Int} {enc : α → List UInt8} {ok : α → Prop} {may : α → Bool} {z : α} {v : ByteArray} {x : α}
end
end Go.Proofs.Ythipnkbfdkmhaaa
namespace Go.Proofs.Ythipnkbfdkmhaaa
open Go.RowKit
set_option linter.unusedVariables false
section
variable {α : Type}
/-- n things, one behind the other. -/
def listP (P : ByteArray → Int → Int → α × Int × Int) : Nat → ByteArray → Int → Int → List α × Int × Int
  | 0, _, a, e => ([], a, e)
  | n + 1, s, a, e => ((P s a e).1 :: (listP P n s (P s a e).2.1 (P s a e).2.2).1, (listP P n s (P s a e).2.1 (P s a e).2.2).2.1, (listP P n s (P s a e).2.1 (P s a e).2.2).2.2)
variable {P : ByteArray → Int → Int → α × Int × Int} {enc : α → List UInt8} {ok : α → Prop}
theorem listP_stay (hs : ∀ s a e, e ≠ 0 → (P s a e).2.2 = e) : ∀ (n : Nat) (s : ByteArray) (a e : Int), e ≠ 0 → (listP P n s a e).2.2 = e
  | 0, _, _, _, _ => rfl
  | n + 1, s, a, e, he => by
    show (listP P n s (P s a e).2.1 (P s a e).2.2).2.2 = e
    rw [hs s a e he]
    exact listP_stay hs n s _ _ he
/-- The same codec, in other words. -/
theorem Codec.as {enc' : α → List UInt8} {ok' : α → Prop} (h : Codec P enc ok) (h1 : ∀ x, ok' x → ok x ∧ enc x = enc' x) (h2 : ∀ x, ok x → ok' x) : Codec P enc' ok' := by
  refine ⟨fun {s A B x} hx hs => ?_, fun {s A x k} hx hs hk => ?_, fun {s a e} he => h.stay he, fun {s i a' x} hi' hh => ?_⟩
  · rw [← (h1 x hx).2] at hs ⊢
    exact h.good (h1 x hx).1 hs
  · rw [← (h1 x hx).2] at hs hk
    exact h.cut (h1 x hx).1 hs hk
  · obtain ⟨o, m, r1, r2, r3⟩ := h.back hi' hh
    exact ⟨h2 x o, m, r1, r2, by rw [← (h1 x (h2 x o)).2]; exact r3⟩
end
end Go.Proofs.Ythipnkbfdkmhaaa
namespace Go.Proofs.Ythipnkbfdkmhaaa
open Go.RowKit
set_option linter.unusedVariables false
end Go.Proofs.Ythipnkbfdkmhaaa
namespace Go.Proofs.Ythipnkbfdkmhaaa
open Go.RowKit Go.ChangeShapes Go.WideShapes

/-- A slice of ints: its numbers (of its length), its cells below the heap's end, each number in its kind. -/
structure IntsAt (w : World) (a : Option Addr) (len : Nat) (zs : List Int) : Prop where
  length : zs.length = len
  small : len ≤ maxLen
  cells : len = 0 ∨ ∃ b off, a = some ⟨b, off, none⟩ ∧ b < w.heap.size ∧ ∀ i, i < len → w.cell? ⟨b, off + i, none⟩ = some (.int .i64 (zs.getD i 0))
  wf : ∀ z ∈ zs, -9223372036854775808 ≤ z ∧ z ≤ 9223372036854775807

theorem IntsAt.below {w w' : World} {a : Option Addr} {len : Nat} {zs : List Int} (h : IntsAt w a len zs) (hb : Below w.heap.size w w') : IntsAt w' a len zs := by
  obtain ⟨h1, h0, h2, h3⟩ := h
  refine ⟨h1, h0, ?_, h3⟩
  rcases h2 with h | ⟨b, off, ha, hlt, hc⟩
  · exact .inl h
  · exact .inr ⟨b, off, ha, Nat.lt_of_lt_of_le hlt hb.size, fun i hi => (hb.cell hlt).trans (hc i hi)⟩

theorem IntsAt.cell {w : World} {a : Option Addr} {len : Nat} {zs : List Int} (h : IntsAt w a len zs) {k : Nat} (hk : k < len) :
    ∃ b off, a = some ⟨b, off, none⟩ ∧ b < w.heap.size ∧ w.cell? ⟨b, off + k, none⟩ = some (.int .i64 (zs.getD k 0)) ∧ -9223372036854775808 ≤ zs.getD k 0 ∧ zs.getD k 0 ≤ 9223372036854775807 := by
  obtain ⟨h1, _, h2, h3⟩ := h
  rcases h2 with h | ⟨b, off, ha, hlt, hc⟩
  · omega
  · have hm : zs.getD k 0 ∈ zs := by
      rw [List.getD_eq_getElem?_getD, List.getElem?_eq_getElem (by omega)]; exact List.getElem_mem _
    exact ⟨b, off, ha, hlt, hc k hk, (h3 _ hm).1, (h3 _ hm).2⟩

/-- Out of what opening such a slice gives. -/
theorem intsAt_of {w : World} {a : Option Addr} {len cap : Nat} {zs : List Int}
    (h : (a = none ∧ len = 0 ∧ cap = 0 ∧ zs = []) ∨ ∃ x, a = some x ∧ len ≤ cap ∧ cap ≤ maxLen ∧ zs.length = cap ∧ (∀ i, i < zs.length → w.cell? (x.add i) = some (.int .i64 (zs.getD i 0))) ∧ ∀ n ∈ zs, (Lit.int .i64 n).wf = true) :
    IntsAt w a len (zs.take len) := by
  have bd : ∀ n : Int, (Lit.int .i64 n).wf = true → -9223372036854775808 ≤ n ∧ n ≤ 9223372036854775807 := fun n h => by
    simpa [Lit.wf, IntKind.min, IntKind.max, IntKind.signed, IntKind.bits] using h
  rcases h with ⟨rfl, rfl, rfl, rfl⟩ | ⟨x, rfl, hl, hm, hz, hcell, hwz⟩
  · exact ⟨rfl, Nat.zero_le _, .inl rfl, by simp⟩
  · refine ⟨by rw [List.length_take]; omega, Nat.le_trans hl hm, ?_, fun z hz' => bd z (hwz z (List.mem_of_mem_take hz'))⟩
    rcases Nat.eq_zero_or_pos len with h0 | hpos
    · exact .inl h0
    · right
      obtain ⟨b, off, spot⟩ := x
      have hc := hcell 0 (by omega)
      have hspot : spot = none := by simpa [Addr.add] using World.cell?_spot hc
      subst hspot
      have hlt : b < w.heap.size := by
        rcases Nat.lt_or_ge b w.heap.size with h | h
        · exact h
        · simp [World.cell?, Addr.add, Array.getElem?_eq_none h] at hc
      refine ⟨b, off, rfl, hlt, fun i hi => ?_⟩
      have := hcell i (by omega)
      rw [show (⟨b, off, none⟩ : Addr).add i = ⟨b, off + i, none⟩ from by unfold Addr.add; split <;> simp_all] at this
      rw [this, List.getD_eq_getElem?_getD, List.getD_eq_getElem?_getD, List.getElem?_take, if_pos hi]
end Go.Proofs.Ythipnkbfdkmhaaa
namespace Go.Proofs.Ythipnkbfdkmhaaa
open Go.RowKit Go.ChangeShapes Go.WideShapes

/-- From address a on lie the cells vs, in a block that is there. -/
def RowAt (w : World) (a : Option Addr) (vs : List Value) : Prop :=
  vs = [] ∨ ∃ b off, a = some ⟨b, off, none⟩ ∧ b < w.heap.size ∧ ∀ j, j < vs.length → w.cell? ⟨b, off + j, none⟩ = vs[j]?

theorem RowAt.nil (w : World) (a : Option Addr) : RowAt w a [] := .inl rfl
theorem RowAt.below {w w' : World} {a : Option Addr} {vs : List Value} (h : RowAt w a vs) (hb : Below w.heap.size w w') : RowAt w' a vs := by
  rcases h with h | ⟨b, off, ha, hlt, hc⟩
  · exact .inl h
  · exact .inr ⟨b, off, ha, Nat.lt_of_lt_of_le hlt hb.size, fun j hj => (hb.cell hlt).trans (hc j hj)⟩
theorem RowAt.take {w : World} {a : Option Addr} {vs : List Value} (h : RowAt w a vs) (n : Nat) : RowAt w a (vs.take n) := by
  rcases h with h | ⟨b, off, ha, hlt, hc⟩
  · exact .inl (by rw [h, List.take_nil])
  · exact .inr ⟨b, off, ha, hlt, fun j hj => by rw [List.length_take] at hj; rw [hc j (by omega), List.getElem?_take, if_pos (by omega)]⟩
/-- A row of the call's own reads so. -/
theorem RowAt.own {w : World} {base : Nat} {e : TypeId} {size n : Nat} {v : Value} {xs : List Value} (h : w.ownsRow base e size v n xs) :
    ∃ a cap, v = .slice a n cap ∧ RowAt w a xs ∧ n ≤ maxLen := by
  have hl := h.1
  rcases h.2 with ⟨rfl, rfl⟩ | ⟨g, cap, cur, rfl, hb, hg, hnc, hcm, hcs, htake⟩
  · exact ⟨none, 0, rfl, .inl (List.eq_nil_of_length_eq_zero (by simpa using hl)), Nat.zero_le _⟩
  · refine ⟨_, _, rfl, .inr ⟨g, 0, rfl, ?_, fun j hj => ?_⟩, Nat.le_trans hnc hcm⟩
    · exact (Array.getElem?_eq_some_iff.1 hg).1
    · rw [Nat.zero_add]; exact h.cellAt j (by omega)
theorem IntsAt.row {w : World} {a : Option Addr} {len : Nat} {zs : List Int} (h : IntsAt w a len zs) : RowAt w a (zs.map (Value.int .i64)) := by
  obtain ⟨h1, _, h2, _⟩ := h
  rcases h2 with h | ⟨b, off, ha, hlt, hc⟩
  · left; rw [List.eq_nil_of_length_eq_zero (h1.trans h)]; rfl
  · refine .inr ⟨b, off, ha, hlt, fun j hj => ?_⟩
    rw [List.length_map] at hj
    rw [hc j (by omega)]
    simp [List.getD, List.getElem?_eq_getElem hj]

/-- Cell j of element k, of a row of records of c cells each. -/
theorem flat_get {α : Type} (f : α → List Value) (c : Nat) (hf : ∀ x, (f x).length = c) (l : List α) (k j : Nat) (hk : k < l.length) (hj : j < c) :
    (l.flatMap f)[k * c + j]? = (f l[k])[j]? := by
  induction l generalizing k with
  | nil => simp at hk
  | cons x l ih =>
    rw [List.flatMap_cons]
    cases k with
    | zero => rw [Nat.zero_mul, Nat.zero_add, List.getElem?_append_left (by rw [hf]; exact hj)]; rfl
    | succ k =>
      rw [List.getElem?_append_right (by rw [hf, Nat.succ_mul]; omega), hf, Nat.succ_mul, show k * c + c + j - c = k * c + j by omega, ih k (by simpa using hk)]
      rfl
theorem flat_length {α : Type} (f : α → List Value) (c : Nat) (hf : ∀ x, (f x).length = c) (l : List α) : (l.flatMap f).length = l.length * c := by
  induction l with
  | nil => simp
  | cons x l ih => rw [List.flatMap_cons, List.length_append, hf, ih, List.length_cons, Nat.succ_mul]; omega
/-- The cells of element k. -/
theorem RowAt.elem {w : World} {a : Option Addr} {α : Type} {f : α → List Value} {c : Nat} {l : List α} (h : RowAt w a (l.flatMap f)) (hf : ∀ x, (f x).length = c) {k : Nat} (hk : k < l.length) (hc0 : 0 < c) :
    ∃ b off, a = some ⟨b, off, none⟩ ∧ b < w.heap.size ∧ ∀ j, j < c → w.cell? ⟨b, off + (k * c + j), none⟩ = (f l[k])[j]? := by
  rcases h with h | ⟨b, off, ha, hlt, hc⟩
  · have := flat_length f c hf l
    rw [h] at this
    have h2 : 1 * c ≤ l.length * c := Nat.mul_le_mul_right _ (by omega)
    simp only [List.length_nil] at this
    omega
  · refine ⟨b, off, ha, hlt, fun j hj => ?_⟩
    rw [hc _ (by
      rw [flat_length f c hf]
      have h2 : (k + 1) * c ≤ l.length * c := Nat.mul_le_mul_right _ hk
      rw [Nat.succ_mul] at h2
      omega), flat_get f c hf l k j hk hj]

end Go.Proofs.Ythipnkbfdkmhaaa
