/- Opening arguments that are slices of records and records by value: what a walk is told of them. -/
import Derived.Test.YtpledhipdiephaaDoorRows2
import Derived.Deep.Slices
import Derived.Deep.Fields
import Derived.OpenShut
namespace Go.Proofs.YtpledhipdiephaaDoor
open Go.RowKit Go.ChangeShapes Go.WideShapes Go.Deep

section
variable {H : Type} {enc : TypeId × Value → H} {P : Program} {w : World} {base : Nat} {spare : Nat → Bool} {held : Bool}

/-- The cells r read as a value of type t. -/
def Reads (enc : TypeId × Value → H) (P : Program) (w : World) (base : Nat) (spare : Nat → Bool) (held : Bool) (t : TypeId) (r : List Value) : Prop :=
  ∃ n y, DataW.trod enc P w base spare held n t r = some y

theorem Reads.field {t : TypeId} {fs : Array Field} {r : List Value} (h : Reads enc P w base spare held t r) (hs : P.underlying t = some (.struct fs)) (j : Nat) (f : Field) (hj : fs[j]? = some f) :
    Reads enc P w base spare held f.type ((r.drop f.offset).take (P.cellsOf f.type)) := by
  obtain ⟨n, y, h⟩ := h
  obtain ⟨xs, m, _, _, _, hlen, hf⟩ := DataW.trod_struct hs h
  have hjl : j < xs.length := by rw [hlen]; exact (Array.getElem?_eq_some_iff.1 hj).1
  exact ⟨m, xs[j], by rw [hf j f hj, List.getElem?_eq_getElem hjl]⟩
theorem Reads.int {t : TypeId} {k : IntKind} {r : List Value} (h : Reads enc P w base spare held t r) (ht : P.underlying t = some (.int k)) : ∃ z, r = [.int k z] ∧ (Lit.int k z).wf = true := by
  obtain ⟨n, y, h⟩ := h
  obtain ⟨z, h1, _, h2⟩ := DataW.trod_int ht h
  exact ⟨z, h1, h2⟩
theorem Reads.bool {t : TypeId} {r : List Value} (h : Reads enc P w base spare held t r) (ht : P.underlying t = some .bool) : ∃ z, r = [.bool z] := by
  obtain ⟨n, y, h⟩ := h
  obtain ⟨z, h1, _⟩ := DataW.trod_bool ht h
  exact ⟨z, h1⟩
theorem Reads.string {t : TypeId} {r : List Value} (h : Reads enc P w base spare held t r) (ht : P.underlying t = some .string) : ∃ s : ByteArray, r = [.string s] ∧ s.size ≤ maxLen := by
  obtain ⟨n, y, h⟩ := h
  obtain ⟨z, h1, _, h2⟩ := DataW.trod_string ht h
  exact ⟨z, h1, h2⟩

theorem list_of {α : Type} : ∀ (n : Nat) (p : Nat → α → Prop), (∀ i, i < n → ∃ x, p i x) → ∃ l : List α, l.length = n ∧ ∀ i x, l[i]? = some x → p i x := by
  intro n
  induction n with
  | zero => intro p _; exact ⟨[], rfl, fun i x h => by simp at h⟩
  | succ n ih =>
    intro p h
    obtain ⟨x, hx⟩ := h 0 (by omega)
    obtain ⟨l, hl, hp⟩ := ih (fun i => p (i + 1)) (fun i hi => h (i + 1) (by omega))
    refine ⟨x :: l, by simp [hl], fun i y hy => ?_⟩
    cases i with
    | zero => simp only [List.getElem?_cons_zero, Option.some.injEq] at hy; subst hy; exact hx
    | succ i => exact hp i y (by simpa using hy)

theorem flatten_get {c : Nat} : ∀ (l : List (List Value)) (_ : ∀ r ∈ l, r.length = c) (k j : Nat) (r : List Value), l[k]? = some r → j < c → l.flatten[k * c + j]? = r[j]? := by
  intro l
  induction l with
  | nil => intro _ k j r h; simp at h
  | cons x l ih =>
    intro hc k j r h hj
    have hx := hc x (List.mem_cons_self ..)
    rw [List.flatten_cons]
    cases k with
    | zero =>
      simp only [List.getElem?_cons_zero, Option.some.injEq] at h
      subst h
      rw [Nat.zero_mul, Nat.zero_add, List.getElem?_append_left (by omega)]
    | succ k =>
      rw [List.getElem?_append_right (by rw [hx, Nat.succ_mul]; omega), hx, Nat.succ_mul, show k * c + c + j - c = k * c + j by omega]
      exact ih (fun r hr => hc r (List.mem_cons_of_mem _ hr)) k j r (by simpa using h) hj
theorem flatten_len {c : Nat} : ∀ (l : List (List Value)), (∀ r ∈ l, r.length = c) → l.flatten.length = l.length * c := by
  intro l
  induction l with
  | nil => intro _; simp
  | cons x l ih =>
    intro h
    rw [List.flatten_cons, List.length_append, h x (List.mem_cons_self ..), ih (fun r hr => h r (List.mem_cons_of_mem _ hr)), List.length_cons, Nat.succ_mul]; omega

/-- A slice: its elements' cells, one list an element, each of which reads as the element type. -/
theorem open_recs {t e : TypeId} {fuel : Nat} {cs : List Value} {x : DataW H × List MemPlace} (ht : P.underlying t = some (.slice e)) (h : DataW.trod enc P w base spare held fuel t cs = some x) :
    ∃ a len cap, cs = [.slice a len cap] ∧ len ≤ cap ∧ cap ≤ maxLen ∧ ∃ rows : List (List Value), rows.length = len ∧ RowAt w a rows.flatten ∧ ∀ r ∈ rows, r.length = P.cellsOf e ∧ Reads enc P w base spare held e r := by
  rcases open_slice ht h with ⟨h1, _⟩ | ⟨a, len, cap, m, n, D, Pl, h1, _, hl, hm, hmm, _, hi⟩
  · exact ⟨none, 0, 0, h1, Nat.le_refl _, Nat.zero_le _, [], rfl, RowAt.nil _ _, by simp⟩
  · have hlm : len ≤ m := by rw [hmm]; split <;> omega
    obtain ⟨rows, hrl, hrp⟩ := list_of len (fun i (r : List Value) => r.length = P.cellsOf e ∧ (∀ j, j < P.cellsOf e → w.cell? (a.add (i * P.cellsOf e + j)) = r[j]?) ∧ Reads enc P w base spare held e r) (fun i him => by
      obtain ⟨cs', h2, h3⟩ := hi i (by omega)
      obtain ⟨_, h4, h5⟩ := World.cells?_some h2
      exact ⟨cs', h4, fun j hj => by rw [← add_add]; exact h5 j hj, n, _, h3⟩)
    have hlen : ∀ r ∈ rows, r.length = P.cellsOf e := fun r hr => by
      obtain ⟨i, hi', e⟩ := List.getElem_of_mem hr
      exact (hrp i r (by rw [List.getElem?_eq_getElem hi', e])).1
    refine ⟨some a, len, cap, h1, hl, hm, rows, hrl, ?_, fun r hr => ⟨hlen r hr, ?_⟩⟩
    · have hfl := flatten_len rows hlen
      rcases Nat.eq_zero_or_pos (rows.flatten.length) with h0 | hpos
      · exact .inl (List.eq_nil_of_length_eq_zero h0)
      · right
        have hc0 : 0 < P.cellsOf e := by
          rcases Nat.eq_zero_or_pos (P.cellsOf e) with h | h
          · rw [h, Nat.mul_zero] at hfl; omega
          · exact h
        have hcell : ∀ i, i < rows.flatten.length → w.cell? (a.add i) = rows.flatten[i]? := fun i hi' => by
          have hk : i / P.cellsOf e < rows.length := by rw [Nat.div_lt_iff_lt_mul hc0, ← hfl]; exact hi'
          have hj : i % P.cellsOf e < P.cellsOf e := Nat.mod_lt _ hc0
          have hg : rows[i / P.cellsOf e]? = some rows[i / P.cellsOf e] := List.getElem?_eq_getElem hk
          have h6 := flatten_get rows hlen _ _ _ hg hj
          have h7 := (hrp _ _ hg).2.1 _ hj
          rw [Nat.mul_comm, Nat.div_add_mod] at h6 h7
          rw [h7, h6]
        obtain ⟨b, off, spot⟩ := a
        have hc := hcell 0 hpos
        rw [List.getElem?_eq_getElem hpos] at hc
        have hspot : spot = none := by simpa [Addr.add] using World.cell?_spot hc
        subst hspot
        have hadd : ∀ i, (⟨b, off, none⟩ : Addr).add i = ⟨b, off + i, none⟩ := fun i => by unfold Addr.add; split <;> simp_all
        refine ⟨b, off, rfl, ?_, fun j hj => by rw [← hadd]; exact hcell j hj⟩
        rcases Nat.lt_or_ge b w.heap.size with h | h
        · exact h
        · simp [World.cell?, Addr.add, Array.getElem?_eq_none h] at hc
    · obtain ⟨i, hi', e⟩ := List.getElem_of_mem hr
      exact (hrp i r (by rw [List.getElem?_eq_getElem hi', e])).2.2

/-- Records out of their cells. -/
theorem recs_of {α : Type} (f : α → List Value) : ∀ (rows : List (List Value)), (∀ r ∈ rows, ∃ p, r = f p) → ∃ ps : List α, rows.flatten = ps.flatMap f ∧ ps.length = rows.length := by
  intro rows
  induction rows with
  | nil => intro _; exact ⟨[], rfl, rfl⟩
  | cons r rows ih =>
    intro h
    obtain ⟨p, hp⟩ := h r (List.mem_cons_self ..)
    obtain ⟨ps, h1, h2⟩ := ih (fun r hr => h r (List.mem_cons_of_mem _ hr))
    exact ⟨p :: ps, by rw [List.flatten_cons, List.flatMap_cons, h1, hp], by simp [h2]⟩

/-- A record by value. -/
theorem open_rec {t : TypeId} {fs : Array Field} {r : Reach} {b0 : Nat} {v : Value} {d : DataW H} {p : List MemPlace} (hs : P.underlying t = some (.struct fs)) (hv : Value.okWide P w r b0 t v) (h : DataW.Trod enc P w base spare held t v d p) :
    ∃ l : List Value, v = .agg l.toArray ∧ l.length = P.cellsOf t ∧ Reads enc P w base spare held t l := by
  obtain ⟨cs, rfl, hsz⟩ := okWide_struct hs hv
  obtain ⟨fuel, hf⟩ := h
  refine ⟨cs.toList, by simp, by simpa using hsz, fuel, (d, p), ?_⟩
  simpa [Value.cells] using hf
end
end Go.Proofs.YtpledhipdiephaaDoor
