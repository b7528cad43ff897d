/- Known headers: a map and the list that it stands for. -/
import Derived.Test.YtbckncopdkmoeaaHd
import Derived.Maps.OwnSet
import Derived.Maps.OwnOps
import Derived.Maps.RangeWalk
import Derived.Maps.Ext
import Derived.WalkKit
import Derived.ProofKit
import Derived.Handy
import Derived.Below
import Derived.Lib.Hide
import Derived.IntWalk
import Derived.Outline
import Derived.WalkLawsBesides
import Derived.WalkSpells
namespace Go.Proofs.Ytbckncopdkmoeaa
open Go.RowKit
attribute [local go_sem] strV
set_option linter.unusedVariables false
/-- How a map's element reads: as the value that it is. -/
def hdR (v : Value) : Option (DataW Value × List MemPlace) := some (.held v, [])
theorem hdR_inj {v u : Value} {ps : List MemPlace} (h : hdR v = some (.held u, ps)) : v = u := by
  unfold hdR at h
  simp only [Option.some.injEq, Prod.mk.injEq, DataW.held.injEq] at h
  exact h.1
theorem int_keyedC : Maps.Keyed Try.prog 3 := Maps.int_keyed Try.underlying3
def risesH (m : List Hd) : Prop := m.Pairwise (fun x y => x.ht < y.ht)
def knownV (m : List Hd) (x : Int) : Hd := (m.find? (fun h => h.ht == x)).getD zeroHd
def knownB (m : List Hd) (x : Int) : Bool := m.any (fun h => h.ht == x)
def insH (m : List Hd) (h : Hd) : List Hd := m.filter (fun y => decide (y.ht < h.ht)) ++ h :: m.filter (fun y => decide (h.ht < y.ht))
theorem knownB_iff {m : List Hd} {x : Int} : knownB m x = true ↔ ∃ h ∈ m, h.ht = x := by
  unfold knownB
  rw [List.any_eq_true]
  simp only [beq_iff_eq]
theorem rises_eq {m : List Hd} (hr : risesH m) {x y : Hd} (hx : x ∈ m) (hy : y ∈ m) (h : x.ht = y.ht) : x = y := by
  obtain ⟨i, hi, rfl⟩ := List.getElem_of_mem hx
  obtain ⟨j, hj, rfl⟩ := List.getElem_of_mem hy
  have h1 := List.pairwise_iff_getElem.1 hr
  rcases Nat.lt_trichotomy i j with h2 | h2 | h2
  · have := h1 i j hi hj h2; omega
  · subst h2; rfl
  · have := h1 j i hj hi h2; omega
theorem knownV_of {m : List Hd} (hr : risesH m) {h : Hd} (hm : h ∈ m) : knownV m h.ht = h := by
  unfold knownV
  cases hf : m.find? (fun y => y.ht == h.ht) with
  | none =>
    have := List.find?_eq_none.1 hf h hm
    simp at this
  | some y =>
    have h1 := List.find?_some hf
    have h2 := List.mem_of_find?_eq_some hf
    simp only [beq_iff_eq] at h1
    exact rises_eq hr h2 hm h1
theorem knownV_none {m : List Hd} {x : Int} (h : knownB m x = false) : knownV m x = zeroHd := by
  unfold knownV
  rw [List.find?_eq_none.2 (fun y hy => ?_)]
  · rfl
  · intro h2
    simp only [beq_iff_eq] at h2
    rw [knownB_iff.2 ⟨y, hy, h2⟩] at h; cases h
theorem insH_mem {m : List Hd} {h y : Hd} : y ∈ insH m h ↔ y = h ∨ (y ∈ m ∧ y.ht ≠ h.ht) := by
  unfold insH
  rw [List.mem_append, List.mem_cons, List.mem_filter, List.mem_filter]
  simp only [decide_eq_true_eq]
  constructor
  · rintro (⟨h1, h2⟩ | h1 | ⟨h1, h2⟩)
    · exact .inr ⟨h1, by omega⟩
    · exact .inl h1
    · exact .inr ⟨h1, by omega⟩
  · rintro (h1 | ⟨h1, h2⟩)
    · exact .inr (.inl h1)
    · rcases Int.lt_or_gt_of_ne h2 with h3 | h3
      · exact .inl ⟨h1, h3⟩
      · exact .inr (.inr ⟨h1, h3⟩)
theorem insH_rises {m : List Hd} (hr : risesH m) (h : Hd) : risesH (insH m h) := by
  unfold insH risesH
  rw [List.pairwise_append, List.pairwise_cons]
  refine ⟨hr.sublist List.filter_sublist, ⟨fun y hy => ?_, hr.sublist List.filter_sublist⟩, fun x hx y hy => ?_⟩
  · simpa using (List.mem_filter.1 hy).2
  · have h1 : x.ht < h.ht := by simpa using (List.mem_filter.1 hx).2
    rcases List.mem_cons.1 hy with rfl | hy
    · exact h1
    · have h2 : h.ht < y.ht := by simpa using (List.mem_filter.1 hy).2
      omega
theorem knownB_ins (m : List Hd) (h : Hd) (x : Int) : knownB (insH m h) x = (decide (x = h.ht) || knownB m x) := by
  rw [Bool.eq_iff_iff, knownB_iff, Bool.or_eq_true, decide_eq_true_eq, knownB_iff]
  constructor
  · rintro ⟨y, hy, rfl⟩
    rcases insH_mem.1 hy with rfl | ⟨h1, h2⟩
    · exact .inl rfl
    · exact .inr ⟨y, h1, rfl⟩
  · rintro (rfl | ⟨y, hy, rfl⟩)
    · exact ⟨h, insH_mem.2 (.inl rfl), rfl⟩
    · by_cases h2 : y.ht = h.ht
      · exact ⟨h, insH_mem.2 (.inl rfl), h2.symm⟩
      · exact ⟨y, insH_mem.2 (.inr ⟨hy, h2⟩), rfl⟩
theorem knownV_same {m : List Hd} (hr : risesH m) (h : Hd) : knownV (insH m h) h.ht = h := knownV_of (insH_rises hr h) (insH_mem.2 (.inl rfl))
theorem knownV_other {m : List Hd} (hr : risesH m) {h : Hd} {x : Int} (hx : x ≠ h.ht) : knownV (insH m h) x = knownV m x := by
  cases hb : knownB m x with
  | true =>
    obtain ⟨y, hy, rfl⟩ := knownB_iff.1 hb
    rw [knownV_of hr hy, knownV_of (insH_rises hr h) (insH_mem.2 (.inr ⟨hy, hx⟩))]
  | false =>
    rw [knownV_none hb, knownV_none]
    rw [knownB_ins, hb, decide_eq_false hx]; rfl
theorem rises_perm : ∀ {l m : List Hd}, risesH l → risesH m → (∀ y, y ∈ l ↔ y ∈ m) → l = m := by
  intro l
  induction l with
  | nil => intro m _ _ h; cases m with
    | nil => rfl
    | cons y m => have := (h y).2 (List.mem_cons_self ..); cases this
  | cons x l ih =>
    intro m hl hm h
    cases m with
    | nil => have := (h x).1 (List.mem_cons_self ..); cases this
    | cons y m =>
      have hl' := List.pairwise_cons.1 hl
      have hm' := List.pairwise_cons.1 hm
      have hxy : x = y := by
        rcases List.mem_cons.1 ((h x).1 (List.mem_cons_self ..)) with h1 | h1
        · exact h1
        · rcases List.mem_cons.1 ((h y).2 (List.mem_cons_self ..)) with h2 | h2
          · exact h2.symm
          · have := hm'.1 x h1; have := hl'.1 y h2; omega
      subst hxy
      rw [ih hl'.2 hm'.2 (fun z => ?_)]
      constructor
      · intro hz
        rcases List.mem_cons.1 ((h z).1 (List.mem_cons_of_mem _ hz)) with rfl | h1
        · have := hl'.1 z hz; omega
        · exact h1
      · intro hz
        rcases List.mem_cons.1 ((h z).2 (List.mem_cons_of_mem _ hz)) with rfl | h1
        · have := hm'.1 z hz; omega
        · exact h1
theorem insH_had {m : List Hd} (hr : risesH m) {h : Hd} (hm : h ∈ m) : insH m h = m := rises_perm (insH_rises hr h) hr (fun y => by
  rw [insH_mem]
  constructor
  · rintro (rfl | ⟨h1, _⟩)
    · exact hm
    · exact h1
  · intro hy
    by_cases h2 : y.ht = h.ht
    · exact .inl (rises_eq hr hy hm h2)
    · exact .inr ⟨hy, h2⟩)
theorem insH_len {m : List Hd} (hr : risesH m) (h : Hd) : (insH m h).length = if knownB m h.ht = true then m.length else m.length + 1 := by
  have key : ∀ (l : List Hd), risesH l → (l.filter (fun y => decide (y.ht < h.ht))).length + (l.filter (fun y => decide (h.ht < y.ht))).length + (if knownB l h.ht = true then 1 else 0) = l.length := by
    intro l
    induction l with
    | nil => intro _; rfl
    | cons x l ih =>
      intro hl
      have hl' := List.pairwise_cons.1 hl
      have := ih hl'.2
      rw [List.length_cons, ← this]
      have hb : knownB (x :: l) h.ht = (decide (x.ht = h.ht) || knownB l h.ht) := by
        rw [Bool.eq_iff_iff]; simp [knownB]
      rw [hb]
      by_cases h1 : x.ht < h.ht
      · rw [List.filter_cons_of_pos (by simpa using h1), List.filter_cons_of_neg (by simp; omega), decide_eq_false (by omega)]
        simp only [List.length_cons, Bool.false_or]; omega
      · by_cases h2 : h.ht < x.ht
        · rw [List.filter_cons_of_neg (by simpa using h1), List.filter_cons_of_pos (by simpa using h2), decide_eq_false (by omega)]
          simp only [List.length_cons, Bool.false_or]; omega
        · have h3 : x.ht = h.ht := by omega
          have h4 : knownB l h.ht = false := by
            cases h5 : knownB l h.ht with
            | false => rfl
            | true =>
              obtain ⟨y, hy, h6⟩ := knownB_iff.1 h5
              have := hl'.1 y hy; omega
          rw [List.filter_cons_of_neg (by simpa using h1), List.filter_cons_of_neg (by simpa using h2), decide_eq_true h3, h4]
          simp
  have := key m hr
  unfold insH
  rw [List.length_append, List.length_cons]
  split <;> rename_i h9 <;> simp only [h9] at this <;> simp at this <;> omega
/-- The map D holds the headers m. -/
structure MapHd (D : DataW Value) (m : List Hd) : Prop where
  at_ : ∀ x : Int, (Lit.int .i64 x).wf = true → D.atKey (.int .i64 x) (.held (.agg zeroHd.row)) = .held (.agg (knownV m x).row)
  has : ∀ x : Int, (Lit.int .i64 x).wf = true → Maps.has D (.int .i64 x) = knownB m x
theorem MapHd.nil : MapHd (.map []) [] := ⟨fun x _ => rfl, fun x _ => rfl⟩
theorem int_isKey {x : Int} (h : (Lit.int .i64 x).wf = true) : WideAt.IsKeyLit (.int .i64 x) := int_keyedC.key (Maps.keyOf_int_mk Try.underlying3 h)
theorem lit_ne {x y : Int} (h : x ≠ y) : (Lit.int .i64 x) ≠ (.int .i64 y) := fun e => h (by injection e)
theorem MapHd.put {D : DataW Value} {m : List Hd} (h : MapHd D m) (hT : Maps.IsMap D) (hr : risesH m) {x : Hd} (hx : (Lit.int .i64 x.ht).wf = true) : MapHd (D.put (.int .i64 x.ht) (.held (.agg x.row))) (insH m x) := by
  refine ⟨fun y hy => ?_, fun y hy => ?_⟩
  · by_cases hxy : y = x.ht
    · subst hxy
      rw [Maps.atKey_put_same hT (int_isKey hx), knownV_same hr]
    · rw [Maps.atKey_put_other (lit_ne hxy), knownV_other hr hxy, h.at_ y hy]
  · by_cases hxy : y = x.ht
    · subst hxy
      rw [Maps.has_put_same hT (int_isKey hx), knownB_ins]; simp
    · rw [Maps.has_put_other (lit_ne hxy), knownB_ins, h.has y hy, decide_eq_false hxy]; rfl
def mayHd (h : Hd) : Bool := decide (1 ≤ h.ht) && decide (h.ht ≤ 1099511627776) && decide (0 ≤ h.tm) && decide (h.tm ≤ 1099511627776)
/-- A client at block g, its map at block b. -/
def ClAt (w : World) (g b n : Nat) (m : List Hd) : Prop := risesH m ∧ (∀ h ∈ m, mayHd h = true) ∧ m.length ≤ n ∧ w.heap[g]? = some (.cells #[.map (some b)] 110 (0, 0)) ∧ ∃ D, w.ownsMap Try.prog 3 hdR b n D ∧ MapHd D m
theorem ClAt.kept {w w' : World} {g b n : Nat} {m : List Hd} (h : ClAt w g b n m) (hb : Below w.heap.size w w') : ClAt w' g b n m := by
  obtain ⟨h1, h2, h3, h4, D, h5, h6⟩ := h
  exact ⟨h1, h2, h3, cells_of h4 hb (row_lt h4), D, h5.kept (grown_below hb) (by simp), h6⟩
theorem ClAt.grown {w w' : World} {g b n : Nat} {m : List Hd} {j : Nat} (h : ClAt w g b n m) (hg : w.grownBy w' (some j)) (h1 : g ≠ j) (h2 : b ≠ j) : ClAt w' g b n m := by
  obtain ⟨q1, q2, q3, q4, D, q5, q6⟩ := h
  exact ⟨q1, q2, q3, grown_at hg q4 (by simpa using h1), D, q5.kept hg (by simpa using h2), q6⟩
theorem ClAt.lt {w : World} {g b n : Nat} {m : List Hd} (h : ClAt w g b n m) : g < w.heap.size ∧ b < w.heap.size := ⟨row_lt h.2.2.2.1, h.2.2.2.2.choose_spec.1.lt⟩
theorem ClAt.ne {w : World} {g b n g2 b2 n2 : Nat} {m m2 : List Hd} (h : ClAt w g b n m) (h2 : ClAt w g2 b2 n2 m2) : g ≠ b2 := fun e => by
  have h3 := h.2.2.2.1
  obtain ⟨es, clock, h4, _⟩ := h2.2.2.2.2.choose_spec.1
  rw [e, h4] at h3; cases h3
theorem may_wf {h : Hd} (hm : mayHd h = true) : (Lit.int .i64 h.ht).wf = true ∧ 1 ≤ h.ht ∧ h.ht ≤ 1099511627776 := by
  unfold mayHd at hm
  simp only [Bool.and_eq_true, decide_eq_true_eq] at hm
  exact ⟨wf_i64 (by omega) (by omega), hm.1.1.1, hm.1.1.2⟩
def chkF (m : List Hd) (h : Hd) (told : List Hd) : Int := if mayHd h = true then (if h ∈ told then (if knownB m h.ht = true ∧ knownV m h.ht ≠ h then 8 else 0) else 9) else 1
end Go.Proofs.Ytbckncopdkmoeaa
