/- Rows of cells: what a walk is told of a slice whose elements it reads, whoever made it. -/
import Derived.Test.YtpledhipdiephaaDoorSlices
namespace Go.Proofs.YtpledhipdiephaaDoor
open Go.RowKit Go.ChangeShapes Go.WideShapes

/-- From address a on lie the cells vs, in a block that is there. -/
def RowAt (w : World) (a : Option Addr) (vs : List Value) : Prop :=
  vs = [] ∨ ∃ b off, a = some ⟨b, off, none⟩ ∧ b < w.heap.size ∧ ∀ j, j < vs.length → w.cell? ⟨b, off + j, none⟩ = vs[j]?

theorem RowAt.nil (w : World) (a : Option Addr) : RowAt w a [] := .inl rfl
theorem RowAt.below {w w' : World} {a : Option Addr} {vs : List Value} (h : RowAt w a vs) (hb : Below w.heap.size w w') : RowAt w' a vs := by
  rcases h with h | ⟨b, off, ha, hlt, hc⟩
  · exact .inl h
  · exact .inr ⟨b, off, ha, Nat.lt_of_lt_of_le hlt hb.size, fun j hj => (hb.cell hlt).trans (hc j hj)⟩
theorem RowAt.take {w : World} {a : Option Addr} {vs : List Value} (h : RowAt w a vs) (n : Nat) : RowAt w a (vs.take n) := by
  rcases h with h | ⟨b, off, ha, hlt, hc⟩
  · exact .inl (by rw [h, List.take_nil])
  · exact .inr ⟨b, off, ha, hlt, fun j hj => by rw [List.length_take] at hj; rw [hc j (by omega), List.getElem?_take, if_pos (by omega)]⟩
/-- A row of the call's own reads so. -/
theorem RowAt.own {w : World} {base : Nat} {e : TypeId} {size n : Nat} {v : Value} {xs : List Value} (h : w.ownsRow base e size v n xs) :
    ∃ a cap, v = .slice a n cap ∧ RowAt w a xs ∧ n ≤ maxLen := by
  have hl := h.1
  rcases h.2 with ⟨rfl, rfl⟩ | ⟨g, cap, cur, rfl, hb, hg, hnc, hcm, hcs, htake⟩
  · exact ⟨none, 0, rfl, .inl (List.eq_nil_of_length_eq_zero (by simpa using hl)), Nat.zero_le _⟩
  · refine ⟨_, _, rfl, .inr ⟨g, 0, rfl, ?_, fun j hj => ?_⟩, Nat.le_trans hnc hcm⟩
    · exact (Array.getElem?_eq_some_iff.1 hg).1
    · rw [Nat.zero_add]; exact h.cellAt j (by omega)
theorem IntsAt.row {w : World} {a : Option Addr} {len : Nat} {zs : List Int} (h : IntsAt w a len zs) : RowAt w a (zs.map (Value.int .i64)) := by
  obtain ⟨h1, _, h2, _⟩ := h
  rcases h2 with h | ⟨b, off, ha, hlt, hc⟩
  · left; rw [List.eq_nil_of_length_eq_zero (h1.trans h)]; rfl
  · refine .inr ⟨b, off, ha, hlt, fun j hj => ?_⟩
    rw [List.length_map] at hj
    rw [hc j (by omega)]
    simp [List.getD, List.getElem?_eq_getElem hj]

/-- Cell j of element k, of a row of records of c cells each. -/
theorem flat_get {α : Type} (f : α → List Value) (c : Nat) (hf : ∀ x, (f x).length = c) (l : List α) (k j : Nat) (hk : k < l.length) (hj : j < c) :
    (l.flatMap f)[k * c + j]? = (f l[k])[j]? := by
  induction l generalizing k with
  | nil => simp at hk
  | cons x l ih =>
    rw [List.flatMap_cons]
    cases k with
    | zero => rw [Nat.zero_mul, Nat.zero_add, List.getElem?_append_left (by rw [hf]; exact hj)]; rfl
    | succ k =>
      rw [List.getElem?_append_right (by rw [hf, Nat.succ_mul]; omega), hf, Nat.succ_mul, show k * c + c + j - c = k * c + j by omega, ih k (by simpa using hk)]
      rfl
theorem flat_length {α : Type} (f : α → List Value) (c : Nat) (hf : ∀ x, (f x).length = c) (l : List α) : (l.flatMap f).length = l.length * c := by
  induction l with
  | nil => simp
  | cons x l ih => rw [List.flatMap_cons, List.length_append, hf, ih, List.length_cons, Nat.succ_mul]; omega
/-- The cells of element k. -/
theorem RowAt.elem {w : World} {a : Option Addr} {α : Type} {f : α → List Value} {c : Nat} {l : List α} (h : RowAt w a (l.flatMap f)) (hf : ∀ x, (f x).length = c) {k : Nat} (hk : k < l.length) (hc0 : 0 < c) :
    ∃ b off, a = some ⟨b, off, none⟩ ∧ b < w.heap.size ∧ ∀ j, j < c → w.cell? ⟨b, off + (k * c + j), none⟩ = (f l[k])[j]? := by
  rcases h with h | ⟨b, off, ha, hlt, hc⟩
  · have := flat_length f c hf l
    rw [h] at this
    have h2 : 1 * c ≤ l.length * c := Nat.mul_le_mul_right _ (by omega)
    simp only [List.length_nil] at this
    omega
  · refine ⟨b, off, ha, hlt, fun j hj => ?_⟩
    rw [hc _ (by
      rw [flat_length f c hf]
      have h2 : (k + 1) * c ≤ l.length * c := Nat.mul_le_mul_right _ hk
      rw [Nat.succ_mul] at h2
      omega), flat_get f c hf l k j hk hj]

/-- 'append(s, x)' of one element of several cells, s nil or the call's own. -/
theorem wpList_pushN {P : Program} {w : World} {ops : Array Oper} {rest : List Oper} {o : Oper} {a : Act} {Q : Exit → Act → World → Prop} (hgd : o.guard = none) (s x : Operand) (t : TypeId)
    (ho : o.op = .call { callee := .builtin .append, args := #[s, x], argTypes := #[t, t] })
    {base : Nat} (e : TypeId) (i : TypeInfo) (z : Value) (size bytes : Nat) (ht : P.underlying t = some (.slice e)) (hi : P.info? e = some i) (hz : i.zero = some z)
    (hsize : i.size = size) (hby : i.bytes = bytes) (hzs : z.cells.size = size) (hsz : 0 < size)
    {v : Value} {n : Nat} {xs : List Value} (hown : w.ownsRow base e size v n xs) (hs : a.eval s = v)
    (us : List Value) (hx : a.eval x = .slice (some ⟨w.heap.size, 0, none⟩) 1 1) (hl : us.length = size) (h1 : us.all Value.oneCell' = true)
    (h63 : n + 1 ≤ maxLen) (hbytes : (n + 1) * bytes ≤ 140737488355328) (hbase : base ≤ w.heap.size)
    (h : ∀ v' w', w'.ownsRow base e size v' (n + 1) (xs ++ us) → Below base w w' → wpList P ops Q rest (a.put o.dst v') w') :
    wpList P ops Q (o :: rest) a (w.alloc (.cells us.toArray e)) := by
  refine wpList_append_own _ hgd s x t ho base e i z size bytes ht hi hz hsize hby hzs hsz v n xs hs (hown.alloc _) ⟨w.heap.size, 0, none⟩ 1 1 us hx (by omega) ?_ (fun u hu => (List.all_eq_true.1 h1) u hu) h63 hbytes (by simp; omega) ?_
  · intro j y hj
    have hjl : j < us.length := (List.getElem?_eq_some_iff.1 hj).1
    rw [show (⟨w.heap.size, 0, none⟩ : Addr).add j = ⟨w.heap.size, j, none⟩ from by unfold Addr.add; split <;> simp_all]
    rw [World.cell?_alloc_at _ _ _ _ rfl]; simpa using hj
  · intro v' w' h2 h3 _
    refine h v' w' h2 ?_
    have hb := below_grown (hown.alloc (.cells us.toArray e)) h3 (by simp; omega)
    exact ((Below.refl base w).alloc hbase _).trans hb

/-- The same where the new cell's block is spelled otherwise ('g'). -/
theorem wpList_pushG {P : Program} {w : World} {ops : Array Oper} {rest : List Oper} {o : Oper} {a : Act} {Q : Exit → Act → World → Prop} (hgd : o.guard = none) (s x : Operand) (t : TypeId)
    (ho : o.op = .call { callee := .builtin .append, args := #[s, x], argTypes := #[t, t] })
    {base : Nat} (e : TypeId) (i : TypeInfo) (z : Value) (size bytes : Nat) (ht : P.underlying t = some (.slice e)) (hi : P.info? e = some i) (hz : i.zero = some z)
    (hsize : i.size = size) (hby : i.bytes = bytes) (hzs : z.cells.size = size) (hsz : 0 < size)
    {v : Value} {n : Nat} {xs : List Value} (hown : w.ownsRow base e size v n xs) (hs : a.eval s = v)
    (us : List Value) {g : Nat} (hx : a.eval x = .slice (some ⟨g, 0, none⟩) 1 1) (hg : g = w.heap.size) (hl : us.length = size) (h1 : us.all Value.oneCell' = true)
    (h63 : n + 1 ≤ maxLen) (hbytes : (n + 1) * bytes ≤ 140737488355328) (hbase : base ≤ w.heap.size)
    (h : ∀ v' w', w'.ownsRow base e size v' (n + 1) (xs ++ us) → Below base w w' → wpList P ops Q rest (a.put o.dst v') w') :
    wpList P ops Q (o :: rest) a (w.alloc (.cells us.toArray e)) := by
  subst hg
  exact wpList_pushN hgd s x t ho e i z size bytes ht hi hz hsize hby hzs hsz hown hs us hx hl h1 h63 hbytes hbase h
end Go.Proofs.YtpledhipdiephaaDoor
