/- Opening arguments that are slices of records and records by value: what a walk is told of them. Ends as they come in. Packets as they come in. A hash that comes in. Messages as they come in. Limits as they come in. -/
import Derived.Test.YthipnkbfdkmhaaaSA
import Derived.Deep.Slices
import Derived.Deep.Fields
import Derived.OpenShut
import Derived.Test.YthipnkbfdkmhaaaRows
import Derived.Test.YthipnkbfdkmhaaaGC
import Derived.Test.YthipnkbfdkmhaaaMsg1
namespace Go.Proofs.Ythipnkbfdkmhaaa
open Go.RowKit Go.ChangeShapes Go.WideShapes Go.Deep

section
variable {H : Type} {enc : TypeId × Value → H} {P : Program} {w : World} {base : Nat} {spare : Nat → Bool} {held : Bool}

/-- The cells r read as a value of type t. -/
def Reads (enc : TypeId × Value → H) (P : Program) (w : World) (base : Nat) (spare : Nat → Bool) (held : Bool) (t : TypeId) (r : List Value) : Prop :=
  ∃ n y, DataW.trod enc P w base spare held n t r = some y

theorem Reads.field {t : TypeId} {fs : Array Field} {r : List Value} (h : Reads enc P w base spare held t r) (hs : P.underlying t = some (.struct fs)) (j : Nat) (f : Field) (hj : fs[j]? = some f) :
    Reads enc P w base spare held f.type ((r.drop f.offset).take (P.cellsOf f.type)) := by
  obtain ⟨n, y, h⟩ := h
  obtain ⟨xs, m, _, _, _, hlen, hf⟩ := DataW.trod_struct hs h
  have hjl : j < xs.length := by rw [hlen]; exact (Array.getElem?_eq_some_iff.1 hj).1
  exact ⟨m, xs[j], by rw [hf j f hj, List.getElem?_eq_getElem hjl]⟩
theorem Reads.int {t : TypeId} {k : IntKind} {r : List Value} (h : Reads enc P w base spare held t r) (ht : P.underlying t = some (.int k)) : ∃ z, r = [.int k z] ∧ (Lit.int k z).wf = true := by
  obtain ⟨n, y, h⟩ := h
  obtain ⟨z, h1, _, h2⟩ := DataW.trod_int ht h
  exact ⟨z, h1, h2⟩
theorem Reads.bool {t : TypeId} {r : List Value} (h : Reads enc P w base spare held t r) (ht : P.underlying t = some .bool) : ∃ z, r = [.bool z] := by
  obtain ⟨n, y, h⟩ := h
  obtain ⟨z, h1, _⟩ := DataW.trod_bool ht h
  exact ⟨z, h1⟩
theorem Reads.string {t : TypeId} {r : List Value} (h : Reads enc P w base spare held t r) (ht : P.underlying t = some .string) : ∃ s : ByteArray, r = [.string s] ∧ s.size ≤ maxLen := by
  obtain ⟨n, y, h⟩ := h
  obtain ⟨z, h1, _, h2⟩ := DataW.trod_string ht h
  exact ⟨z, h1, h2⟩

theorem list_of {α : Type} : ∀ (n : Nat) (p : Nat → α → Prop), (∀ i, i < n → ∃ x, p i x) → ∃ l : List α, l.length = n ∧ ∀ i x, l[i]? = some x → p i x := by
  intro n
  induction n with
  | zero => intro p _; exact ⟨[], rfl, fun i x h => by simp at h⟩
  | succ n ih =>
    intro p h
    obtain ⟨x, hx⟩ := h 0 (by omega)
    obtain ⟨l, hl, hp⟩ := ih (fun i => p (i + 1)) (fun i hi => h (i + 1) (by omega))
    refine ⟨x :: l, by simp [hl], fun i y hy => ?_⟩
    cases i with
    | zero => simp only [List.getElem?_cons_zero, Option.some.injEq] at hy; subst hy; exact hx
    | succ i => exact hp i y (by simpa using hy)

theorem flatten_get {c : Nat} : ∀ (l : List (List Value)) (_ : ∀ r ∈ l, r.length = c) (k j : Nat) (r : List Value), l[k]? = some r → j < c → l.flatten[k * c + j]? = r[j]? := by
  intro l
  induction l with
  | nil => intro _ k j r h; simp at h
  | cons x l ih =>
    intro hc k j r h hj
    have hx := hc x (List.mem_cons_self ..)
    rw [List.flatten_cons]
    cases k with
    | zero =>
      simp only [List.getElem?_cons_zero, Option.some.injEq] at h
      subst h
      rw [Nat.zero_mul, Nat.zero_add, List.getElem?_append_left (by omega)]
    | succ k =>
      rw [List.getElem?_append_right (by rw [hx, Nat.succ_mul]; omega), hx, Nat.succ_mul, show k * c + c + j - c = k * c + j by omega]
      exact ih (fun r hr => hc r (List.mem_cons_of_mem _ hr)) k j r (by simpa using h) hj
theorem flatten_len {c : Nat} : ∀ (l : List (List Value)), (∀ r ∈ l, r.length = c) → l.flatten.length = l.length * c := by
  intro l
  induction l with
  | nil => intro _; simp
  | cons x l ih =>
    intro h
    rw [List.flatten_cons, List.length_append, h x (List.mem_cons_self ..), ih (fun r hr => h r (List.mem_cons_of_mem _ hr)), List.length_cons, Nat.succ_mul]; omega

/-- A slice: its elements' cells, one list an element, each of which reads as the element type. -/
theorem open_recs {t e : TypeId} {fuel : Nat} {cs : List Value} {x : DataW H × List MemPlace} (ht : P.underlying t = some (.slice e)) (h : DataW.trod enc P w base spare held fuel t cs = some x) :
    ∃ a len cap, cs = [.slice a len cap] ∧ len ≤ cap ∧ cap ≤ maxLen ∧ ∃ rows : List (List Value), rows.length = len ∧ RowAt w a rows.flatten ∧ ∀ r ∈ rows, r.length = P.cellsOf e ∧ Reads enc P w base spare held e r := by
  rcases open_slice ht h with ⟨h1, _⟩ | ⟨a, len, cap, m, n, D, Pl, h1, _, hl, hm, hmm, _, hi⟩
  · exact ⟨none, 0, 0, h1, Nat.le_refl _, Nat.zero_le _, [], rfl, RowAt.nil _ _, by simp⟩
  · have hlm : len ≤ m := by rw [hmm]; split <;> omega
    obtain ⟨rows, hrl, hrp⟩ := list_of len (fun i (r : List Value) => r.length = P.cellsOf e ∧ (∀ j, j < P.cellsOf e → w.cell? (a.add (i * P.cellsOf e + j)) = r[j]?) ∧ Reads enc P w base spare held e r) (fun i him => by
      obtain ⟨cs', h2, h3⟩ := hi i (by omega)
      obtain ⟨_, h4, h5⟩ := World.cells?_some h2
      exact ⟨cs', h4, fun j hj => by rw [← add_add]; exact h5 j hj, n, _, h3⟩)
    have hlen : ∀ r ∈ rows, r.length = P.cellsOf e := fun r hr => by
      obtain ⟨i, hi', e⟩ := List.getElem_of_mem hr
      exact (hrp i r (by rw [List.getElem?_eq_getElem hi', e])).1
    refine ⟨some a, len, cap, h1, hl, hm, rows, hrl, ?_, fun r hr => ⟨hlen r hr, ?_⟩⟩
    · have hfl := flatten_len rows hlen
      rcases Nat.eq_zero_or_pos (rows.flatten.length) with h0 | hpos
      · exact .inl (List.eq_nil_of_length_eq_zero h0)
      · right
        have hc0 : 0 < P.cellsOf e := by
          rcases Nat.eq_zero_or_pos (P.cellsOf e) with h | h
          · rw [h, Nat.mul_zero] at hfl; omega
          · exact h
        have hcell : ∀ i, i < rows.flatten.length → w.cell? (a.add i) = rows.flatten[i]? := fun i hi' => by
          have hk : i / P.cellsOf e < rows.length := by rw [Nat.div_lt_iff_lt_mul hc0, ← hfl]; exact hi'
          have hj : i % P.cellsOf e < P.cellsOf e := Nat.mod_lt _ hc0
          have hg : rows[i / P.cellsOf e]? = some rows[i / P.cellsOf e] := List.getElem?_eq_getElem hk
          have h6 := flatten_get rows hlen _ _ _ hg hj
          have h7 := (hrp _ _ hg).2.1 _ hj
          rw [Nat.mul_comm, Nat.div_add_mod] at h6 h7
          rw [h7, h6]
        obtain ⟨b, off, spot⟩ := a
        have hc := hcell 0 hpos
        rw [List.getElem?_eq_getElem hpos] at hc
        have hspot : spot = none := by simpa [Addr.add] using World.cell?_spot hc
        subst hspot
        have hadd : ∀ i, (⟨b, off, none⟩ : Addr).add i = ⟨b, off + i, none⟩ := fun i => by unfold Addr.add; split <;> simp_all
        refine ⟨b, off, rfl, ?_, fun j hj => by rw [← hadd]; exact hcell j hj⟩
        rcases Nat.lt_or_ge b w.heap.size with h | h
        · exact h
        · simp [World.cell?, Addr.add, Array.getElem?_eq_none h] at hc
    · obtain ⟨i, hi', e⟩ := List.getElem_of_mem hr
      exact (hrp i r (by rw [List.getElem?_eq_getElem hi', e])).2.2

/-- Records out of their cells. -/
theorem recs_of {α : Type} (f : α → List Value) : ∀ (rows : List (List Value)), (∀ r ∈ rows, ∃ p, r = f p) → ∃ ps : List α, rows.flatten = ps.flatMap f ∧ ps.length = rows.length := by
  intro rows
  induction rows with
  | nil => intro _; exact ⟨[], rfl, rfl⟩
  | cons r rows ih =>
    intro h
    obtain ⟨p, hp⟩ := h r (List.mem_cons_self ..)
    obtain ⟨ps, h1, h2⟩ := ih (fun r hr => h r (List.mem_cons_of_mem _ hr))
    exact ⟨p :: ps, by rw [List.flatten_cons, List.flatMap_cons, h1, hp], by simp [h2]⟩

/-- A record by value. -/
theorem open_rec {t : TypeId} {fs : Array Field} {r : Reach} {b0 : Nat} {v : Value} {d : DataW H} {p : List MemPlace} (hs : P.underlying t = some (.struct fs)) (hv : Value.okWide P w r b0 t v) (h : DataW.Trod enc P w base spare held t v d p) :
    ∃ l : List Value, v = .agg l.toArray ∧ l.length = P.cellsOf t ∧ Reads enc P w base spare held t l := by
  obtain ⟨cs, rfl, hsz⟩ := okWide_struct hs hv
  obtain ⟨fuel, hf⟩ := h
  refine ⟨cs.toList, by simp, by simpa using hsz, fuel, (d, p), ?_⟩
  simpa [Value.cells] using hf
end
end Go.Proofs.Ythipnkbfdkmhaaa
namespace Go.Proofs.Ythipnkbfdkmhaaa
open Go.RowKit Go.ChangeShapes Go.WideShapes Go.Deep

theorem Try.cellsEn : Try.prog.cellsOf 27 = 2 := by kernel_rfl
theorem Try.cellsInt : Try.prog.cellsOf 3 = 1 := by kernel_rfl
theorem Try.cellsStr : Try.prog.cellsOf 9 = 1 := by kernel_rfl

section
variable {H : Type} {enc : TypeId × Value → H} {w : World} {base : Nat} {spare : Nat → Bool} {held : Bool}
theorem int_bd {z : Int} (h : (Lit.int .i64 z).wf = true) : -9223372036854775808 ≤ z ∧ z ≤ 9223372036854775807 := by
  simpa [Lit.wf, IntKind.min, IntKind.max, IntKind.signed, IntKind.bits] using h
theorem end_open {r : List Value} (hl : r.length = Try.prog.cellsOf 27) (h : Reads enc Try.prog w base spare held 27 r) :
    ∃ (p : ByteArray) (c : Int), r = [.string p, .int .i64 c] ∧ p.size ≤ maxLen ∧ -9223372036854775808 ≤ c ∧ c ≤ 9223372036854775807 := by
  rw [Try.cellsEn] at hl
  match r, hl with
  | [c0, c1], _ =>
    have h0 := h.field Try.underlying27 0 _ rfl
    have h1 := h.field Try.underlying27 1 _ rfl
    simp [Try.cellsInt, Try.cellsStr] at h0 h1
    obtain ⟨z0, e0, s0⟩ := h0.string Try.underlying9
    obtain ⟨z1, e1, b1⟩ := h1.int Try.underlying3
    simp at e0 e1
    subst e0 e1
    exact ⟨z0, z1, rfl, s0, (int_bd b1).1, (int_bd b1).2⟩
end
end Go.Proofs.Ythipnkbfdkmhaaa
namespace Go.Proofs.Ythipnkbfdkmhaaa
open Go.RowKit Go.ChangeShapes Go.WideShapes Go.Deep

theorem Try.cellsPkt : Try.prog.cellsOf 29 = 8 := by kernel_rfl
section
variable {H : Type} {enc : TypeId × Value → H} {w : World} {base : Nat} {spare : Nat → Bool} {held : Bool}
theorem pkt_open {r : List Value} (hl : r.length = Try.prog.cellsOf 29) (h : Reads enc Try.prog w base spare held 29 r) :
    ∃ (sp : ByteArray) (sc : Int) (dp : ByteArray) (dc seq : Int) (dat : ByteArray) (th ta : Int), r = [.string sp, .int .i64 sc, .string dp, .int .i64 dc, .int .i64 seq, .string dat, .int .i64 th, .int .i64 ta] ∧ sp.size ≤ maxLen ∧ dp.size ≤ maxLen ∧ dat.size ≤ maxLen := by
  rw [Try.cellsPkt] at hl
  match r, hl with
  | [c0, c1, c2, c3, c4, c5, c6, c7], _ =>
    have h0 := h.field Try.underlying29 0 _ rfl
    have h1 := h.field Try.underlying29 1 _ rfl
    have h2 := h.field Try.underlying29 2 _ rfl
    have h3 := h.field Try.underlying29 3 _ rfl
    have h4 := h.field Try.underlying29 4 _ rfl
    have h5 := h.field Try.underlying29 5 _ rfl
    simp [Try.cellsInt, Try.cellsStr, Try.cellsEn] at h0 h1 h2 h3 h4 h5
    obtain ⟨z0, z1, e0, s0, _⟩ := end_open (by rw [Try.cellsEn]; rfl) h0
    obtain ⟨z2, z3, e1, s1, _⟩ := end_open (by rw [Try.cellsEn]; rfl) h1
    obtain ⟨z4, e2, _⟩ := h2.int Try.underlying3
    obtain ⟨z5, e3, s3⟩ := h3.string Try.underlying9
    obtain ⟨z6, e4, _⟩ := h4.int Try.underlying3
    obtain ⟨z7, e5, _⟩ := h5.int Try.underlying3
    simp at e0 e1 e2 e3 e4 e5
    obtain ⟨rfl, rfl⟩ := e0
    obtain ⟨rfl, rfl⟩ := e1
    subst e2 e3 e4 e5
    exact ⟨z0, z1, z2, z3, z4, z5, z6, z7, rfl, s0, s1, s3⟩
end
end Go.Proofs.Ythipnkbfdkmhaaa
namespace Go.Proofs.Ythipnkbfdkmhaaa
open Go.RowKit Go.ChangeShapes Go.WideShapes Go.Deep
section
variable {H : Type} {enc : TypeId × Value → H} {P : Program} {w : World} {base : Nat} {spare : Nat → Bool} {held : Bool}
theorem Reads.bytes {t e : TypeId} {n : Nat} {r : List Value} (h : Reads enc P w base spare held t r) (ht : P.underlying t = some (.array n e)) (he : P.underlying e = some (.int .u8)) (hce : P.cellsOf e = 1) (hr : r.length = n) :
    ∃ q : List UInt8, q.length = n ∧ r = Lib.byteCells q := by
  obtain ⟨m, y, h⟩ := h
  obtain ⟨xs, k, _, _, _, hlen, hf⟩ := DataW.trod_array ht h
  have key : ∀ i, i < n → ∃ c : UInt8, r[i]? = some (.int .u8 (c.toNat : Int)) := fun i hi => by
    have hx := hf i hi
    rw [hce, Nat.mul_one] at hx
    obtain ⟨c, hc⟩ : ∃ c, xs[i]? = some c := ⟨_, List.getElem?_eq_getElem (by omega)⟩
    rw [hc] at hx
    obtain ⟨z, h1, _, h2⟩ := DataW.trod_int he hx
    have hz : 0 ≤ z ∧ z ≤ 255 := by simpa [Lit.wf, IntKind.min, IntKind.max, IntKind.signed, IntKind.bits] using h2
    refine ⟨UInt8.ofNat z.toNat, ?_⟩
    have h3 : ((r.drop i).take 1)[0]? = some (.int .u8 z) := by rw [h1]; rfl
    rw [List.getElem?_take_of_lt (by omega), List.getElem?_drop, Nat.add_zero] at h3
    rw [h3]
    congr 2
    rw [UInt8.toNat_ofNat', Nat.mod_eq_of_lt (by omega)]
    omega
  obtain ⟨q, hq, hp⟩ := list_of n (fun i (c : UInt8) => r[i]? = some (.int .u8 (c.toNat : Int))) key
  refine ⟨q, hq, ?_⟩
  apply List.ext_getElem?
  intro i
  rcases Nat.lt_or_ge i n with hi | hi
  · have hqi : q[i]? = some q[i] := List.getElem?_eq_getElem (by omega)
    rw [hp i _ hqi]
    unfold Lib.byteCells
    rw [List.getElem?_map, hqi]; rfl
  · rw [List.getElem?_eq_none (by omega), List.getElem?_eq_none (by rw [Lib.byteCells_length]; omega)]
end
end Go.Proofs.Ythipnkbfdkmhaaa
namespace Go.Proofs.Ythipnkbfdkmhaaa
open Go.RowKit Go.ChangeShapes Go.WideShapes Go.Deep
theorem recs_ofP {α : Type} (f : α → List Value) (Q : α → Prop) : ∀ (rows : List (List Value)), (∀ r ∈ rows, ∃ p, r = f p ∧ Q p) → ∃ ps : List α, rows.flatten = ps.flatMap f ∧ ps.length = rows.length ∧ ∀ p ∈ ps, Q p := by
  intro rows
  induction rows with
  | nil => intro _; exact ⟨[], rfl, rfl, fun p hp => by cases hp⟩
  | cons r rows ih =>
    intro h
    obtain ⟨p, hp, hq⟩ := h r (List.mem_cons_self ..)
    obtain ⟨ps, h1, h2, h3⟩ := ih (fun r hr => h r (List.mem_cons_of_mem _ hr))
    refine ⟨p :: ps, by rw [List.flatten_cons, List.flatMap_cons, h1, hp], by simp [h2], fun q hq' => ?_⟩
    rcases List.mem_cons.1 hq' with rfl | hq'
    · exact hq
    · exact h3 q hq'
theorem drop_cut (r : List Value) (a b : Nat) : (r.drop a).take b ++ r.drop (a + b) = r.drop a := by
  rw [← List.drop_drop]; exact List.take_append_drop _ _
theorem Try.cellsHash : Try.prog.cellsOf 23 = 32 := by kernel_rfl
theorem Try.cellsLeaf : Try.prog.cellsOf 111 = 4 := by kernel_rfl
theorem Try.cellsPf : Try.prog.cellsOf 32 = 2 := by kernel_rfl
theorem Try.cellsHdr : Try.prog.cellsOf 25 = 34 := by kernel_rfl
theorem Try.cellsMsg : Try.prog.cellsOf 34 = 50 := by kernel_rfl
theorem Try.cellsHashes : Try.prog.cellsOf 109 = 1 := by kernel_rfl
theorem Try.cellsLeaves : Try.prog.cellsOf 30 = 1 := by kernel_rfl
section
variable {H : Type} {enc : TypeId × Value → H} {w : World} {base : Nat} {spare : Nat → Bool} {held : Bool}
theorem h32_open {r : List Value} (hl : r.length = Try.prog.cellsOf 23) (h : Reads enc Try.prog w base spare held 23 r) : ∃ q : H32, r = q.cells := by
  obtain ⟨q, hq, hr⟩ := h.bytes Try.underlying23 Try.underlying5 (by kernel_rfl) (by rw [hl, Try.cellsHash])
  exact ⟨⟨q, hq⟩, hr⟩
theorem leaf_open {r : List Value} (hl : r.length = Try.prog.cellsOf 111) (h : Reads enc Try.prog w base spare held 111 r) : ∃ x : LeafV, r = x.cells ∧ x.ok w := by
  rw [Try.cellsLeaf] at hl
  match r, hl with
  | [c0, c1, c2, c3], _ =>
    have h0 := h.field Try.underlying111 0 _ rfl
    have h1 := h.field Try.underlying111 1 _ rfl
    have h2 := h.field Try.underlying111 2 _ rfl
    have h3 := h.field Try.underlying111 3 _ rfl
    simp [Try.cellsInt, Try.cellsStr, Try.cellsHashes] at h0 h1 h2 h3
    obtain ⟨z0, e0, s0⟩ := h0.string Try.underlying9
    obtain ⟨z1, e1, s1⟩ := h1.string Try.underlying9
    obtain ⟨z2, e2, _⟩ := h2.int Try.underlying3
    obtain ⟨fuel, y, hf⟩ := h3
    obtain ⟨a, len, cap, hcs, hln, hm, rows, hrl, hrow, hr⟩ := open_recs Try.underlying109 hf
    simp at e0 e1 e2 hcs
    subst e0 e1 e2 hcs
    obtain ⟨es, e, hpl⟩ := recs_of H32.cells rows (fun r hr' => h32_open (hr r hr').1 (hr r hr').2)
    exact ⟨⟨_, _, _, a, len, cap, es⟩, rfl, by rw [← e]; exact hrow, by simpa [hpl] using hrl, hln, hm, s0, s1⟩
theorem pf_open {r : List Value} (hl : r.length = Try.prog.cellsOf 32) (h : Reads enc Try.prog w base spare held 32 r) :
    ∃ (ct : Int) (a : Option Addr) (n c : Nat) (xs : List LeafV), r = [.int .i64 ct, .slice a n c] ∧ LvsAt w a xs ∧ xs.length = n ∧ n ≤ c ∧ c ≤ maxLen := by
  rw [Try.cellsPf] at hl
  match r, hl with
  | [c0, c1], _ =>
    have h0 := h.field Try.underlying32 0 _ rfl
    have h1 := h.field Try.underlying32 1 _ rfl
    simp [Try.cellsInt, Try.cellsLeaves] at h0 h1
    obtain ⟨z0, e0, _⟩ := h0.int Try.underlying3
    obtain ⟨fuel, y, hf⟩ := h1
    obtain ⟨a, len, cap, hcs, hln, hm, rows, hrl, hrow, hr⟩ := open_recs Try.underlying30 hf
    simp at e0 hcs
    subst e0 hcs
    obtain ⟨es, e, hpl, hq⟩ := recs_ofP LeafV.cells (fun x => x.ok w) rows (fun r hr' => leaf_open (hr r hr').1 (hr r hr').2)
    exact ⟨_, _, _, _, es, rfl, ⟨by rw [← e]; exact hrow, hq⟩, by rw [hpl, hrl], hln, hm⟩
theorem hdr_open {r : List Value} (hl : r.length = Try.prog.cellsOf 25) (h : Reads enc Try.prog w base spare held 25 r) : ∃ (ht tm : Int) (q : H32), r = hdL ht tm q := by
  rw [Try.cellsHdr] at hl
  have h0 := h.field Try.underlying25 0 _ rfl
  have h1 := h.field Try.underlying25 1 _ rfl
  have h2 := h.field Try.underlying25 2 _ rfl
  simp only [List.getElem_toArray, List.getElem_cons_zero, List.getElem_cons_succ, Try.cellsInt, Try.cellsHash] at h0 h1 h2
  obtain ⟨z0, e0, _⟩ := h0.int Try.underlying3
  obtain ⟨z1, e1, _⟩ := h1.int Try.underlying3
  obtain ⟨q, e2⟩ := h32_open (by rw [Try.cellsHash, List.length_take, List.length_drop, hl]; rfl) h2
  refine ⟨z0, z1, q, ?_⟩
  unfold hdL
  have d0 := drop_cut r 0 1
  have d1 := drop_cut r 1 1
  have d2 := drop_cut r 2 32
  rw [List.drop_of_length_le (by omega : r.length ≤ 2 + 32), List.append_nil] at d2
  rw [show r = r.drop 0 from rfl, ← d0, show 0 + 1 = 1 from rfl, ← d1, show 1 + 1 = 2 from rfl, ← d2]
  rw [show (r.drop 0).take 1 = [.int .i64 z0] from e0, show (r.drop 1).take 1 = [.int .i64 z1] from e1, show (r.drop 2).take 32 = q.cells from e2]
  rfl
theorem msg_open {r : List Value} (hl : r.length = Try.prog.cellsOf 34) (h : Reads enc Try.prog w base spare held 34 r) : ∃ m : MsgV, r = m.L ∧ m.ok w := by
  rw [Try.cellsMsg] at hl
  have h0 := h.field Try.underlying34 0 _ rfl
  have h1 := h.field Try.underlying34 1 _ rfl
  have h2 := h.field Try.underlying34 2 _ rfl
  have h3 := h.field Try.underlying34 3 _ rfl
  have h4 := h.field Try.underlying34 4 _ rfl
  have h5 := h.field Try.underlying34 5 _ rfl
  have h6 := h.field Try.underlying34 6 _ rfl
  have h7 := h.field Try.underlying34 7 _ rfl
  simp only [List.getElem_toArray, List.getElem_cons_zero, List.getElem_cons_succ, Try.cellsInt, Try.cellsHdr, Try.cellsPkt, Try.cellsStr, Try.cellsPf] at h0 h1 h2 h3 h4 h5 h6 h7
  obtain ⟨kd, e0, _⟩ := h0.int Try.underlying3
  obtain ⟨hh, ht, rt, e1⟩ := hdr_open (by rw [Try.cellsHdr, List.length_take, List.length_drop, hl]; rfl) h1
  obtain ⟨sp, sc, dp, dc, sq, da, th, ta, e2, s1, s2, _⟩ := pkt_open (by rw [Try.cellsPkt, List.length_take, List.length_drop, hl]; rfl) h2
  obtain ⟨ack, e3, _⟩ := h3.string Try.underlying9
  obtain ⟨nx, e4, _⟩ := h4.int Try.underlying3
  obtain ⟨he, e5, _⟩ := h5.int Try.underlying3
  obtain ⟨pct, pa, pn, pc, pxs, e6, p1, p2, p3, p4⟩ := pf_open (by rw [Try.cellsPf, List.length_take, List.length_drop, hl]; rfl) h6
  obtain ⟨cct, ca, cn, cc, cxs, e7, c1, c2, c3, c4⟩ := pf_open (by rw [Try.cellsPf, List.length_take, List.length_drop, hl]; rfl) h7
  refine ⟨⟨kd, hh, ht, rt, sp, sc, dp, dc, sq, da, th, ta, ack, nx, he, pct, pa, pn, pc, pxs, cct, ca, cn, cc, cxs⟩, ?_, ⟨p1, p2, p3, p4, c1, c2, c3, c4, s1, s2⟩⟩
  have d0 := drop_cut r 0 1
  have d1 := drop_cut r 1 34
  have d2 := drop_cut r 35 8
  have d3 := drop_cut r 43 1
  have d4 := drop_cut r 44 1
  have d5 := drop_cut r 45 1
  have d6 := drop_cut r 46 2
  have d7 := drop_cut r 48 2
  rw [List.drop_of_length_le (by omega : r.length ≤ 48 + 2), List.append_nil] at d7
  rw [show r = r.drop 0 from rfl, ← d0, show 0 + 1 = 1 from rfl, ← d1, show 1 + 34 = 35 from rfl, ← d2, show 35 + 8 = 43 from rfl, ← d3, show 43 + 1 = 44 from rfl, ← d4, show 44 + 1 = 45 from rfl, ← d5, show 45 + 1 = 46 from rfl, ← d6, show 46 + 2 = 48 from rfl, ← d7]
  rw [show (r.drop 0).take 1 = [.int .i64 kd] from e0, show (r.drop 1).take 34 = hdL hh ht rt from e1, show (r.drop 35).take 8 = _ from e2, show (r.drop 43).take 1 = [.string ack] from e3, show (r.drop 44).take 1 = [.int .i64 nx] from e4, show (r.drop 45).take 1 = [.int .i64 he] from e5, show (r.drop 46).take 2 = _ from e6, show (r.drop 48).take 2 = _ from e7]
  unfold MsgV.L MsgV.back hdL
  simp
end
end Go.Proofs.Ythipnkbfdkmhaaa
namespace Go.Proofs.Ythipnkbfdkmhaaa
open Go.RowKit Go.ChangeShapes Go.WideShapes Go.Deep
theorem Try.cellsLim : Try.prog.cellsOf 58 = 3 := by kernel_rfl
section
variable {H : Type} {enc : TypeId × Value → H} {w : World} {base : Nat} {spare : Nat → Bool} {held : Bool}
theorem lim_open {r : List Value} (hl : r.length = Try.prog.cellsOf 58) (h : Reads enc Try.prog w base spare held 58 r) :
    ∃ g b c : Int, r = [.int .i64 g, .int .i64 b, .int .i64 c] := by
  rw [Try.cellsLim] at hl
  match r, hl with
  | [c0, c1, c2], _ =>
    have h0 := h.field Try.underlying58 0 _ rfl
    have h1 := h.field Try.underlying58 1 _ rfl
    have h2 := h.field Try.underlying58 2 _ rfl
    simp [Try.cellsInt] at h0 h1 h2
    obtain ⟨z0, e0, _⟩ := h0.int Try.underlying3
    obtain ⟨z1, e1, _⟩ := h1.int Try.underlying3
    obtain ⟨z2, e2, _⟩ := h2.int Try.underlying3
    simp at e0 e1 e2
    subst e0 e1 e2
    exact ⟨_, _, _, rfl⟩
end
end Go.Proofs.Ythipnkbfdkmhaaa
