/- Headers that come in. -/
import Derived.Test.YtbckncopdkmoeaaOpen
import Derived.Test.YtbckncopdkmoeaaCnK
namespace Go.Proofs.Ytbckncopdkmoeaa
open Go.RowKit Go.ChangeShapes Go.WideShapes Go.Deep
theorem Try.cellsHdr : Try.prog.cellsOf 43 = 34 := by kernel_rfl
theorem Try.cellsHsh : Try.prog.cellsOf 41 = 32 := by kernel_rfl
theorem Try.cellsIntH : Try.prog.cellsOf 3 = 1 := by kernel_rfl
theorem recs_ofP {α : Type} (f : α → List Value) (Q : α → Prop) : ∀ (rows : List (List Value)), (∀ r ∈ rows, ∃ p, r = f p ∧ Q p) → ∃ ps : List α, rows.flatten = ps.flatMap f ∧ ps.length = rows.length ∧ ∀ p ∈ ps, Q p := by
  intro rows
  induction rows with
  | nil => intro _; exact ⟨[], rfl, rfl, fun p hp => by cases hp⟩
  | cons r rows ih =>
    intro h
    obtain ⟨p, hp, hq⟩ := h r (List.mem_cons_self ..)
    obtain ⟨ps, h1, h2, h3⟩ := ih (fun r hr => h r (List.mem_cons_of_mem _ hr))
    refine ⟨p :: ps, by rw [List.flatten_cons, List.flatMap_cons, h1, hp], by simp [h2], fun q hq' => ?_⟩
    rcases List.mem_cons.1 hq' with rfl | hq'
    · exact hq
    · exact h3 q hq'
section
variable {H : Type} {enc : TypeId × Value → H} {P : Program} {w : World} {base : Nat} {spare : Nat → Bool} {held : Bool}
theorem Reads.bytes {t e : TypeId} {n : Nat} {r : List Value} (h : Reads enc P w base spare held t r) (ht : P.underlying t = some (.array n e)) (he : P.underlying e = some (.int .u8)) (hce : P.cellsOf e = 1) (hr : r.length = n) :
    ∃ q : List UInt8, q.length = n ∧ r = Lib.byteCells q := by
  obtain ⟨m, y, h⟩ := h
  obtain ⟨xs, k, _, _, _, hlen, hf⟩ := DataW.trod_array ht h
  have key : ∀ i, i < n → ∃ c : UInt8, r[i]? = some (.int .u8 (c.toNat : Int)) := fun i hi => by
    have hx := hf i hi
    rw [hce, Nat.mul_one] at hx
    obtain ⟨c, hc⟩ : ∃ c, xs[i]? = some c := ⟨_, List.getElem?_eq_getElem (by omega)⟩
    rw [hc] at hx
    obtain ⟨z, h1, _, h2⟩ := DataW.trod_int he hx
    have hz : 0 ≤ z ∧ z ≤ 255 := by simpa [Lit.wf, IntKind.min, IntKind.max, IntKind.signed, IntKind.bits] using h2
    refine ⟨UInt8.ofNat z.toNat, ?_⟩
    have h3 : ((r.drop i).take 1)[0]? = some (.int .u8 z) := by rw [h1]; rfl
    rw [List.getElem?_take_of_lt (by omega), List.getElem?_drop, Nat.add_zero] at h3
    rw [h3]
    congr 2
    rw [UInt8.toNat_ofNat', Nat.mod_eq_of_lt (by omega)]
    omega
  obtain ⟨q, hq, hp⟩ := list_of n (fun i (c : UInt8) => r[i]? = some (.int .u8 (c.toNat : Int))) key
  refine ⟨q, hq, ?_⟩
  apply List.ext_getElem?
  intro i
  rcases Nat.lt_or_ge i n with hi | hi
  · have hqi : q[i]? = some q[i] := List.getElem?_eq_getElem (by omega)
    rw [hp i _ hqi]
    unfold Lib.byteCells
    rw [List.getElem?_map, hqi]; rfl
  · rw [List.getElem?_eq_none (by omega), List.getElem?_eq_none (by rw [Lib.byteCells_length]; omega)]
theorem hd_open {r : List Value} (hl : r.length = Try.prog.cellsOf 43) (h : Reads enc Try.prog w base spare held 43 r) : ∃ x : Hd, r = x.L ∧ x.wf := by
  rw [Try.cellsHdr] at hl
  have h0 := h.field Try.underlying43 0 _ rfl
  have h1 := h.field Try.underlying43 1 _ rfl
  have h2 := h.field Try.underlying43 2 _ rfl
  simp [Try.cellsIntH, Try.cellsHsh] at h0 h1 h2
  obtain ⟨z0, e0, w0⟩ := h0.int Try.underlying3
  obtain ⟨z1, e1, w1⟩ := h1.int Try.underlying3
  obtain ⟨q, hq, e2⟩ := h2.bytes Try.underlying41 Try.underlying5 (by kernel_rfl) (by rw [List.length_take, List.length_drop]; omega)
  match r, hl with
  | c0 :: c1 :: r, hl =>
    simp at e0 e1 e2
    have hrl : r.length = 32 := by simpa using hl
    rw [List.take_of_length_le (by omega)] at e2
    subst e0 e1
    exact ⟨⟨z0, z1, ⟨q, hq⟩⟩, by rw [e2]; rfl, w0, w1⟩
end
end Go.Proofs.Ytbckncopdkmoeaa
