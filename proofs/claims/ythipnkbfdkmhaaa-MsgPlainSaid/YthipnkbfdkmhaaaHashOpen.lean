/- A hash that comes in. -/
import Derived.Test.YthipnkbfdkmhaaaRows
import Derived.Test.YthipnkbfdkmhaaaOpen
import Derived.Test.YthipnkbfdkmhaaaGC
namespace Go.Proofs.Ythipnkbfdkmhaaa
open Go.RowKit Go.ChangeShapes Go.WideShapes Go.Deep
section
variable {H : Type} {enc : TypeId × Value → H} {P : Program} {w : World} {base : Nat} {spare : Nat → Bool} {held : Bool}
theorem okWide_arr {r : Reach} {b0 : Nat} {t e : TypeId} {n : Nat} {v : Value} (ht : P.underlying t = some (.array n e)) (h : Value.okWide P w r b0 t v) : ∃ cs : Array Value, v = .agg cs ∧ cs.size = P.cellsOf t := by
  simp only [Value.okWide, ht] at h
  obtain ⟨cs, h1, h2, _⟩ := h
  exact ⟨cs, h1, h2⟩
theorem Reads.bytes {t e : TypeId} {n : Nat} {r : List Value} (h : Reads enc P w base spare held t r) (ht : P.underlying t = some (.array n e)) (he : P.underlying e = some (.int .u8)) (hce : P.cellsOf e = 1) (hr : r.length = n) :
    ∃ q : List UInt8, q.length = n ∧ r = Lib.byteCells q := by
  obtain ⟨m, y, h⟩ := h
  obtain ⟨xs, k, _, _, _, hlen, hf⟩ := DataW.trod_array ht h
  have key : ∀ i, i < n → ∃ c : UInt8, r[i]? = some (.int .u8 (c.toNat : Int)) := fun i hi => by
    have hx := hf i hi
    rw [hce, Nat.mul_one] at hx
    obtain ⟨c, hc⟩ : ∃ c, xs[i]? = some c := ⟨_, List.getElem?_eq_getElem (by omega)⟩
    rw [hc] at hx
    obtain ⟨z, h1, _, h2⟩ := DataW.trod_int he hx
    have hz : 0 ≤ z ∧ z ≤ 255 := by simpa [Lit.wf, IntKind.min, IntKind.max, IntKind.signed, IntKind.bits] using h2
    refine ⟨UInt8.ofNat z.toNat, ?_⟩
    have h3 : ((r.drop i).take 1)[0]? = some (.int .u8 z) := by rw [h1]; rfl
    rw [List.getElem?_take_of_lt (by omega), List.getElem?_drop, Nat.add_zero] at h3
    rw [h3]
    congr 2
    rw [UInt8.toNat_ofNat', Nat.mod_eq_of_lt (by omega)]
    omega
  obtain ⟨q, hq, hp⟩ := list_of n (fun i (c : UInt8) => r[i]? = some (.int .u8 (c.toNat : Int))) key
  refine ⟨q, hq, ?_⟩
  apply List.ext_getElem?
  intro i
  rcases Nat.lt_or_ge i n with hi | hi
  · have hqi : q[i]? = some q[i] := List.getElem?_eq_getElem (by omega)
    rw [hp i _ hqi]
    unfold Lib.byteCells
    rw [List.getElem?_map, hqi]; rfl
  · rw [List.getElem?_eq_none (by omega), List.getElem?_eq_none (by rw [Lib.byteCells_length]; omega)]
/-- A hash by value. -/
theorem open_hash {r : Reach} {b0 : Nat} {t e : TypeId} {v : Value} {d : DataW H} {p : List MemPlace} (ht : P.underlying t = some (.array 32 e)) (he : P.underlying e = some (.int .u8)) (hce : P.cellsOf e = 1) (hct : P.cellsOf t = 32)
    (hv : Value.okWide P w r b0 t v) (h : DataW.Trod enc P w base spare held t v d p) : ∃ q : List UInt8, v = .agg (hrow q) ∧ q.length = 32 := by
  obtain ⟨cs, rfl, hsz⟩ := okWide_arr ht hv
  obtain ⟨fuel, hf⟩ := h
  have hR : Reads enc P w base spare held t cs.toList := ⟨fuel, (d, p), by simpa [Value.cells] using hf⟩
  obtain ⟨q, hq, hcs⟩ := hR.bytes ht he hce (by rw [Array.length_toList]; omega)
  exact ⟨q, by unfold hrow; rw [← hcs], hq⟩
end
end Go.Proofs.Ythipnkbfdkmhaaa
