/- Things to be written as they come in: records of a kind, a number, a text and a hash. -/
import Derived.Test.YtngohpkkajcalaaRows
import Derived.Test.YtngohpkkajcalaaOpen
import Derived.Test.YtngohpkkajcalaaHashEq
import Derived.Deep.MidRow
import Derived.OpenShut
namespace Go.Proofs.Ytngohpkkajcalaa
open Go.RowKit Go.ChangeShapes Go.WideShapes Go.Deep
section
variable {H : Type} {enc : TypeId × Value → H} {P : Program} {w : World} {base : Nat} {spare : Nat → Bool} {held : Bool}
/-- A row of bytes by value. -/
theorem bytes_open {t e : TypeId} {n : Nat} {r : List Value} (ht : P.underlying t = some (.array n e)) (he : P.underlying e = some (.int .u8)) (hc : P.cellsOf e = 1) (hl : r.length = n) (h : Reads enc P w base spare held t r) :
    ∃ l : List UInt8, l.length = n ∧ r = Lib.byteCells l := by
  obtain ⟨fuel, y, h⟩ := h
  obtain ⟨xs, m, _, _, _, hxl, hf⟩ := DataW.trod_array ht h
  rw [hc] at hf
  obtain ⟨l, hll, hlp⟩ := list_of n (fun i (x : UInt8) => r[i]? = some (.int .u8 x.toNat)) (fun i hi => by
    have h1 := hf i hi
    rw [List.getElem?_eq_getElem (by omega)] at h1
    obtain ⟨z, h2, _, h3⟩ := DataW.trod_int he h1
    have h4 : r[i]? = some (.int .u8 z) := by
      have := congrArg (fun q : List Value => q[0]?) h2
      simpa [List.getElem?_take] using this
    have h5 : 0 ≤ z ∧ z < 256 := by
      simp [Lit.wf, IntKind.min, IntKind.max, IntKind.signed, IntKind.bits] at h3; omega
    refine ⟨UInt8.ofNat z.toNat, ?_⟩
    rw [h4, UInt8.toNat_ofNat', Nat.mod_eq_of_lt (by omega)]
    congr 2; omega)
  refine ⟨l, hll, List.ext_getElem? fun i => ?_⟩
  by_cases hi : i < n
  · have := hlp i l[i] (by rw [List.getElem?_eq_getElem (by omega)])
    rw [this]
    simp [Lib.byteCells, List.getElem?_eq_getElem (show i < l.length by omega)]
  · rw [List.getElem?_eq_none (by omega), List.getElem?_eq_none (by simp [Lib.byteCells]; omega)]
end
structure Pt where
  kd : Int
  n : Int
  s : ByteArray
  h : List UInt8
  hl : h.length = 32
def Pt.cells (p : Pt) : List Value := [.int .i64 p.kd, .int .i64 p.n, .string p.s] ++ Lib.byteCells p.h
theorem Pt.cells_len (p : Pt) : p.cells.length = 35 := by simp [Pt.cells, Lib.byteCells, p.hl]
theorem pt_at {w : World} {a : Option Addr} {ps : List Pt} (h : RowAt w a (ps.flatMap Pt.cells)) {k : Nat} (hk : k < ps.length) :
    ∃ b off, a = some ⟨b, off, none⟩ ∧ b < w.heap.size ∧ w.rangeAt b (off + k * 35) ps[k].cells := by
  obtain ⟨b, off, ha, hb, hc⟩ := h.elem Pt.cells_len hk (by omega)
  refine ⟨b, off, ha, hb, fun j v hv => ?_⟩
  have hj : j < 35 := by have := (List.getElem?_eq_some_iff.1 hv).1; rw [Pt.cells_len] at this; exact this
  rw [Nat.add_assoc, hc j hj, hv]
theorem Pt.at0 {w : World} {b o : Nat} {p : Pt} (h : w.rangeAt b o p.cells) : w.cell? ⟨b, o, none⟩ = some (.int .i64 p.kd) := h 0 _ rfl
theorem Pt.at1 {w : World} {b o : Nat} {p : Pt} (h : w.rangeAt b o p.cells) : w.cell? ⟨b, o + 1, none⟩ = some (.int .i64 p.n) := h 1 _ rfl
theorem Pt.at2 {w : World} {b o : Nat} {p : Pt} (h : w.rangeAt b o p.cells) : w.cell? ⟨b, o + 2, none⟩ = some (.string p.s) := h 2 _ rfl
theorem Pt.at3 {w : World} {b o : Nat} {p : Pt} (h : w.rangeAt b o p.cells) : w.rangeAt b (o + 3) (Lib.byteCells p.h) := fun j v hv => by
  rw [Nat.add_assoc]
  refine h (3 + j) v ?_
  unfold Pt.cells
  rw [List.getElem?_append_right (by simp)]
  simpa using hv
theorem Pt.row_one (p : Pt) : p.cells.toArray.all (·.oneCell') = true := by
  rw [Array.all_eq_true_iff_forall_mem]
  intro v hv
  simp only [Pt.cells, List.mem_toArray, List.mem_append] at hv
  rcases hv with hv | hv
  · simp at hv; rcases hv with rfl | rfl | rfl <;> rfl
  · exact Lib.byteCells_one p.h v hv
theorem rangeAt_below {w w' : World} {b o : Nat} {cs : List Value} (h : w.rangeAt b o cs) (hb : Below w.heap.size w w') (hl : b < w.heap.size) : w'.rangeAt b o cs := fun j v hv => by
  rw [(bcell hb).1 _ _ hl]; exact h j v hv
theorem rangeAt_row {w : World} {b : Nat} {e : TypeId} {fz : Nat × Nat} {cs : List Value} (h : w.heap[b]? = some (.cells cs.toArray e fz)) : w.rangeAt b 0 cs := fun j v hv => by
  unfold World.cell?; rw [h, Nat.zero_add]; simpa using hv
theorem Try.cellsPut : Try.prog.cellsOf 49 = 35 := by kernel_rfl
theorem Try.cellsIntP : Try.prog.cellsOf 3 = 1 := by kernel_rfl
theorem Try.cellsStringP : Try.prog.cellsOf 9 = 1 := by kernel_rfl
theorem Try.cellsHashP : Try.prog.cellsOf 42 = 32 := by kernel_rfl
section
variable {H : Type} {enc : TypeId × Value → H} {w : World} {base : Nat} {spare : Nat → Bool} {held : Bool}
theorem pt_open {r : List Value} (hl : r.length = Try.prog.cellsOf 49) (h : Reads enc Try.prog w base spare held 49 r) : ∃ p : Pt, r = p.cells ∧ p.s.size ≤ maxLen := by
  rw [Try.cellsPut] at hl
  have h0 := h.field Try.underlying49 0 _ rfl
  have h1 := h.field Try.underlying49 1 _ rfl
  have h2 := h.field Try.underlying49 2 _ rfl
  have h3 := h.field Try.underlying49 3 _ rfl
  simp [Try.cellsIntP, Try.cellsStringP, Try.cellsHashP] at h0 h1 h2 h3
  obtain ⟨z0, e0, _⟩ := h0.int Try.underlying3
  obtain ⟨z1, e1, _⟩ := h1.int Try.underlying3
  obtain ⟨s2, e2, hs2⟩ := h2.string Try.underlying9
  obtain ⟨l, hll, e3⟩ := bytes_open Try.underlying42 Try.underlying5 (by kernel_rfl) (by rw [List.length_take, List.length_drop, hl]; rfl) h3
  refine ⟨⟨z0, z1, s2, l, hll⟩, ?_, hs2⟩
  have e : r = r.take 1 ++ ((r.drop 1).take 1 ++ ((r.drop 2).take 1 ++ (r.drop 3).take 32)) := by
    rw [List.take_of_length_le (l := r.drop 3) (by rw [List.length_drop]; omega)]
    rw [show r.drop 3 = (r.drop 2).drop 1 by simp, List.take_append_drop]
    rw [show r.drop 2 = (r.drop 1).drop 1 by simp, List.take_append_drop, List.take_append_drop]
  rw [e]
  rw [show r.drop 1 = r.tail by simp, e0, e1, e2, e3]
  rfl
end
end Go.Proofs.Ytngohpkkajcalaa
