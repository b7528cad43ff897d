/- A slice of one's own whose row bears a mark behind its capacity (what '[]byte(s)' yields), and a push onto it: both arms keep one predicate. Records: their bytes, what is read of bytes. Records out of bytes. Records: whole, with more behind, cut off, with one of the first eight bytes another one. FrameTurned, walked. -/
import Derived.Test.YtpledhipdiephaaDoorSt3
import Derived.Test.YtpledhipdiephaaDoorKit
import Derived.ArgAppend
import Derived.Below
import Derived.Lib.ConvBytes
import Derived.Test.YtpledhipdiephaaDoorT3
import Derived.Test.YtpledhipdiephaaDoorPhi
import Derived.WalkKit
import Derived.ProofKit
import Derived.Handy
import Derived.Lib.Hide
import Derived.IntWalk
import Derived.Outline
import Derived.WalkLawsBesides
import Derived.WalkSpells
import Derived.Test.YtpledhipdiephaaDoorT1
namespace Go.Proofs.YtpledhipdiephaaDoor
open Go.RowKit
/-- v is a slice that begins its block, at or behind base; it reads xs; its places up to the capacity are there and may be written. -/
def PadRow (w : World) (base : Nat) (v : Value) (xs : List Value) : Prop :=
  ∃ g cap, v = .slice (some ⟨g, 0, none⟩) xs.length cap ∧ base ≤ g ∧ g < w.heap.size ∧ xs.length ≤ cap ∧ cap ≤ maxLen ∧ (∀ j y, xs[j]? = some y → w.cell? ⟨g, j, none⟩ = some y) ∧ ∀ j, j < cap → (w.cell? ⟨g, j, none⟩).isSome = true ∧ w.frozen? ⟨g, j, none⟩ = false
theorem PadRow.of_owns {w : World} {base b0 : Nat} {e : TypeId} {v : Value} {n : Nat} {xs : List Value} (h : w.ownsRow b0 e 1 v n xs) (hb : base ≤ b0) (hn : 0 < n) : PadRow w base v xs := by
  obtain ⟨hl, hr⟩ := h
  rcases hr with ⟨_, h0⟩ | ⟨g, cap, cur, hv, hbg, hg, hnc, hcm, hcs, htake⟩
  · omega
  have hln : xs.length = n := by omega
  have hgl : g < w.heap.size := (Array.getElem?_eq_some_iff.1 hg).1
  refine ⟨g, cap, by rw [hln]; exact hv, by omega, hgl, by omega, hcm, ?_, ?_⟩
  · intro j y hj
    have hjn : j < n := by have := (List.getElem?_eq_some_iff.1 hj).1; omega
    unfold World.cell?; rw [hg]
    rw [← htake, List.getElem?_take_of_lt (by omega), Array.getElem?_toList] at hj
    exact hj
  · intro j hj
    have hjs : j < cur.size := by omega
    constructor
    · unfold World.cell?; rw [hg]; simp [hjs]
    · unfold World.frozen?; rw [hg]; simp
theorem PadRow.below {w w' : World} {base B : Nat} {v : Value} {xs : List Value} (h : PadRow w base v xs) (hb : Below B w w') (hB : w.heap.size ≤ B) : PadRow w' base v xs := by
  obtain ⟨g, cap, h1, h2, h3, h4, h5, h6, h7⟩ := h
  refine ⟨g, cap, h1, h2, Nat.lt_of_lt_of_le h3 hb.size, h4, h5, fun j y hj => ?_, fun j hj => ?_⟩
  · rw [hb.cell (p := ⟨g, j, none⟩) (by show g < B; omega)]; exact h6 j y hj
  · rw [hb.cell (p := ⟨g, j, none⟩) (by show g < B; omega), hb.frozen (p := ⟨g, j, none⟩) (by show g < B; omega)]; exact h7 j hj
/-- 'append(s, x)' of one element of one cell, s such a slice. -/
theorem wpList_push_pad {P : Program} {w : World} {ops : Array Oper} {rest : List Oper} {o : Oper} {a : Act} {Q : Exit → Act → World → Prop} (hgd : o.guard = none) (s x : Operand) (t : TypeId)
    (ho : o.op = .call { callee := .builtin .append, args := #[s, x], argTypes := #[t, t] })
    {base : Nat} (e : TypeId) (i : TypeInfo) (z : Value) (bytes : Nat) (ht : P.underlying t = some (.slice e)) (hi : P.info? e = some i) (hz : i.zero = some z)
    (hsize : i.size = 1) (hby : i.bytes = bytes) (hzs : z.cells.size = 1)
    {v : Value} {xs : List Value} (hpad : PadRow w base v xs) (hs : a.eval s = v)
    (u : Value) (hx : a.eval x = .slice (some ⟨w.heap.size, 0, none⟩) 1 1) (h1 : u.oneCell' = true)
    (h63 : xs.length + 1 ≤ maxLen) (hbytes : (xs.length + 1) * bytes ≤ 140737488355328) (hbase : base ≤ w.heap.size)
    (h : ∀ v' w', PadRow w' base v' (xs ++ [u]) → Below base w w' → wpList P ops Q rest (a.put o.dst v') w') :
    wpList P ops Q (o :: rest) a (w.alloc (.cells #[u] e)) := by
  have hb0 : Below w.heap.size w (w.alloc (.cells #[u] e)) := (Below.refl _ _).alloc (Nat.le_refl _) _
  have hb1 : Below base w (w.alloc (.cells #[u] e)) := hb0.mono hbase
  obtain ⟨g, cap, hv, hbg, hgl, hlc, hcm, hrd, hwr⟩ := hpad.below hb0 (Nat.le_refl _)
  have hgw : g < w.heap.size := by
    obtain ⟨g', cap', hv', _, hg', _⟩ := hpad
    rw [hv] at hv'
    simp at hv'
    omega
  obtain ⟨W, hW⟩ : ∃ W, w.alloc (.cells #[u] e) = W := ⟨_, rfl⟩
  have hnew : W.cell? ⟨w.heap.size, 0, none⟩ = some u := by
    rw [← hW]; unfold World.cell?
    rw [show (w.alloc (.cells #[u] e)).heap[w.heap.size]? = some (.cells #[u] e (0, 0)) by show (w.heap.push _)[w.heap.size]? = _; rw [Array.getElem?_push_size]]
    rfl
  rw [hW] at hb0 hb1 hgl hrd hwr ⊢
  refine wpList_append_arg W hgd s x t ho e i z 1 bytes ht hi hz hsize hby hzs (by decide) g 0 xs.length cap xs (hs.trans hv) (by omega) (fun j y hj => by rw [Nat.zero_add]; exact hrd j y hj)
    ⟨w.heap.size, 0, none⟩ 1 1 [u] hx rfl ?_ (by simpa using h1) ?_ h63 hbytes ?_ ?_
  · intro j y hj
    have hj0 : j = 0 := by have := (List.getElem?_eq_some_iff.1 hj).1; simp at this; omega
    subst hj0
    simp at hj
    subst hj
    exact hnew
  · intro hr j hj
    have hj0 : j = 0 := by simp at hj; omega
    subst hj0
    have := hwr xs.length (by omega)
    simpa using this
  · intro hr
    rw [Nat.zero_add, Nat.mul_one]
    have hin : (W.setCells g xs.length [u]).cell? ⟨g, xs.length, none⟩ = some u := by
      have hc := World.cell?_setCells_in g [u] xs.length W (fun k hk => by
        have hk0 : k = 0 := by simp at hk; omega
        subst hk0
        exact (hwr xs.length (by omega)).1) 0 (by simp)
      simpa using hc
    have hset : W.setCells g xs.length [u] = W.setCell ⟨g, xs.length, none⟩ u := rfl
    refine h _ _ ⟨g, cap, by simp, hbg, by rw [hset]; simpa [World.setCell] using hgl, by simp; omega, hcm, ?_, ?_⟩ (hb1.trans (by rw [hset]; exact (Below.refl _ _).setCell hbg u))
    · intro j y hj
      rcases Nat.lt_or_ge j xs.length with hl | hl
      · rw [World.cell?_setCells_out g [u] xs.length W _ (fun _ _ => Or.inl hl)]
        rw [List.getElem?_append_left hl] at hj
        exact hrd j y hj
      · have hjl : j = xs.length := by have := (List.getElem?_eq_some_iff.1 hj).1; simp at this; omega
        subst hjl
        simp at hj
        subst hj
        exact hin
    · intro j hj
      rw [World.frozen?_setCells]
      refine ⟨?_, (hwr j hj).2⟩
      rcases Nat.lt_trichotomy j xs.length with hl | hl | hl
      · rw [World.cell?_setCells_out g [u] xs.length W _ (fun _ _ => Or.inl hl)]; exact (hwr j hj).1
      · subst hl
        rw [hin]; rfl
      · rw [World.cell?_setCells_out g [u] xs.length W _ (fun _ _ => Or.inr (by simp; omega))]; exact (hwr j hj).1
  · intro hr v' w' how hgr
    exact h v' w' (PadRow.of_owns how (Nat.le_trans hbase hb0.size) (by omega)) (hb1.trans ((Below.refl base W).grown hgr (Nat.le_trans hbase hb0.size) (fun k hk => by cases hk)))
/-- What '[]byte(s)' yields. -/
theorem PadRow.of_bytes (w : World) (e : TypeId) (s : ByteArray) {base : Nat} (hb : base ≤ w.heap.size) (hs : s.size ≤ maxLen) :
    PadRow (Lib.bytesWorld w e s) base (.slice (some ⟨w.heap.size, 0, none⟩) s.size (grownCap w s.size 0 e)) (s.data.toList.map fun b => Value.int .u8 b.toNat) := by
  have hge := grownCap_ge w s.size 0 e
  have hcm : grownCap w s.size 0 e ≤ maxLen := grownCap_le_maxLen w s.size 0 e hs
  have hsz : s.data.size = s.size := rfl
  have hl : (s.data.toList.map fun b => Value.int .u8 b.toNat).length = s.size := by simp
  have hcs : (Lib.bytesCells w e s).size = grownCap w s.size 0 e := by simp [Lib.bytesCells, hsz]; omega
  have hat := Lib.bytesWorld_at_new w e s
  refine ⟨w.heap.size, grownCap w s.size 0 e, by rw [hl], hb, by rw [Lib.bytesWorld_size]; omega, by rw [hl]; exact hge, hcm, ?_, ?_⟩
  · intro j y hj
    have hjl : j < s.size := by have := (List.getElem?_eq_some_iff.1 hj).1; omega
    unfold World.cell?; rw [hat]
    simp only [Lib.bytesCells]
    rw [Array.getElem?_append_left (by simpa [hsz] using hjl)]
    simpa using hj
  · intro j hj
    constructor
    · unfold World.cell?; rw [hat]; simp [hcs, hj]
    · unfold World.frozen?; rw [hat]; simp [hcs]; omega
end Go.Proofs.YtpledhipdiephaaDoor
namespace Go.Proofs.YtpledhipdiephaaDoor
open Go.RowKit
attribute [local go_sem] strV
set_option linter.unusedVariables false
end Go.Proofs.YtpledhipdiephaaDoor
namespace Go.Proofs.YtpledhipdiephaaDoor
open Go.RowKit
attribute [local go_sem] strV
set_option linter.unusedVariables false
end Go.Proofs.YtpledhipdiephaaDoor
namespace Go.Proofs.YtpledhipdiephaaDoor
open Go.RowKit
set_option linter.unusedVariables false
section
variable {b T : ByteArray} {X : List UInt8}
end
end Go.Proofs.YtpledhipdiephaaDoor
namespace Go.Proofs.YtpledhipdiephaaDoor
open Go.RowKit
attribute [local go_sem] strV
set_option linter.unusedVariables false
theorem bytes_below (V : World) (S : ByteArray) : Below V.heap.size V (Lib.bytesWorld V 5 S) :=
  ⟨rfl, rfl, rfl, by rw [Lib.bytesWorld_size]; omega, fun j hj => Lib.bytesWorld_at_old _ _ _ j hj⟩
end Go.Proofs.YtpledhipdiephaaDoor
