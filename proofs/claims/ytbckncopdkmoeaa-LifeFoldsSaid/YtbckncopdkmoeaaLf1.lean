/- A life.Table: its entries, its maps, New. -/
import Derived.Test.YtbckncopdkmoeaaLfK
import Derived.Test.YtbckncopdkmoeaaCn2
import Derived.Maps.OwnSet
import Derived.Maps.OwnOps
import Derived.Maps.OwnRows
import Derived.WalkKit
import Derived.ProofKit
import Derived.Handy
import Derived.Below
import Derived.Lib.Hide
import Derived.IntWalk
import Derived.Outline
import Derived.WalkLawsBesides
import Derived.WalkSpells
namespace Go.Proofs.Ytbckncopdkmoeaa
open Go.RowKit
attribute [local go_sem] strV
set_option linter.unusedVariables false
/-- An entry: the packet, the acknowledgement, five flags. -/
structure Ent where
  sp : ByteArray
  sc : Int
  dp : ByteArray
  dc : Int
  sq : Int
  da : ByteArray
  th : Int
  ta : Int
  ack : ByteArray
  se : Bool
  re : Bool
  wr : Bool
  ac : Bool
  ti : Bool
def Ent.L (e : Ent) : List Value := [.string e.sp, .int .i64 e.sc, .string e.dp, .int .i64 e.dc, .int .i64 e.sq, .string e.da, .int .i64 e.th, .int .i64 e.ta, .string e.ack, .bool e.se, .bool e.re, .bool e.wr, .bool e.ac, .bool e.ti]
def Ent.row (e : Ent) : Array Value := e.L.toArray
def zeroEnt : Ent := ⟨ByteArray.empty, 0, ByteArray.empty, 0, 0, ByteArray.empty, 0, 0, ByteArray.empty, false, false, false, false, false⟩
theorem Ent.row_size (e : Ent) : e.row.size = 14 := rfl
theorem Try.infoEnt : (Try.prog.info? 78).map (fun i => (i.zero, i.size)) = some (some (.agg zeroEnt.row), 14) := by kernel_rfl
/-- The map D holds the entries f. -/
structure MapLf (D : DataW Value) (f : Lk → Option Ent) : Prop where
  at_ : ∀ x : Lk, x.wf → D.atKey x.lit (.held (.agg zeroEnt.row)) = .held (.agg ((f x).getD zeroEnt).row)
  has : ∀ x : Lk, x.wf → Maps.has D x.lit = (f x).isSome
theorem MapLf.nil : MapLf (.map []) (fun _ => none) := ⟨fun x _ => rfl, fun x _ => rfl⟩
open Classical in
/-- The entry of k is e, the others are f's. -/
noncomputable def setF (f : Lk → Option Ent) (k : Lk) (e : Ent) : Lk → Option Ent := fun y => if y = k then some e else f y
theorem setF_same {f : Lk → Option Ent} {k : Lk} {e : Ent} : setF f k e k = some e := if_pos rfl
theorem setF_other {f : Lk → Option Ent} {k y : Lk} {e : Ent} (h : y ≠ k) : setF f k e y = f y := if_neg h
theorem MapLf.put {D : DataW Value} {f : Lk → Option Ent} (h : MapLf D f) (hT : Maps.IsMap D) {k : Lk} (hk : k.wf) (e : Ent) : MapLf (D.put k.lit (.held (.agg e.row))) (setF f k e) := by
  refine ⟨fun y hy => ?_, fun y hy => ?_⟩
  · by_cases hyk : y = k
    · subst hyk
      rw [Maps.atKey_put_same hT (Lk.isKey hy), setF_same]; rfl
    · rw [Maps.atKey_put_other (fun q => hyk (Lk.lit_inj hy hk q)), setF_other hyk, h.at_ y hy]
  · by_cases hyk : y = k
    · subst hyk
      rw [Maps.has_put_same hT (Lk.isKey hy), setF_same]; rfl
    · rw [Maps.has_put_other (fun q => hyk (Lk.lit_inj hy hk q)), setF_other hyk, h.has y hy]
/-- The map D holds the ends cl. -/
structure MapEn (D : DataW Value) (cl : ByteArray → Int → Bool) : Prop where
  at_ : ∀ x : Lk, x.wf → D.atKey x.elit (.held (.agg #[])) = .held (.agg #[])
  has : ∀ x : Lk, x.wf → Maps.has D x.elit = cl x.po x.ch
theorem MapEn.nil : MapEn (.map []) (fun _ _ => false) := ⟨fun x _ => rfl, fun x _ => rfl⟩
theorem Lk.elit_inj {x y : Lk} (hx : x.wf) (hy : y.wf) (h : x.elit = y.elit) : x.po = y.po ∧ x.ch = y.ch := by
  have h1 := Lk.ekey hx
  rw [h] at h1
  have h2 := en_keyed.inj h1 (Lk.ekey hy)
  unfold Lk.erow at h2
  simpa using h2
/-- An end more. -/
def clPut (cl : ByteArray → Int → Bool) (p : ByteArray) (c : Int) : ByteArray → Int → Bool := fun q d => decide (q = p ∧ d = c) || cl q d
theorem MapEn.put {D : DataW Value} {cl : ByteArray → Int → Bool} (h : MapEn D cl) (hT : Maps.IsMap D) {k : Lk} (hk : k.wf) : MapEn (D.put k.elit (.held (.agg #[]))) (clPut cl k.po k.ch) := by
  refine ⟨fun y hy => ?_, fun y hy => ?_⟩
  · by_cases hyk : y.elit = k.elit
    · rw [hyk, Maps.atKey_put_same hT (Lk.isEKey hk)]
    · rw [Maps.atKey_put_other hyk, h.at_ y hy]
  · by_cases hyk : y.elit = k.elit
    · obtain ⟨e1, e2⟩ := Lk.elit_inj hy hk hyk
      rw [hyk, Maps.has_put_same hT (Lk.isEKey hk)]
      simp [clPut, e1, e2]
    · rw [Maps.has_put_other hyk, h.has y hy]
      have hne : ¬ (y.po = k.po ∧ y.ch = k.ch) := fun e => hyk (by unfold Lk.elit; rw [e.1, e.2])
      simp [clPut, hne]
/-- A table at block g, its maps at b and c. -/
def TabAt (w : World) (g b c n : Nat) (f : Lk → Option Ent) (cl : ByteArray → Int → Bool) : Prop :=
  w.heap[g]? = some (.cells #[.map (some b), .map (some c)] 122 (0, 0)) ∧ (∃ D, w.ownsMap Try.prog 62 hdR b n D ∧ MapLf D f) ∧ (∃ D, w.ownsMap Try.prog 60 hdR c n D ∧ MapEn D cl) ∧ b ≠ c
theorem TabAt.kept {w w' : World} {g b c n : Nat} {f : Lk → Option Ent} {cl : ByteArray → Int → Bool} (h : TabAt w g b c n f cl) (hb : Below w.heap.size w w') : TabAt w' g b c n f cl := by
  obtain ⟨h1, ⟨D, h2, h3⟩, ⟨E, h4, h5⟩, h6⟩ := h
  exact ⟨cells_of h1 hb (row_lt h1), ⟨D, h2.kept (grown_below hb) (by simp), h3⟩, ⟨E, h4.kept (grown_below hb) (by simp), h5⟩, h6⟩
theorem TabAt.grown {w w' : World} {g b c n j : Nat} {f : Lk → Option Ent} {cl : ByteArray → Int → Bool} (h : TabAt w g b c n f cl) (hg : w.grownBy w' (some j)) (e1 : g ≠ j) (e2 : b ≠ j) (e3 : c ≠ j) : TabAt w' g b c n f cl := by
  obtain ⟨h1, ⟨D, h2, h3⟩, ⟨E, h4, h5⟩, h6⟩ := h
  exact ⟨grown_at hg h1 (by simp [e1]), ⟨D, h2.kept hg (by simp [e2]), h3⟩, ⟨E, h4.kept hg (by simp [e3]), h5⟩, h6⟩
theorem own_mono {w : World} {k : TypeId} {b n m : Nat} {D : DataW Value} (h : w.ownsMap Try.prog k hdR b n D) (hm : n ≤ m) : w.ownsMap Try.prog k hdR b m D := by
  obtain ⟨es, clock, h1, h2, h3, h4⟩ := h
  exact ⟨es, clock, h1, h2, Nat.le_trans h3 hm, h4⟩
theorem TabAt.mono {w : World} {g b c n m : Nat} {f : Lk → Option Ent} {cl : ByteArray → Int → Bool} (h : TabAt w g b c n f cl) (hm : n ≤ m) : TabAt w g b c m f cl := by
  obtain ⟨h1, ⟨D, h2, h3⟩, ⟨E, h4, h5⟩, h6⟩ := h
  exact ⟨h1, ⟨D, own_mono h2 hm, h3⟩, ⟨E, own_mono h4 hm, h5⟩, h6⟩
theorem TabAt.ne {w : World} {g b c n : Nat} {f : Lk → Option Ent} {cl : ByteArray → Int → Bool} (h : TabAt w g b c n f cl) : g ≠ b ∧ g ≠ c ∧ b ≠ c := by
  obtain ⟨h1, ⟨D, h2, h3⟩, ⟨E, h4, h5⟩, h6⟩ := h
  refine ⟨fun e => ?_, fun e => ?_, h6⟩
  · obtain ⟨es, clock, h7, _⟩ := h2
    rw [e, h7] at h1; cases h1
  · obtain ⟨es, clock, h7, _⟩ := h4
    rw [e, h7] at h1; cases h1
theorem TabAt.lt {w : World} {g b c n : Nat} {f : Lk → Option Ent} {cl : ByteArray → Int → Bool} (h : TabAt w g b c n f cl) : g < w.heap.size ∧ b < w.heap.size ∧ c < w.heap.size := by
  obtain ⟨h1, ⟨D, h2, h3⟩, ⟨E, h4, h5⟩, h6⟩ := h
  exact ⟨row_lt h1, h2.lt, h4.lt⟩
/-- What is no part of one table stands apart from another. -/
theorem TabAt.cells_ne {w : World} {g b c n i : Nat} {f : Lk → Option Ent} {cl : ByteArray → Int → Bool} {R : Array Value} {t : TypeId} (h : TabAt w g b c n f cl) (hi : w.heap[i]? = some (.cells R t (0, 0))) : i ≠ b ∧ i ≠ c := by
  obtain ⟨h1, ⟨D, h2, h3⟩, ⟨E, h4, h5⟩, h6⟩ := h
  refine ⟨fun e => ?_, fun e => ?_⟩
  · obtain ⟨es, clock, h7, _⟩ := h2
    rw [e, h7] at hi; cases hi
  · obtain ⟨es, clock, h7, _⟩ := h4
    rw [e, h7] at hi; cases hi
theorem lfNew_any (w : World) : Calls Try.prog 31 #[] w fun e w' => e = .returned (.pointer (some ⟨w.heap.size + 2, 0, none⟩)) ∧ TabAt w' (w.heap.size + 2) w.heap.size (w.heap.size + 1) 0 (fun _ => none) (fun _ _ => false) ∧ Below w.heap.size w w' := by
  have hmm := @run_makeMap Try.prog
  go_enter Try.func31, Try.ntmps31
  go_wp2
  go_ret
  refine ⟨by first | rfl | simp, ⟨?_, ⟨_, ?_, MapLf.nil⟩, ⟨_, ?_, MapEn.nil⟩, by omega⟩, (al2_below w _ _).alloc (al2_below w _ _).size _⟩
  · have h9 := al2_1 (w.alloc (.map #[] 0)) (.map #[] 0) (.cells #[.map (some w.heap.size), .map (some (w.heap.size + 1))] 122)
    rw [show (w.alloc (.map #[] 0)).heap.size = w.heap.size + 1 by simp] at h9
    exact h9
  · exact ((World.ownsMap_made w Try.prog 62 hdR).alloc _).alloc _
  · have h9 := (World.ownsMap_made (w.alloc (.map #[] 0)) Try.prog 60 hdR).alloc (.cells #[.map (some w.heap.size), .map (some (w.heap.size + 1))] 122)
    rw [show (w.alloc (.map #[] 0)).heap.size = w.heap.size + 1 by simp] at h9
    exact h9
end Go.Proofs.Ytbckncopdkmoeaa
