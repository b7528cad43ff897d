/- Headers: records of 34 cells. -/
import Derived.Test.YtbckncopdkmoeaaGen
import Derived.Laws.StructEq
import Derived.Deep.MidRow
import Derived.Laws.Tables
import Derived.Laws.Rows
import Derived.Laws.Cells
import Derived.BigQuiet
import Derived.WalkKit
import Derived.ProofKit
import Derived.Handy
import Derived.Below
import Derived.Lib.Hide
import Derived.IntWalk
import Derived.Outline
import Derived.WalkLawsBesides
import Derived.WalkSpells
namespace Go.Proofs.Ytbckncopdkmoeaa
open Go.RowKit
attribute [local go_sem] strV
set_option linter.unusedVariables false
/-- The row of a hash's bytes. -/
def hrow (l : List UInt8) : Array Value := (Lib.byteCells l).toArray
def zrow32 : Array Value := #[.int .u8 0, .int .u8 0, .int .u8 0, .int .u8 0, .int .u8 0, .int .u8 0, .int .u8 0, .int .u8 0, .int .u8 0, .int .u8 0, .int .u8 0, .int .u8 0, .int .u8 0, .int .u8 0, .int .u8 0, .int .u8 0, .int .u8 0, .int .u8 0, .int .u8 0, .int .u8 0, .int .u8 0, .int .u8 0, .int .u8 0, .int .u8 0, .int .u8 0, .int .u8 0, .int .u8 0, .int .u8 0, .int .u8 0, .int .u8 0, .int .u8 0, .int .u8 0]
section
variable {P : Program} (w : World)
theorem run_part_int {e : TypeId} {k : IntKind} (he : P.underlying e = some (.int k)) (xs : Array Value) (i : Nat) (v : Value) (hv : xs[i]? = some v) : (part e xs i).run P w = .ok v w := by
  simp [part, isAgg, run_underlying he, hv]
theorem run_equalIn_bytes (d : Nat) (t e : TypeId) (n : Nat) (k : IntKind) (xs ys : Array Value) (f g : Nat → Int) (ht : P.underlying t = some (.array n e)) (he : P.underlying e = some (.int k)) (hsz : (P.info? e).map (·.size) = some 1)
    (hx : ∀ i, i < n → xs[i]? = some (.int k (f i))) (hy : ∀ i, i < n → ys[i]? = some (.int k (g i))) :
    (Op.equalIn (d + 2) t (.agg xs) (.agg ys)).run P w = .ok ((List.range' 0 n).all fun i => f i == g i) w := by
  obtain ⟨j, hj, hjs⟩ := Option.map_eq_some_iff.1 hsz
  have hso : (sizeOf e).run P w = .ok 1 w := by simp [sizeOf, typeInfo, hj, hjs]
  rw [Op.equalIn]
  simp only [Sem.run_bind, run_underlying ht, Result.andThen_ok, hso]
  rw [Std.Legacy.Range.forIn_eq_forIn_range']
  simp only [Std.Legacy.Range.size, Nat.sub_zero, Nat.add_sub_cancel, Nat.div_one]
  have hlt : ∀ i ∈ List.range' 0 n, i < n := fun i hi => by simpa using hi
  generalize List.range' 0 n = l at hlt ⊢
  induction l with
  | nil => simp
  | cons i l ih =>
    have hi := hlt i (List.mem_cons_self ..)
    have ihl := ih (fun j hj => hlt j (List.mem_cons_of_mem _ hj))
    simp only [List.forIn_cons, Sem.run_bind, Nat.mul_one, run_part_int w he xs i _ (hx i hi), run_part_int w he ys i _ (hy i hi), Result.andThen_ok, run_equalIn_int w d e k k (f i) (g i) he, Sem.run_ite, Sem.run_pure] at ihl ⊢
    cases hfg : (f i == g i)
    · simp [hfg]
    · simp [hfg]
      simpa using ihl
theorem hrow_at (l : List UInt8) (i : Nat) (h : i < l.length) : (hrow l)[i]? = some (.int .u8 (l.getD i 0).toNat) := by
  simp [hrow, Lib.byteCells, List.getElem?_eq_getElem h, List.getD]
theorem all_bytes : ∀ (n : Nat) (l m : List UInt8), l.length = n → m.length = n → ((List.range' 0 n).all fun i => (((l.getD i 0).toNat : Nat) : Int) == (((m.getD i 0).toNat : Nat) : Int)) = (l == m) := by
  intro n l m hl hm
  rw [Bool.eq_iff_iff]
  simp only [List.all_eq_true, List.mem_range', beq_iff_eq, Int.natCast_inj]
  constructor
  · intro h
    apply List.ext_getElem (by omega)
    intro i h1 h2
    have := h i ⟨i, by omega, by omega⟩
    simp only [List.getD, List.getElem?_eq_getElem h1, List.getElem?_eq_getElem h2, Option.getD_some] at this
    exact UInt8.toNat_inj.1 this
  · rintro rfl i _
    rfl
theorem run_equal_hash (t : TypeId) {e : TypeId} (l m : List UInt8) (hl : l.length = 32) (hm : m.length = 32) (ht : P.underlying t = some (.array 32 e)) (he : P.underlying e = some (.int .u8)) (hsz : (P.info? e).map (·.size) = some 1) :
    (Op.equalIn 10000 t (.agg (hrow l)) (.agg (hrow m))).run P w = .ok (l == m) w := by
  rw [run_equalIn_bytes w 9998 t e 32 .u8 (hrow l) (hrow m) (fun i => ((l.getD i 0).toNat : Nat)) (fun i => ((m.getD i 0).toNat : Nat)) ht he hsz (fun i hi => hrow_at l i (by omega)) (fun i hi => hrow_at m i (by omega)), all_bytes 32 l m hl hm]
end
theorem zrow_hrow : zrow32 = hrow (List.replicate 32 0) := by simp [zrow32, hrow, Lib.byteCells, List.replicate]
/-- A hash: 32 bytes. -/
abbrev H32 := { q : List UInt8 // q.length = 32 }
def H32.cells (q : H32) : List Value := Lib.byteCells q.1
theorem H32.cells_len (q : H32) : q.cells.length = 32 := by unfold H32.cells; rw [Lib.byteCells_length]; exact q.2
theorem H32.row (q : H32) : q.cells.toArray = hrow q.1 := rfl
theorem take_flat {α : Type} (f : α → List Value) (c : Nat) (hf : ∀ x, (f x).length = c) : ∀ (l : List α) (k : Nat), (l.flatMap f).take (k * c) = (l.take k).flatMap f := by
  intro l
  induction l with
  | nil => intro k; simp
  | cons x l ih =>
    intro k
    cases k with
    | zero => simp
    | succ k =>
      rw [List.flatMap_cons, List.take_succ_cons, List.flatMap_cons, Nat.succ_mul, Nat.add_comm, ← hf x, List.take_length_add_append, hf x, ih k]
theorem drop_flat {α : Type} (f : α → List Value) (c : Nat) (hf : ∀ x, (f x).length = c) : ∀ (l : List α) (k : Nat), (l.flatMap f).drop (k * c) = (l.drop k).flatMap f := by
  intro l
  induction l with
  | nil => intro k; simp
  | cons x l ih =>
    intro k
    cases k with
    | zero => simp
    | succ k =>
      rw [List.flatMap_cons, List.drop_succ_cons, Nat.succ_mul, Nat.add_comm, ← hf x, List.drop_length_add_append, hf x, ih k]
theorem RowAt.drop {w : World} {b off : Nat} {vs : List Value} (h : RowAt w (some ⟨b, off, none⟩) vs) (k : Nat) : RowAt w (some ⟨b, off + k, none⟩) (vs.drop k) := by
  rcases h with h | ⟨b', off', ha, hlt, hc⟩
  · exact .inl (by rw [h, List.drop_nil])
  · simp only [Option.some.injEq, Addr.mk.injEq, and_true] at ha
    obtain ⟨rfl, rfl⟩ := ha
    refine .inr ⟨b, off + k, rfl, hlt, fun j hj => ?_⟩
    rw [List.length_drop] at hj
    rw [Nat.add_assoc, hc (k + j) (by omega), List.getElem?_drop]
theorem hs_take {w : World} {a : Option Addr} {l : List H32} (h : RowAt w a (l.flatMap H32.cells)) (k : Nat) : RowAt w a ((l.take k).flatMap H32.cells) := by
  have := h.take (k * 32)
  rwa [take_flat H32.cells 32 H32.cells_len] at this
theorem hs_drop {w : World} {b off : Nat} {l : List H32} (h : RowAt w (some ⟨b, off, none⟩) (l.flatMap H32.cells)) (k : Nat) : RowAt w (some ⟨b, off + k * 32, none⟩) ((l.drop k).flatMap H32.cells) := by
  have := h.drop (k * 32)
  rwa [drop_flat H32.cells 32 H32.cells_len] at this
/-- The cells of hash k. -/
theorem hs_at {w : World} {a : Option Addr} {l : List H32} (h : RowAt w a (l.flatMap H32.cells)) {k : Nat} (hk : k < l.length) :
    ∃ b off, a = some ⟨b, off, none⟩ ∧ b < w.heap.size ∧ w.rangeAt b (off + k * 32) l[k].cells := by
  obtain ⟨b, off, ha, hb, hc⟩ := h.elem H32.cells_len hk (by decide)
  refine ⟨b, off, ha, hb, fun j v hv => ?_⟩
  have hj : j < 32 := by have := (List.getElem?_eq_some_iff.1 hv).1; rwa [H32.cells_len] at this
  rw [Nat.add_assoc, hc j hj, hv]
theorem load_hash_mid {W : World} {b off : Nat} {q : H32} (hg : W.rangeAt b off q.cells) (hb : b < W.heap.size) (n : Beyond W) :
    (Instr.loadAt 41 (.pointer (some ⟨b, off, none⟩))).run Try.prog n.x = .ok (.agg (hrow q.1)) n.x := by
  have hg2 : n.x.rangeAt b off q.cells := fun j v hv => by rw [n.h.cell (p := ⟨b, off + j, none⟩) hb]; exact hg j v hv
  exact run_loadAt_mid (P := Try.prog) n.x b off 41 q.cells _ hg2 Try.underlying41 rfl (by rw [H32.cells_len]; kernel_rfl)
theorem wpList_load_midH {P : Program} {ops : Array Oper} {rest : List Oper} {op : Oper} {a : Act} {w : World} {Q : Exit → Act → World → Prop} (ty : TypeId) (x : Operand) (ho : op.op = .load ty x)
    (b o : Nat) (hx : a.eval x = .pointer (some ⟨b, o, none⟩)) (cs : List Value) (d : TypeDesc) (hc : w.rangeAt b o cs)
    (hu : P.underlying ty = some d) (hd : d.isRow = true) (hi : (P.info? ty).map (·.size) = some cs.length) (hw : Region.wanted op (yielded ops a.tmps) = true)
    (h : wpList P ops Q rest (a.put op.dst (.agg cs.toArray)) w) : wpList P ops Q (op :: rest) a w := by
  unfold wpList
  rw [if_pos hw]
  exact .inl (wp_load_mid ty x ho b o hx cs d hc hu hd hi h)
def hdL (h t : Int) (q : H32) : List Value := [.int .i64 h, .int .i64 t] ++ q.cells
theorem hdL_len (h t : Int) (q : H32) : (hdL h t q).length = 34 := by unfold hdL; rw [List.length_append, H32.cells_len]; rfl
theorem hd_extract (h t : Int) (q : H32) : ((hdL h t q).toArray).extract 2 34 = hrow q.1 := by
  apply Array.ext'
  rw [Array.toList_extract, List.extract_eq_take_drop, ← H32.row]
  unfold hdL
  rw [show ([Value.int .i64 h, .int .i64 t] ++ q.cells) = .int .i64 h :: .int .i64 t :: q.cells from rfl]
  simp only [List.drop_succ_cons, List.drop_zero]
  rw [List.take_of_length_le (by rw [H32.cells_len]; decide)]
theorem run_equal_hash9 (W : World) (q q2 : H32) : (Op.equalIn 9999 41 (.agg (hrow q.1)) (.agg (hrow q2.1))).run Try.prog W = .ok (q.1 == q2.1) W := by
  have h := run_equalIn_bytes (w := W) (P := Try.prog) 9997 41 5 32 .u8 (hrow q.1) (hrow q2.1) (fun i => (q.1.getD i 0).toNat) (fun i => (q2.1.getD i 0).toNat) Try.underlying41 Try.underlying5 (by kernel_rfl) (fun i hi => hrow_at _ _ (by rw [q.2]; exact hi)) (fun i hi => hrow_at _ _ (by rw [q2.2]; exact hi))
  rw [all_bytes 32 _ _ q.2 q2.2] at h
  exact h
def hdB (h t : Int) (q : H32) (h2 t2 : Int) (q2 : H32) : Bool := (h == h2) && (t == t2) && (q.1 == q2.1)
theorem run_equal_hdr (h t : Int) (q : H32) (h2 t2 : Int) (q2 : H32) (W : World) :
    (Op.equalIn 10000 43 (.agg (hdL h t q).toArray) (.agg (hdL h2 t2 q2).toArray)).run Try.prog W = .ok (hdB h t q h2 t2 q2) W := by
  have p0 : (hdL h t q).toArray[0]? = some (.int .i64 h) := rfl
  have p1 : (hdL h t q).toArray[1]? = some (.int .i64 t) := rfl
  have r0 : (hdL h2 t2 q2).toArray[0]? = some (.int .i64 h2) := rfl
  have r1 : (hdL h2 t2 q2).toArray[1]? = some (.int .i64 t2) := rfl
  have p2 := hd_extract h t q
  have r2 := hd_extract h2 t2 q2
  have e2 := fun W => run_equal_hash9 W q q2
  unfold hdB
  generalize (hdL h t q).toArray = X at *
  generalize (hdL h2 t2 q2).toArray = Y at *
  generalize hrow q.1 = X2 at *
  generalize hrow q2.1 = Y2 at *
  cases k0 : (h == h2)
  · simp [go_sem, p0, r0, k0]
  cases k1 : (t == t2)
  · simp [go_sem, p0, r0, k0, p1, r1, k1]
  simp [go_sem, p0, r0, k0, p1, r1, k1, p2, r2, e2]
  by_cases hq : q.1 = q2.1 <;> simp [hq]
/-- A header. -/
structure Hd where
  ht : Int
  tm : Int
  rt : H32
def Hd.L (h : Hd) : List Value := hdL h.ht h.tm h.rt
def Hd.row (h : Hd) : Array Value := h.L.toArray
theorem Hd.L_len (h : Hd) : h.L.length = 34 := hdL_len _ _ _
theorem Hd.row_size (h : Hd) : h.row.size = 34 := by unfold Hd.row; rw [List.size_toArray, h.L_len]
theorem Hd.at0 (h : Hd) : h.row[0]? = some (.int .i64 h.ht) := rfl
theorem Hd.at1 (h : Hd) : h.row[1]? = some (.int .i64 h.tm) := rfl
theorem byteCells_one : ∀ (l : List UInt8), ∀ u ∈ Lib.byteCells l, u.oneCell' = true := by
  intro l u hu
  unfold Lib.byteCells at hu
  obtain ⟨b, _, rfl⟩ := List.mem_map.1 hu
  rfl
theorem Hd.L_one (h : Hd) : ∀ u ∈ h.L, u.oneCell' = true := by
  intro u hu
  unfold Hd.L hdL at hu
  rcases List.mem_append.1 hu with hu | hu
  · simp at hu; rcases hu with rfl | rfl <;> rfl
  · exact byteCells_one _ u hu
theorem Hd.row_one (h : Hd) : h.row.all (·.oneCell') = true := by
  unfold Hd.row
  rw [List.all_toArray, List.all_eq_true]
  exact h.L_one
theorem byteCells_inj : ∀ (l m : List UInt8), Lib.byteCells l = Lib.byteCells m → l = m := by
  intro l
  induction l with
  | nil => intro m h; cases m with
    | nil => rfl
    | cons b m => simp [Lib.byteCells] at h
  | cons a l ih =>
    intro m h
    cases m with
    | nil => simp [Lib.byteCells] at h
    | cons b m =>
      simp only [Lib.byteCells, List.map_cons, List.cons.injEq, Value.int.injEq, true_and] at h
      have hab : a = b := by apply UInt8.toNat_inj.1; have := h.1; omega
      subst hab
      rw [ih m h.2]
theorem Hd.L_inj {x y : Hd} (h : x.L = y.L) : x = y := by
  cases x with | mk a b c =>
  cases y with | mk a2 b2 c2 =>
  unfold Hd.L hdL at h
  simp only [List.cons_append, List.nil_append, List.cons.injEq, Value.int.injEq, true_and] at h
  obtain ⟨rfl, rfl, h3⟩ := h
  have : c = c2 := Subtype.ext (byteCells_inj _ _ h3)
  subst this; rfl
theorem Hd.row_inj {x y : Hd} (h : x.row = y.row) : x = y := Hd.L_inj (by unfold Hd.row at h; simpa using h)
instance : DecidableEq Hd := fun x y => decidable_of_iff (x.ht = y.ht ∧ x.tm = y.tm ∧ x.rt = y.rt) (by cases x; cases y; simp)
theorem run_equal_hd (x y : Hd) (W : World) : (Op.equalIn 10000 43 (.agg x.row) (.agg y.row)).run Try.prog W = .ok (decide (x = y)) W := by
  have h := run_equal_hdr x.ht x.tm x.rt y.ht y.tm y.rt W
  rw [show decide (x = y) = hdB x.ht x.tm x.rt y.ht y.tm y.rt from ?_]
  · exact h
  · unfold hdB
    rw [Bool.eq_iff_iff, decide_eq_true_eq]
    simp only [Bool.and_eq_true, beq_iff_eq]
    constructor
    · rintro rfl; exact ⟨⟨rfl, rfl⟩, rfl⟩
    · rintro ⟨⟨h1, h2⟩, h3⟩
      cases x; cases y
      simp only [Hd.mk.injEq]
      exact ⟨h1, h2, Subtype.ext h3⟩
def zeroH : H32 := ⟨List.replicate 32 0, by simp⟩
def zeroHd : Hd := ⟨0, 0, zeroH⟩
theorem zeroHd_val (w : World) : (zeroValue 43).run Try.prog w = .ok (.agg zeroHd.row) w := by kernel_rfl
theorem Try.infoHd : (Try.prog.info? 43).map (·.size) = some 34 := by kernel_rfl
theorem Try.infoHd3 : (Try.prog.info? 43).map (fun i => (i.zero, i.size, i.bytes)) = some (some (.agg zeroHd.row), 34, 48) := by kernel_rfl
theorem infoHd_row (h : Hd) : (Try.prog.info? 43).map (·.size) = some h.row.size := by rw [h.row_size]; exact Try.infoHd
theorem hd_range {w : World} {g : Nat} {h : Hd} {t : TypeId} (hg : w.heap[g]? = some (.cells h.row t (0, 0))) : w.rangeAt g 0 h.L := fun j v hv => by
  rw [cell_heap hg, Nat.zero_add]; unfold Hd.row; simpa using hv
/-- Header k of a row. -/
theorem hds_at {w : World} {a : Option Addr} {l : List Hd} (h : RowAt w a (l.flatMap Hd.L)) {k : Nat} (hk : k < l.length) :
    ∃ b off, a = some ⟨b, off, none⟩ ∧ b < w.heap.size ∧ w.rangeAt b (off + k * 34) l[k].L := by
  obtain ⟨b, off, ha, hb, hc⟩ := h.elem Hd.L_len hk (by decide)
  refine ⟨b, off, ha, hb, fun j v hv => ?_⟩
  have hj : j < 34 := by have := (List.getElem?_eq_some_iff.1 hv).1; rwa [Hd.L_len] at this
  rw [Nat.add_assoc, hc j hj, hv]
theorem hds_len (l : List Hd) : (l.flatMap Hd.L).length = l.length * 34 := flat_length Hd.L 34 Hd.L_len l
/-- A header is loaded. -/
theorem wpList_loadHd {ops : Array Oper} {rest : List Oper} {op : Oper} {a : Act} {w : World} {Q : Exit → Act → World → Prop} (x : Operand) (ho : op.op = .load 43 x)
    (b o : Nat) (hx : a.eval x = .pointer (some ⟨b, o, none⟩)) (h : Hd) (hc : w.rangeAt b o h.L) (hw : Region.wanted op (yielded ops a.tmps) = true)
    (hK : wpList Try.prog ops Q rest (a.put op.dst (.agg h.row)) w) : wpList Try.prog ops Q (op :: rest) a w :=
  wpList_load_midH 43 x ho b o hx h.L _ hc Try.underlying43 rfl (by rw [h.L_len]; exact Try.infoHd) hw hK
end Go.Proofs.Ytbckncopdkmoeaa
