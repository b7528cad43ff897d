/- Two hashes, each a row of 32 bytes: are they the same? Hashes as records of 32 cells, lists of them. -/
import Derived.Test.YthipnkbfdkmhaaaGC
import Derived.Laws.StructEq
import Derived.WalkKit
import Derived.ProofKit
import Derived.Test.YthipnkbfdkmhaaaSA
import Derived.Deep.MidRow
import Derived.Handy
import Derived.Below
import Derived.Lib.Hide
import Derived.IntWalk
import Derived.Outline
import Derived.WalkLawsBesides
import Derived.WalkSpells
namespace Go.Proofs.Ythipnkbfdkmhaaa
open Go.RowKit
section
variable {P : Program} (w : World)
theorem run_part_int {e : TypeId} {k : IntKind} (he : P.underlying e = some (.int k)) (xs : Array Value) (i : Nat) (v : Value) (hv : xs[i]? = some v) : (part e xs i).run P w = .ok v w := by
  simp [part, isAgg, run_underlying he, hv]
theorem run_equalIn_bytes (d : Nat) (t e : TypeId) (n : Nat) (k : IntKind) (xs ys : Array Value) (f g : Nat → Int) (ht : P.underlying t = some (.array n e)) (he : P.underlying e = some (.int k)) (hsz : (P.info? e).map (·.size) = some 1)
    (hx : ∀ i, i < n → xs[i]? = some (.int k (f i))) (hy : ∀ i, i < n → ys[i]? = some (.int k (g i))) :
    (Op.equalIn (d + 2) t (.agg xs) (.agg ys)).run P w = .ok ((List.range' 0 n).all fun i => f i == g i) w := by
  obtain ⟨j, hj, hjs⟩ := Option.map_eq_some_iff.1 hsz
  have hso : (sizeOf e).run P w = .ok 1 w := by simp [sizeOf, typeInfo, hj, hjs]
  rw [Op.equalIn]
  simp only [Sem.run_bind, run_underlying ht, Result.andThen_ok, hso]
  rw [Std.Legacy.Range.forIn_eq_forIn_range']
  simp only [Std.Legacy.Range.size, Nat.sub_zero, Nat.add_sub_cancel, Nat.div_one]
  have hlt : ∀ i ∈ List.range' 0 n, i < n := fun i hi => by simpa using hi
  generalize List.range' 0 n = l at hlt ⊢
  induction l with
  | nil => simp
  | cons i l ih =>
    have hi := hlt i (List.mem_cons_self ..)
    have ihl := ih (fun j hj => hlt j (List.mem_cons_of_mem _ hj))
    simp only [List.forIn_cons, Sem.run_bind, Nat.mul_one, run_part_int w he xs i _ (hx i hi), run_part_int w he ys i _ (hy i hi), Result.andThen_ok, run_equalIn_int w d e k k (f i) (g i) he, Sem.run_ite, Sem.run_pure] at ihl ⊢
    cases hfg : (f i == g i)
    · simp [hfg]
    · simp [hfg]
      simpa using ihl
theorem hrow_at (l : List UInt8) (i : Nat) (h : i < l.length) : (hrow l)[i]? = some (.int .u8 (l.getD i 0).toNat) := by
  simp [hrow, Lib.byteCells, List.getElem?_eq_getElem h, List.getD]
theorem all_bytes : ∀ (n : Nat) (l m : List UInt8), l.length = n → m.length = n → ((List.range' 0 n).all fun i => (((l.getD i 0).toNat : Nat) : Int) == (((m.getD i 0).toNat : Nat) : Int)) = (l == m) := by
  intro n l m hl hm
  rw [Bool.eq_iff_iff]
  simp only [List.all_eq_true, List.mem_range', beq_iff_eq, Int.natCast_inj]
  constructor
  · intro h
    apply List.ext_getElem (by omega)
    intro i h1 h2
    have := h i ⟨i, by omega, by omega⟩
    simp only [List.getD, List.getElem?_eq_getElem h1, List.getElem?_eq_getElem h2, Option.getD_some] at this
    exact UInt8.toNat_inj.1 this
  · rintro rfl i _
    rfl
theorem run_equal_hash (t : TypeId) {e : TypeId} (l m : List UInt8) (hl : l.length = 32) (hm : m.length = 32) (ht : P.underlying t = some (.array 32 e)) (he : P.underlying e = some (.int .u8)) (hsz : (P.info? e).map (·.size) = some 1) :
    (Op.equalIn 10000 t (.agg (hrow l)) (.agg (hrow m))).run P w = .ok (l == m) w := by
  rw [run_equalIn_bytes w 9998 t e 32 .u8 (hrow l) (hrow m) (fun i => ((l.getD i 0).toNat : Nat)) (fun i => ((m.getD i 0).toNat : Nat)) ht he hsz (fun i hi => hrow_at l i (by omega)) (fun i hi => hrow_at m i (by omega)), all_bytes 32 l m hl hm]
end
end Go.Proofs.Ythipnkbfdkmhaaa
namespace Go.Proofs.Ythipnkbfdkmhaaa
open Go.RowKit
attribute [local go_sem] strV
set_option linter.unusedVariables false
/-- A hash: 32 bytes. -/
abbrev H32 := { q : List UInt8 // q.length = 32 }
def H32.cells (q : H32) : List Value := Lib.byteCells q.1
theorem H32.cells_len (q : H32) : q.cells.length = 32 := by unfold H32.cells; rw [Lib.byteCells_length]; exact q.2
theorem H32.row (q : H32) : q.cells.toArray = hrow q.1 := rfl
theorem RowAt.drop {w : World} {b off : Nat} {vs : List Value} (h : RowAt w (some ⟨b, off, none⟩) vs) (k : Nat) : RowAt w (some ⟨b, off + k, none⟩) (vs.drop k) := by
  rcases h with h | ⟨b', off', ha, hlt, hc⟩
  · exact .inl (by rw [h, List.drop_nil])
  · simp only [Option.some.injEq, Addr.mk.injEq, and_true] at ha
    obtain ⟨rfl, rfl⟩ := ha
    refine .inr ⟨b, off + k, rfl, hlt, fun j hj => ?_⟩
    rw [List.length_drop] at hj
    rw [Nat.add_assoc, hc (k + j) (by omega), List.getElem?_drop]
/-- The cells of hash k. -/
theorem hs_at {w : World} {a : Option Addr} {l : List H32} (h : RowAt w a (l.flatMap H32.cells)) {k : Nat} (hk : k < l.length) :
    ∃ b off, a = some ⟨b, off, none⟩ ∧ b < w.heap.size ∧ w.rangeAt b (off + k * 32) l[k].cells := by
  obtain ⟨b, off, ha, hb, hc⟩ := h.elem H32.cells_len hk (by decide)
  refine ⟨b, off, ha, hb, fun j v hv => ?_⟩
  have hj : j < 32 := by have := (List.getElem?_eq_some_iff.1 hv).1; rwa [H32.cells_len] at this
  rw [Nat.add_assoc, hc j hj, hv]
theorem load_hash_mid {W : World} {b off : Nat} {q : H32} (hg : W.rangeAt b off q.cells) (hb : b < W.heap.size) (n : Beyond W) :
    (Instr.loadAt 23 (.pointer (some ⟨b, off, none⟩))).run Try.prog n.x = .ok (.agg (hrow q.1)) n.x := by
  have hg2 : n.x.rangeAt b off q.cells := fun j v hv => by rw [n.h.cell (p := ⟨b, off + j, none⟩) hb]; exact hg j v hv
  exact run_loadAt_mid (P := Try.prog) n.x b off 23 q.cells _ hg2 Try.underlying23 rfl (by rw [H32.cells_len]; kernel_rfl)
end Go.Proofs.Ythipnkbfdkmhaaa
