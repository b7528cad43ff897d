/- A Writer of package wire: its builder, walked where it lies. A Writer of package wire: numbers, texts, what was written. A Reader of package wire. A Reader of package wire: a number, a hash; what the examples fix. A Reader of package wire: texts, counts, its end. The document's own reader: numbers, counts. Readers: where they end; the document's own reader: texts. -/
import Derived.Test.YthipnkbfdkmhaaaGA
import Derived.Test.YthipnkbfdkmhaaaRows
import Derived.Lib.Builder
import Derived.Lib.AppendStr
import Derived.Lib.UnsafeStr
import Derived.Laws.Externs
import Derived.Lib.Walk
import Derived.BigRegion
import Derived.RegionTactic
import Derived.WalkKit
import Derived.ProofKit
import Derived.Handy
import Derived.Below
import Derived.BigQuiet
import Derived.Lib.Hide
import Derived.IntWalk
import Derived.Outline
import Derived.WalkLawsBesides
import Derived.WalkSpells
namespace Go.Proofs.Ythipnkbfdkmhaaa
open Go.RowKit
attribute [local go_sem] strV
theorem Try.infoByteW : (Try.prog.info? 5).map (fun i => (i.zero, i.size, i.bytes)) = some (some (.int .u8 0), 1, 1) := by kernel_rfl
theorem Try.sizeBuilder : (Try.prog.info? 127).map (·.size) = some 2 := by kernel_rfl
/-- Block b is a Writer that has written the bytes l and bears the error err; what it owns lies from B on. -/
def WAt (B b : Nat) (w : World) (l : List UInt8) (err : Int) : Prop :=
  B ≤ b ∧ ∃ p v, w.heap[b]? = some (.cells #[p, v, .int .i64 err] 129 (0, 0)) ∧ (p = .pointer none ∨ p = .pointer (some ⟨b, 0, none⟩)) ∧ w.ownsRow B 5 1 v l.length (l.map bv) ∧ v.ownBlock ≠ some b
theorem cell_heap {w : World} {b : Nat} {c : Array Value} {e : TypeId} (h : w.heap[b]? = some (.cells c e (0, 0))) (k : Nat) : w.cell? ⟨b, k, none⟩ = c[k]? := by
  unfold World.cell?; rw [h]; rfl
theorem frozen_heap {w : World} {b : Nat} {c : Array Value} {e : TypeId} (h : w.heap[b]? = some (.cells c e (0, 0))) (k : Nat) : w.frozen? ⟨b, k, none⟩ = false := by
  unfold World.frozen?; rw [h]; simp
set_option maxRecDepth 100000 in
set_option maxHeartbeats 1600000 in
theorem copy_used (b : Nat) (w : World) (h0 : w.cell? ⟨b, 0, none⟩ = some (.pointer (some ⟨b, 0, none⟩))) :
    Calls Try.prog 134 #[.pointer (some ⟨b, 0, none⟩)] w fun e w' => e = .returned (.tuple #[]) ∧ w' = w := by
  obtain ⟨j, hj, _⟩ := Option.map_eq_some_iff.1 Try.sizeBuilder
  go_enter Try.func134, Try.ntmps134
  go_wp2
  rw [Lib.run_neq_ptr_same w _ Try.underlying124 hj]
  go_wp2
  go_returns
  exact ⟨rfl, rfl⟩
set_option maxRecDepth 100000 in
set_option maxHeartbeats 1600000 in
theorem copy_fresh (b : Nat) (w : World) (h0 : w.cell? ⟨b, 0, none⟩ = some (.pointer none)) (hsh : w.shape? b = some (129, 3)) (hfz : w.frozen? ⟨b, 0, none⟩ = false) :
    Calls Try.prog 134 #[.pointer (some ⟨b, 0, none⟩)] w fun e w' => e = .returned (.tuple #[]) ∧ w' = w.setCell ⟨b, 0, none⟩ (.pointer (some ⟨b, 0, none⟩)) := by
  obtain ⟨j, hj, hjs⟩ := Option.map_eq_some_iff.1 Try.sizeBuilder
  go_enter Try.func134, Try.ntmps134
  go_wp2
  rw [Lib.run_to_unsafe w ⟨b, 0, none⟩ Try.underlying124 Try.underlying167 hj (by rw [hjs]; decide) hsh (Nat.zero_lt_succ 2)]
  simp only [Result.andThen]
  rw [Oper.upon_value]
  go_wp2
  rw [run_callFunc_extern Try.func136 (by kernel_rfl) (by kernel_rfl) (by kernel_rfl) (e := Extern.AbiNoEscape.same) (by kernel_rfl)]
  rw [Lib.run_noEscape]
  simp only [Result.andThen]
  rw [Oper.upon_value]
  go_wp2
  rw [Lib.run_from_unsafe w ⟨b, 0, none⟩ Try.underlying167 Try.underlying124 hj hsh (by kernel_rfl)]
  simp only [Result.andThen]
  rw [Oper.upon_value]
  go_wp2
  go_returns
  exact ⟨rfl, rfl⟩
end Go.Proofs.Ythipnkbfdkmhaaa
namespace Go.Proofs.Ythipnkbfdkmhaaa
open Go.RowKit
attribute [local go_sem] strV
theorem own_kept {w w' : World} {B : Nat} {e : TypeId} {v : Value} {n : Nat} {xs : List Value} (h : w.ownsRow B e 1 v n xs) (hb : Below w.heap.size w w') : w'.ownsRow B e 1 v n xs := by
  obtain ⟨hl, hr⟩ := h
  refine ⟨hl, ?_⟩
  rcases hr with h | ⟨g, cap, cur, hv, hB, hg, r⟩
  · exact .inl h
  · exact .inr ⟨g, cap, cur, hv, hB, by rw [hb.block g (Array.getElem?_eq_some_iff.1 hg).1]; exact hg, r⟩
theorem WAt.below {B b : Nat} {w w' : World} {l : List UInt8} {err : Int} (h : WAt B b w l err) (hb : Below w.heap.size w w') : WAt B b w' l err := by
  obtain ⟨hB, p, v, h1, hp, hown, hne⟩ := h
  exact ⟨hB, p, v, by rw [hb.block b (Array.getElem?_eq_some_iff.1 h1).1]; exact h1, hp, own_kept hown hb, hne⟩
theorem WAt.lt {B b : Nat} {w : World} {l : List UInt8} {err : Int} (h : WAt B b w l err) : b < w.heap.size := by
  obtain ⟨hB, p, v, h1, _⟩ := h; exact (Array.getElem?_eq_some_iff.1 h1).1
theorem WAt.err {B b : Nat} {w : World} {l : List UInt8} {err : Int} (h : WAt B b w l err) : w.cell? ⟨b, 2, none⟩ = some (.int .i64 err) := by
  obtain ⟨hB, p, v, h1, _⟩ := h; exact cell_heap h1 2
theorem wnew_any (B : Nat) (w : World) (hB : B ≤ w.heap.size) :
    Calls Try.prog 48 #[] w fun e w' => e = .returned (.pointer (some ⟨w.heap.size, 0, none⟩)) ∧ WAt B w.heap.size w' [] 0 ∧ Below w.heap.size w w' := by
  go_enter Try.func48, Try.ntmps48
  go_wp2
  go_ret
  refine ⟨rfl, ⟨hB, _, _, by show (w.heap.push _)[w.heap.size]? = _; rw [Array.getElem?_push_size], .inl rfl, ⟨rfl, .inl ⟨rfl, rfl⟩⟩, by simp [Value.ownBlock]⟩, by repeat (first | assumption | exact Below.refl _ _ | refine bch ?_ (by assumption) | refine Below.alloc ?_ (by simp) _)⟩
end Go.Proofs.Ythipnkbfdkmhaaa
namespace Go.Proofs.Ythipnkbfdkmhaaa
open Go.RowKit
attribute [local go_sem] strV
/-- Block b is a Reader of s that stands at at_ and bears err. -/
def RAt (b : Nat) (w : World) (s : ByteArray) (at_ err : Int) : Prop := w.heap[b]? = some (.cells #[.string s, .int .i64 at_, .int .i64 err] 137 (0, 0))
theorem RAt.c0 {b : Nat} {w : World} {s : ByteArray} {at_ err : Int} (h : RAt b w s at_ err) : w.cell? ⟨b, 0, none⟩ = some (.string s) := cell_heap h 0
theorem RAt.c1 {b : Nat} {w : World} {s : ByteArray} {at_ err : Int} (h : RAt b w s at_ err) : w.cell? ⟨b, 1, none⟩ = some (.int .i64 at_) := cell_heap h 1
theorem RAt.c2 {b : Nat} {w : World} {s : ByteArray} {at_ err : Int} (h : RAt b w s at_ err) : w.cell? ⟨b, 2, none⟩ = some (.int .i64 err) := cell_heap h 2
theorem RAt.fr {b : Nat} {w : World} {s : ByteArray} {at_ err : Int} (h : RAt b w s at_ err) (k : Nat) : w.frozen? ⟨b, k, none⟩ = false := frozen_heap h k
theorem RAt.lt {b : Nat} {w : World} {s : ByteArray} {at_ err : Int} (h : RAt b w s at_ err) : b < w.heap.size := (Array.getElem?_eq_some_iff.1 h).1
theorem RAt.below {b B : Nat} {w w' : World} {s : ByteArray} {at_ err : Int} (h : RAt b w s at_ err) (hb : Below B w w') (hB : b < B) : RAt b w' s at_ err := by
  unfold RAt; rw [hb.block b hB]; exact h
end Go.Proofs.Ythipnkbfdkmhaaa
namespace Go.Proofs.Ythipnkbfdkmhaaa
open Go.RowKit
attribute [local go_sem] strV
end Go.Proofs.Ythipnkbfdkmhaaa
namespace Go.Proofs.Ythipnkbfdkmhaaa
open Go.RowKit
attribute [local go_sem] strV
end Go.Proofs.Ythipnkbfdkmhaaa
namespace Go.Proofs.Ythipnkbfdkmhaaa
open Go.RowKit
attribute [local go_sem] strV
/-- Block b is a reader of the document's own answer: of s, at at_, bearing err. -/
def QAt (b : Nat) (w : World) (s : ByteArray) (at_ err : Int) : Prop := w.heap[b]? = some (.cells #[.string s, .int .i64 at_, .int .i64 err] 96 (0, 0))
theorem QAt.c0 {b : Nat} {w : World} {s : ByteArray} {at_ err : Int} (h : QAt b w s at_ err) : w.cell? ⟨b, 0, none⟩ = some (.string s) := cell_heap h 0
theorem QAt.c1 {b : Nat} {w : World} {s : ByteArray} {at_ err : Int} (h : QAt b w s at_ err) : w.cell? ⟨b, 1, none⟩ = some (.int .i64 at_) := cell_heap h 1
theorem QAt.c2 {b : Nat} {w : World} {s : ByteArray} {at_ err : Int} (h : QAt b w s at_ err) : w.cell? ⟨b, 2, none⟩ = some (.int .i64 err) := cell_heap h 2
theorem QAt.fr {b : Nat} {w : World} {s : ByteArray} {at_ err : Int} (h : QAt b w s at_ err) (k : Nat) : w.frozen? ⟨b, k, none⟩ = false := frozen_heap h k
theorem QAt.lt {b : Nat} {w : World} {s : ByteArray} {at_ err : Int} (h : QAt b w s at_ err) : b < w.heap.size := (Array.getElem?_eq_some_iff.1 h).1
theorem QAt.below {b B : Nat} {w w' : World} {s : ByteArray} {at_ err : Int} (h : QAt b w s at_ err) (hb : Below B w w') (hB : b < B) : QAt b w' s at_ err := by
  unfold QAt; rw [hb.block b hB]; exact h
end Go.Proofs.Ythipnkbfdkmhaaa
namespace Go.Proofs.Ythipnkbfdkmhaaa
open Go.RowKit
attribute [local go_sem] strV
end Go.Proofs.Ythipnkbfdkmhaaa
