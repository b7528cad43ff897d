/- A Writer of package wire: its builder, walked where it lies. -/
import Derived.Test.YtfblbholkhdldaaDoorKit
import Derived.Test.YtfblbholkhdldaaDoorStr
import Derived.Test.YtfblbholkhdldaaDoorRows
import Derived.Lib.Builder
import Derived.Lib.AppendStr
import Derived.Lib.UnsafeStr
import Derived.Laws.Externs
import Derived.Lib.Walk
import Derived.BigRegion
import Derived.RegionTactic
import Derived.WalkKit
import Derived.ProofKit
import Derived.Handy
import Derived.Below
import Derived.BigQuiet
import Derived.Lib.Hide
import Derived.IntWalk
import Derived.Outline
import Derived.WalkLawsBesides
import Derived.WalkSpells
namespace Go.Proofs.YtfblbholkhdldaaDoor
open Go.RowKit
attribute [local go_sem] strV
theorem Tryd.infoByteW : (Tryd.prog.info? 5).map (fun i => (i.zero, i.size, i.bytes)) = some (some (.int .u8 0), 1, 1) := by kernel_rfl
theorem Tryd.sizeBuilder : (Tryd.prog.info? 116).map (·.size) = some 2 := by kernel_rfl
/-- Block b is a Writer that has written the bytes l and bears the error err; what it owns lies from B on. -/
def WAt (B b : Nat) (w : World) (l : List UInt8) (err : Int) : Prop :=
  B ≤ b ∧ ∃ p v, w.heap[b]? = some (.cells #[p, v, .int .i64 err] 118 (0, 0)) ∧ (p = .pointer none ∨ p = .pointer (some ⟨b, 0, none⟩)) ∧ w.ownsRow B 5 1 v l.length (l.map bv) ∧ v.ownBlock ≠ some b
theorem cell_heap {w : World} {b : Nat} {c : Array Value} {e : TypeId} (h : w.heap[b]? = some (.cells c e (0, 0))) (k : Nat) : w.cell? ⟨b, k, none⟩ = c[k]? := by
  unfold World.cell?; rw [h]; rfl
theorem frozen_heap {w : World} {b : Nat} {c : Array Value} {e : TypeId} (h : w.heap[b]? = some (.cells c e (0, 0))) (k : Nat) : w.frozen? ⟨b, k, none⟩ = false := by
  unfold World.frozen?; rw [h]; simp
set_option maxRecDepth 100000 in
set_option maxHeartbeats 1600000 in
theorem copy_used (b : Nat) (w : World) (h0 : w.cell? ⟨b, 0, none⟩ = some (.pointer (some ⟨b, 0, none⟩))) :
    Calls Tryd.prog 115 #[.pointer (some ⟨b, 0, none⟩)] w fun e w' => e = .returned (.tuple #[]) ∧ w' = w := by
  obtain ⟨j, hj, _⟩ := Option.map_eq_some_iff.1 Tryd.sizeBuilder
  go_enter Tryd.func115, Tryd.ntmps115
  go_wp2
  rw [Lib.run_neq_ptr_same w _ Tryd.underlying114 hj]
  go_wp2
  go_returns
  exact ⟨rfl, rfl⟩
set_option maxRecDepth 100000 in
set_option maxHeartbeats 1600000 in
theorem copy_fresh (b : Nat) (w : World) (h0 : w.cell? ⟨b, 0, none⟩ = some (.pointer none)) (hsh : w.shape? b = some (118, 3)) (hfz : w.frozen? ⟨b, 0, none⟩ = false) :
    Calls Tryd.prog 115 #[.pointer (some ⟨b, 0, none⟩)] w fun e w' => e = .returned (.tuple #[]) ∧ w' = w.setCell ⟨b, 0, none⟩ (.pointer (some ⟨b, 0, none⟩)) := by
  obtain ⟨j, hj, hjs⟩ := Option.map_eq_some_iff.1 Tryd.sizeBuilder
  go_enter Tryd.func115, Tryd.ntmps115
  go_wp2
  rw [Lib.run_to_unsafe w ⟨b, 0, none⟩ Tryd.underlying114 Tryd.underlying138 hj (by rw [hjs]; decide) hsh (Nat.zero_lt_succ 2)]
  simp only [Result.andThen]
  rw [Oper.upon_value]
  go_wp2
  rw [run_callFunc_extern Tryd.func116 (by kernel_rfl) (by kernel_rfl) (by kernel_rfl) (e := Extern.AbiNoEscape.same) (by kernel_rfl)]
  rw [Lib.run_noEscape]
  simp only [Result.andThen]
  rw [Oper.upon_value]
  go_wp2
  rw [Lib.run_from_unsafe w ⟨b, 0, none⟩ Tryd.underlying138 Tryd.underlying114 hj hsh (by kernel_rfl)]
  simp only [Result.andThen]
  rw [Oper.upon_value]
  go_wp2
  go_returns
  exact ⟨rfl, rfl⟩
theorem copy_any (B b : Nat) (w : World) (l : List UInt8) (err : Int) (h : WAt B b w l err) :
    Calls Tryd.prog 115 #[.pointer (some ⟨b, 0, none⟩)] w fun e w' => e = .returned (.tuple #[]) ∧ Below B w w' ∧ w.heap.size = w'.heap.size ∧
      B ≤ b ∧ ∃ v, w'.heap[b]? = some (.cells #[.pointer (some ⟨b, 0, none⟩), v, .int .i64 err] 118 (0, 0)) ∧ w'.ownsRow B 5 1 v l.length (l.map bv) ∧ v.ownBlock ≠ some b := by
  obtain ⟨hB, p, v, hb, hp, hown, hne⟩ := h
  have c0 : w.cell? ⟨b, 0, none⟩ = some p := cell_heap hb 0
  rcases hp with rfl | rfl
  · refine (copy_fresh b w c0 (by unfold World.shape?; rw [hb]; rfl) (frozen_heap hb 0)).mono ?_
    rintro e w' ⟨rfl, rfl⟩
    refine ⟨rfl, (Below.refl _ _).setCell (p := ⟨b, 0, none⟩) hB _, by simp, hB, v, ?_, ownsRow_setCell_other hown (a := ⟨b, 0, none⟩) hne _, hne⟩
    simp [World.setCell, Array.getElem?_modify, hb]
  · refine (copy_used b w c0).mono ?_
    rintro e w' ⟨rfl, rfl⟩
    exact ⟨rfl, Below.refl _ _, rfl, hB, v, hb, hown, hne⟩
set_option maxRecDepth 100000 in
set_option maxHeartbeats 1600000 in
theorem wstr_any (B b : Nat) (w : World) (l : List UInt8) (err : Int) (s : ByteArray) (h : WAt B b w l err) (hBw : B ≤ w.heap.size) (hlen : l.length + s.size ≤ 140737488355328) :
    Calls Tryd.prog 113 #[.pointer (some ⟨b, 0, none⟩), .string s] w fun e w' => e = .returned (.tuple #[.int .i64 s.size, .nilIface]) ∧ WAt B b w' (l ++ s.data.toList) err ∧ Below B w w' := by
  obtain ⟨i0, hi, hz0, hz1, hz2⟩ := info_parts Tryd.infoByteW
  go_enter Tryd.func113, Tryd.ntmps113
  go_wp2_with (go_at_call 115; refine (copy_any B b _ l err h).mono ?_)
  rintro e w1 ⟨rfl, hb1, hsz1, hB, v, hbk, hown, hne⟩
  have c0 : w1.cell? ⟨b, 0, none⟩ = some (.pointer (some ⟨b, 0, none⟩)) := cell_heap hbk 0
  have c1 : w1.cell? ⟨b, 1, none⟩ = some v := cell_heap hbk 1
  go_wp2_with (at_builtin; refine Lib.wpList_append_own_string _ rfl _ _ 72 9 rfl B 5 i0 Tryd.underlying72 Tryd.underlying9 hi hz0 hz1 hz2 _ _ _ rfl hown s rfl ?c3 ?c4 ?c5 ?_)
  case c3 => unfold maxLen; omega
  case c4 => omega
  case c5 => omega
  intro v' w2 hown' hgrow _
  have hlt : b < w1.heap.size := (Array.getElem?_eq_some_iff.1 hbk).1
  have hb2 : w2.heap[b]? = some (.cells #[.pointer (some ⟨b, 0, none⟩), v, .int .i64 err] 118 (0, 0)) := by
    rw [hgrow.block b hlt (fun e => hne e.symm)]; exact hbk
  have d0 : w2.cell? ⟨b, 0, none⟩ = some (.pointer (some ⟨b, 0, none⟩)) := cell_heap hb2 0
  have d1 : w2.cell? ⟨b, 1, none⟩ = some v := cell_heap hb2 1
  have f1 : w2.frozen? ⟨b, 1, none⟩ = false := frozen_heap hb2 1
  have hne' : v'.ownBlock ≠ some b := by
    rcases hown'.2 with ⟨rfl, _⟩ | ⟨g, cap, cur, rfl, _, hg, _⟩
    · simp [Value.ownBlock]
    · intro e
      simp only [Value.ownBlock, Option.some.injEq] at e
      subst e
      rw [hb2] at hg
      simp at hg
  obtain ⟨ao, n', cap, rfl⟩ : ∃ ao n' cap, v' = .slice ao n' cap := by
    rcases hown'.2 with ⟨hv, _⟩ | ⟨g, cap, cur, hv, _⟩
    · exact ⟨_, _, _, hv⟩
    · exact ⟨_, _, _, hv⟩
  go_wp2
  go_returns
  refine ⟨rfl, ⟨hB, _, _, ?_, .inr rfl, ?_, hne'⟩, ?_⟩
  · simp only [World.setCell, Array.getElem?_modify, hb2]
    simp
    first | done | rfl
  · have := ownsRow_setCell_other hown' (a := ⟨b, 1, none⟩) hne' (.slice ao n' cap)
    rw [List.length_append, List.map_append, str_len]
    exact this
  · exact (hb1.grown hgrow (by omega) (fun k hk => (hown.lt k hk).1)).setCell (p := ⟨b, 1, none⟩) hB _
end Go.Proofs.YtfblbholkhdldaaDoor
