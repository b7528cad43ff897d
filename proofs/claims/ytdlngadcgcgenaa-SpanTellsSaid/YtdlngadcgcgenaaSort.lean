/- slices.Sorted at numbers. -/
import Derived.Test.YtdlngadcgcgenaaSeq
import Derived.Sort.OwnSortedInts
import Derived.LoopTactic
import Derived.WalkKit
import Derived.ProofKit
import Derived.Handy
import Derived.Below
import Derived.Lib.Hide
import Derived.IntWalk
import Derived.Outline
import Derived.WalkLawsBesides
import Derived.WalkSpells
namespace Go.Proofs.Ytdlngadcgcgenaa
open Go.RowKit Go.Sort Go.Shelf
attribute [local go_sem] strV
set_option linter.unusedVariables false
def sortZ (zs : List Int) : List Int := zs.mergeSort fun x y => decide (x ≤ y)
theorem sortZ_len (zs : List Int) : (sortZ zs).length = zs.length := List.length_mergeSort _
theorem sortZ_mem (zs : List Int) (x : Int) : x ∈ sortZ zs ↔ x ∈ zs := List.mem_mergeSort
theorem sortZ_up (zs : List Int) : List.Pairwise (fun x y => x ≤ y) (sortZ zs) := by
  have h := List.pairwise_mergeSort (le := fun x y : Int => decide (x ≤ y)) (fun a b c h1 h2 => by simp at h1 h2 ⊢; omega) (fun a b => by simp; omega) zs
  exact h.imp (fun h => by simpa using h)
set_option maxRecDepth 100000 in
set_option maxHeartbeats 4000000 in
theorem sorted_any (Bs : Nat) (a : Option Addr) (len cap : Nat) (zs : List Int) (hzl : zs.length = len) (hreach : len ≤ 1000000) (w : World) (hBs : Bs < w.heap.size)
    (hc : w.cell? ⟨Bs, 0, none⟩ = some (.slice a len cap)) (hr : RowAt w a (zs.map (Value.int .i64))) :
    Calls Try.prog 36 #[.func (.func 54) #[] #[.pointer (some ⟨Bs, 0, none⟩)]] w fun e W' => ∃ v, e = .returned v ∧ W'.ownsRow w.heap.size 3 1 v zs.length ((sortZ zs).map (Value.int .i64)) ∧ Below w.heap.size w W' := by
  have CC := collect_any Bs a len cap zs hzl hreach w hBs hc hr
  go_enter Try.func36, Try.ntmps36
  go_upto_region 2 with (go_at_call 52; refine CC.mono ?_; rintro e w2 ⟨v, rfl, hown, hb⟩)
  rcases hown.2 with ⟨rfl, hz⟩ | ⟨g, cap2, cur, rfl, hbase, hg, r1, r2, r3, r4⟩
  · have hnil : zs = [] := List.eq_nil_of_length_eq_zero hz
    subst hnil
    go_wp2_with (go_at_call 53; refine (Try.slices_Sort_int_none none 0 w2).mono ?_; rintro e w3 ⟨rfl, rfl⟩)
    go_ret
    exact ⟨_, rfl, by simpa [sortZ] using hown, hb⟩
  · have hH : Holds (Value.int .i64) w2 g 0 zs.toArray := holds_of_blockI hg (by simpa using r4)
    have hgl : g < w2.heap.size := (Array.getElem?_eq_some_iff.1 hg).1
    have hsz : zs.length < 4611686018427387904 := by omega
    have cS := Try.slices_Sort_int g 0 cap2 zs w2 hH hgl hsz
    obtain ⟨nz, hnz⟩ : ∃ x, zs.length = x := ⟨_, rfl⟩
    rw [hnz] at cS
    have HNZ := Lib.hid hnz
    simp only [hnz]
    clear hnz hzl
    go_wp2_with (go_at_call 53; refine cS.mono ?_; rintro e w3 ⟨rfl, nn, os, rfl⟩)
    go_ret
    refine ⟨_, rfl, ?_, hb.grown (grownBy_sortedI _) hb.size (fun j hj => by cases hj; exact hbase)⟩
    have := ownsRow_sortedI (n := nn) (os := os) (ts := sortZ zs) (sortZ_len zs) hbase hg r1 r2 r3
    rw [HNZ.out] at this ⊢
    exact this
end Go.Proofs.Ytdlngadcgcgenaa
