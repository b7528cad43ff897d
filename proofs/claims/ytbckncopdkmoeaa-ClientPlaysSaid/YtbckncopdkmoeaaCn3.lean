/- The known headers in order; the last; a copy. -/
import Derived.Test.YtbckncopdkmoeaaCn2
import Derived.Test.YtbckncopdkmoeaaIter
import Derived.Test.YtbckncopdkmoeaaSort
import Derived.Test.YtbckncopdkmoeaaShelf
import Derived.Shelf.SlIterI.Sorted
import Derived.Shelf.SlIterI.Keys
import Derived.Shelf.SlIterI.Collect
import Derived.Shelf.SlMaps.Clone
import Derived.Maps.OwnSet
import Derived.Maps.OwnOps
import Derived.Maps.RangeWalk
import Derived.BigRegion
import Derived.RegionTactic
import Derived.BigQuiet
import Derived.Deep.QuietTactic
import Derived.Deep.MidRow
import Derived.Deep.RegionLaw
import Derived.LoopTactic
import Derived.BigFrame
import Derived.OwnWalk
import Derived.OneCell
import Derived.Laws.OwnMore
import Derived.WalkKit
import Derived.ProofKit
import Derived.Handy
import Derived.Below
import Derived.Lib.Hide
import Derived.IntWalk
import Derived.Outline
import Derived.WalkLawsBesides
import Derived.WalkSpells
namespace Go.Proofs.Ytbckncopdkmoeaa
open Go.RowKit
attribute [local go_sem] strV
set_option linter.unusedVariables false
theorem sorted_same : ∀ (l m : List Int), l.Pairwise (fun x y => x ≤ y) → m.Pairwise (fun x y => x ≤ y) → l.Perm m → l = m := by
  intro l
  induction l with
  | nil => intro m _ _ h; exact (List.nil_perm.1 h).symm
  | cons x l ih =>
    intro m hl hm h
    cases m with
    | nil => exact absurd h.length_eq (by simp)
    | cons y m =>
      have hl' := List.pairwise_cons.1 hl
      have hm' := List.pairwise_cons.1 hm
      have hxy : x = y := by
        rcases List.mem_cons.1 (h.mem_iff.1 (List.mem_cons_self ..)) with h1 | h1
        · exact h1
        · rcases List.mem_cons.1 (h.mem_iff.2 (List.mem_cons_self ..)) with h2 | h2
          · exact h2.symm
          · have := hm'.1 x h1; have := hl'.1 y h2; omega
      subst hxy
      rw [ih m hl'.2 hm'.2 (List.Perm.cons_inv h)]
theorem rises_hts {m : List Hd} (hr : risesH m) : (m.map Hd.ht).Pairwise (fun x y => x < y) := List.pairwise_map.2 hr
theorem keys_sorted {w : World} {b n : Nat} {D : DataW Value} {m : List Hd} (hown : w.ownsMap Try.prog 3 hdR b n D) (hD : MapHd D m) (hr : risesH m) (hm : ∀ h ∈ m, mayHd h = true) {ss : List Int} (hp : ss.Perm (intKeys D)) :
    ss.mergeSort (fun x y => decide (x ≤ y)) = m.map Hd.ht := by
  have hwf := intKeys_wf hown Try.underlying3
  obtain ⟨es, rfl, he1, he2⟩ := hown.entries int_keyedC
  have hk : ∀ p ∈ es, ∃ x, p.1 = .int .i64 x := fun p hp => by
    obtain ⟨es2, hD2, hko⟩ := hown.keysOf
    obtain rfl : es = es2 := by simpa using hD2
    obtain ⟨v, hv⟩ := hko p hp
    obtain ⟨x, _, h3, _⟩ := Maps.keyOf_int_inv Try.underlying3 hv
    exact ⟨x, h3⟩
  have hnd : (m.map Hd.ht).Nodup := (rises_hts hr).imp (fun h => by omega)
  have hp2 := perm_intKeys he1 hk hnd (fun x => by
    constructor
    · intro hx
      obtain ⟨h, hh, rfl⟩ := List.mem_map.1 hx
      rw [hD.has _ (may_wf (hm h hh)).1]
      exact knownB_iff.2 ⟨h, hh, rfl⟩
    · intro hx
      have hw : (Lit.int .i64 x).wf = true := by
        obtain ⟨p, hp, hs⟩ := List.any_eq_true.1 hx
        exact hwf x (List.mem_map.2 ⟨p, hp, by rw [WideAt.sameKey_eq hs]; rfl⟩)
      rw [hD.has x hw] at hx
      obtain ⟨h, hh, rfl⟩ := knownB_iff.1 hx
      exact List.mem_map.2 ⟨h, hh, rfl⟩)
  refine sorted_same _ _ (sortZ_up ss) ((rises_hts hr).imp (fun h => by omega)) ?_
  exact ((List.mergeSort_perm ss _).trans hp).trans hp2.symm
theorem Try.sortsH (m : Nat) : Go.Proofs.AnyZI.SortsIn Try.prog Try.sortedH_ren Fence.wide m :=
  ⟨fun blk off cap ss W hH hblk hsz => callsIn_wide.2 (Try.slices_Sort_int blk off cap ss W hH hblk hsz), fun p cap W => callsIn_wide.2 (Try.slices_Sort_int_none p cap W)⟩
theorem clKeys_any (mb : Option Nat) (w : World) : Calls Try.prog 55 #[.map mb] w fun e w' => e = .returned (.func (.func 89) #[] #[.pointer (some ⟨w.heap.size, 0, none⟩)]) ∧ w' = w.alloc (.cells #[.map mb] 108) :=
  (callsIn_wide (n := 5)).1 (Go.Proofs.AnyZI.keys_in Try.keysH Fence.wide 5 trivial rfl mb w)
set_option maxHeartbeats 1600000 in
theorem clSorted_any (Bm b n : Nat) (D : DataW Value) (m : List Hd) (w : World) (hBm : Bm < w.heap.size) (hc : w.cell? ⟨Bm, 0, none⟩ = some (.map (some b))) (hown : w.ownsMap Try.prog 3 hdR b n D) (hn : n ≤ 100000) (hD : MapHd D m) (hr : risesH m) (hm : ∀ h ∈ m, mayHd h = true) :
    Calls Try.prog 54 #[.func (.func 89) #[] #[.pointer (some ⟨Bm, 0, none⟩)]] w fun e w' => ∃ v, e = .returned v ∧ w'.ownsRow w.heap.size 3 1 v m.length ((m.map Hd.ht).map (Value.int .i64)) ∧ Below w.heap.size w w' := by
  have hsz := hown.size_le
  have hseq : SeqGives Fence.wide 2 Try.prog 89 #[.pointer (some ⟨Bm, 0, none⟩)] encZ (fun ss => ss.Perm (intKeys D)) (Maps.size D) w :=
    Go.Proofs.AnyZI.keys_gives (ρ := Try.keysH_ren) { Try.keysH with } Fence.wide _ trivial rfl (by omega) Bm b n D w hBm hc hown
  refine (callsIn_wide (n := 5)).1 ?_
  have cS := Go.Proofs.AnyZI.sorted_in Try.sortedH Fence.wide 5 trivial trivial trivial trivial rfl (by omega) (Try.sortsH _) (enters_of Try.func88 (by kernel_rfl) rfl) 89 #[.pointer (some ⟨Bm, 0, none⟩)] trivial (enters_of Try.func89 (by kernel_rfl) rfl) _ _ (by unfold maxLen; omega) (by omega) _ hseq
  change CallsIn _ _ Try.prog 54 _ _ _ at cS
  refine cS.mono ?_
  rintro e w' ⟨v, ss, rfl, hS, hrow, _, hb⟩
  have h1 := keys_sorted hown hD hr hm hS
  have h2 : ss.length = m.length := by
    have := congrArg List.length h1
    rwa [List.length_mergeSort, List.length_map] at this
  rw [h1, h2] at hrow
  exact ⟨v, rfl, hrow, hb⟩
theorem fold_atH {n : Nat} (R Z : Array Value) (hR : R.size = n) (hZ : n ≤ Z.size) : Array.foldl (fun cs x => cs.setIfInBounds x.2 x.1) Z R.zipIdx 0 n = (R.toList ++ Z.toList.drop n).toArray := by
  have key : ∀ (vs : List Value) (k : Nat) (cur : Array Value), k + vs.length ≤ cur.size → (vs.zipIdx k).foldl (fun a x => a.setIfInBounds x.2 x.1) cur = (cur.toList.take k ++ vs ++ cur.toList.drop (k + vs.length)).toArray := by
    intro vs
    induction vs with
    | nil => intro k cur h; simp
    | cons v r ih =>
      intro k cur h
      rw [List.length_cons] at h
      rw [List.zipIdx_cons, List.foldl_cons, ih (k + 1) _ (by rw [Array.size_setIfInBounds]; omega)]
      apply congrArg List.toArray
      have hk : k < cur.toList.length := by rw [Array.length_toList]; omega
      rw [Array.toList_setIfInBounds, List.take_succ_eq_append_getElem (by rw [List.length_set]; exact hk), List.getElem_set_self, List.take_set, List.set_eq_of_length_le (by rw [List.length_take]; omega), List.drop_set, if_pos (by omega), List.length_cons, show k + 1 + r.length = k + (r.length + 1) by omega]
      simp
  have h3 : R.zipIdx.size = n := by simpa using hR
  rw [← h3, ← Array.foldl_toList, Array.toList_zipIdx, key R.toList 0 Z (by rw [Array.length_toList]; omega), Array.length_toList, hR, h3]
  simp
theorem one_hd (R : Array Value) (hR : R.size = 34) (W : World) : (Instr.buildSlice 36 1 #[(0, .agg R)]).run Try.prog W = .ok (.slice (some ⟨W.heap.size, 0, none⟩) 1 1) (W.alloc (.cells R 43)) := by
  have h1 := fun Z hZ => fold_atH R Z hR hZ
  simp [go_sem, hR, h1]
theorem Hd.row_size0 : (Value.agg zeroHd.row).cells.size = 34 := Hd.row_size zeroHd
theorem knownV_nth {m : List Hd} (hr : risesH m) {k : Nat} (hk : k < m.length) : knownV m m[k].ht = m[k] := knownV_of hr (List.getElem_mem hk)
set_option maxRecDepth 100000 in
set_option maxHeartbeats 3200000 in
theorem clStates_any (g b n : Nat) (m : List Hd) (w : World) (h : ClAt w g b n m) (hn : n ≤ 100000) :
    Calls Try.prog 28 #[.pointer (some ⟨g, 0, none⟩)] w fun e w' => ∃ v, e = .returned v ∧ w'.ownsRow w.heap.size 43 34 v m.length (m.flatMap Hd.L) ∧ Below w.heap.size w w' := by
  obtain ⟨hrs, hms, hln, hgc, D, hm, hD⟩ := h
  have hgl := row_lt hgc
  have hbl := hm.lt
  obtain ⟨i0, hi0, hz0, hzs, hzb⟩ := info_parts Try.infoHd3
  have hb0 : Below w.heap.size w (w.alloc (.cells #[.map (some b)] 108)) := (Below.refl _ _).alloc (Nat.le_refl _) _
  have CK := clKeys_any (some b) w
  have CS := clSorted_any w.heap.size b n D m (w.alloc (.cells #[.map (some b)] 108)) (by simp) (cell_heap (heap_push w _ _) 0) (hm.alloc _) hn hD hrs hms
  have c0 : w.cell? ⟨g, 0, none⟩ = some (.map (some b)) := cell_heap hgc 0
  obtain ⟨M, hM⟩ : ∃ M, m.length = M := ⟨_, rfl⟩
  rw [hM] at CS hln
  have HM := Lib.hid hM
  simp only [hM]
  clear hM
  go_enter Try.func28, Try.ntmps28
  go_upto_region 3 with (first | (go_at_call 55; refine CK.mono ?_; rintro e w1 ⟨rfl, rfl⟩) | (go_at_call 54; refine CS.mono ?_; rintro e w2 ⟨v2, rfl, hown2, hb2⟩; obtain ⟨a2, c2, rfl, hr2, hc2, hm2, _⟩ := own_sliceN hown2))
  have hbw2 : Below w.heap.size w w2 := hb0.trans (hb2.mono hb0.size)
  go_loopw [3, 13] (fun v i wr => ∃ k : Nat, k ≤ M ∧ i = .int .i64 k ∧ wr.ownsRow w2.heap.size 43 34 v k ((m.take k).flatMap Hd.L) ∧ Below w2.heap.size w2 wr) (fun _ i _ => M - (intOf i).toNat)
  case atStart => exact ⟨0, Nat.zero_le _, rfl, World.ownsRow_nil _ _ _ _, Below.refl _ _⟩
  case round =>
    obtain ⟨k, hk, rfl, hown9, hbel⟩ := hrel
    by_cases hlt : k < M
    rotate_left
    · obtain rfl : k = M := by omega
      have d9 : decide ((k : Int) < (k : Int)) = false := decide_eq_false (by omega)
      have d9n : decide (k < k) = false := decide_eq_false hlt
      rw [List.take_of_length_le (by rw [HM.out]; exact Nat.le_refl _)] at hown9
      obtain ⟨a9, c9, rfl, _⟩ := own_sliceN hown9
      go_wp2
      go_ret
      exact ⟨_, rfl, own_lowerM hown9 hbw2.size, hbw2.trans (hbel.mono hbw2.size)⟩
    have d9 : decide ((k : Int) < (M : Int)) = true := decide_eq_true (by omega)
    have d9n : decide (k < M) = true := decide_eq_true hlt
    have hkl : k < m.length := by rw [HM.out]; exact hlt
    obtain ⟨b1, o1, rfl, hbx, hcx⟩ := row_get (hr2.below hbel) (k := k) (by rw [List.length_map]; exact hkl)
    rw [List.getElem_map] at hcx
    have HTK := Lib.hid (List.take_succ_eq_append_getElem hkl)
    have hkn := knownV_nth hrs hkl
    have hwx := (may_wf (hms _ (List.getElem_mem hkl))).1
    obtain ⟨x, hx9⟩ : ∃ x, m[k] = x := ⟨_, rfl⟩
    rw [hx9] at hcx hwx HTK hkn
    clear hx9
    have hbwr := hbw2.trans (hbel.mono hbw2.size)
    have hmr := hm.kept (grown_below hbwr) (by simp)
    have hlook : (Instr.lookup 108 (.map (some b)) (.int .i64 x.ht) false).run Try.prog wr = .ok (.agg x.row) wr := by
      obtain ⟨v, ps, h1, h2⟩ := hmr.lookup int_keyedC Try.underlying108 (zeroHd_val _) (zd := .held (.agg zeroHd.row)) (zp := []) rfl (Maps.keyOf_int_mk Try.underlying3 hwx)
      rw [hD.at_ _ hwx, hkn] at h2
      rw [h1, hdR_inj h2]
    have c0r : wr.cell? ⟨g, 0, none⟩ = some (.map (some b)) := (hbwr.cell (p := ⟨g, 0, none⟩) hgl).trans c0
    have hbq : w2.heap.size ≤ (wr.alloc (.cells x.row 43)).heap.size := Nat.le_trans hbel.size (by simp)
    have n0 : (0 : Int) ≤ (k : Int) := by omega
    have n1 : (k : Int) < (M : Int) := by omega
    have n2 : ((k : Nat) : Int).toNat = k := by omega
    go_wp2_with (first | (refine wpList_one rfl (.tmp 23) 36 43 rfl (by rfl) (one_hd _ x.row_size _) ?_) | (at_builtin; refine wpList_append_own_at _ rfl (.tmp 17) (.tmp 24) 36 rfl w2.heap.size 43 i0 (.agg zeroHd.row) 34 48 Try.underlying36 hi0 hz0 hzs hzb Hd.row_size0 (by decide) _ _ _ rfl (hown9.alloc _) ⟨wr.heap.size, 0, none⟩ 1 1 x.L rfl (by rw [Hd.L_len]) (fun j u hu => by rw [Addr.add_lit, Nat.zero_add, cell_heap (heap_push wr x.row 43)]; unfold Hd.row; simpa using hu) x.L_one (by unfold maxLen; omega) (by omega) hbq ?_; intro v2 w9 hown8 hgr9 _ hat9))
    go_roundw
    case rel =>
      refine ⟨k + 1, by omega, by go_num, ?_, (hbel.alloc hbel.size (.cells x.row 43)).trans (below_grown (hown9.alloc _) hgr9 hbq)⟩
      rw [HTK.out, List.flatMap_append]
      simpa using hown8
    case measure => (simp [intOf]) <;> omega
end Go.Proofs.Ytbckncopdkmoeaa
