/- States of ends in bytes: Encode, in the program and in the document. -/
import Derived.Test.YtekhmdjpkngglaaEndsM
import Derived.Test.YtekhmdjpkngglaaRefPT
import Derived.Deep.Cut
import Derived.WalkKit
import Derived.ProofKit
import Derived.Handy
import Derived.Below
import Derived.BigQuiet
import Derived.Lib.Hide
import Derived.IntWalk
import Derived.Outline
import Derived.WalkLawsBesides
import Derived.WalkSpells
namespace Go.Proofs.Ytekhmdjpkngglaa
open Go.RowKit
attribute [local go_sem] strV
theorem cells_of {w : World} {g : Nat} {c : Array Value} {e : TypeId} (h : w.heap[g]? = some (.cells c e (0, 0))) {K : Nat} {w' : World} (hb : Below K w w') (hg : g < K) : w'.heap[g]? = some (.cells c e (0, 0)) := by
  rw [hb.block g hg]; exact h
theorem putL_len' (v : Int) : (putL v).length ≤ 8 := by
  unfold putL
  split
  · exact grp_le _ _
  · simp
theorem ba_append' (l m : List UInt8) : (⟨l.toArray⟩ : ByteArray) ++ ⟨m.toArray⟩ = ⟨(l ++ m).toArray⟩ := by
  apply ByteArray.ext; simp
theorem one_below (b : Bool) (w : World) :
    Calls Try.prog 37 #[.bool b] w fun e w' => e = .returned (.int .i64 ((bitN b : Nat) : Int)) ∧ Below w.heap.size w w' :=
  (one_any b w).mono fun e w' ⟨h1, h2⟩ => ⟨h1, by rw [h2]; exact Below.refl _ _⟩
set_option maxRecDepth 100000 in
set_option maxHeartbeats 1600000 in
theorem encode_any (p : ByteArray) (c : Int) (o cl : Bool) (st : Int) (w : World) (hp : p.size ≤ maxLen) :
    Calls Try.prog 15 #[.agg #[.string p, .int .i64 c, .bool o, .bool cl, .int .i64 st]] w fun e w' => e = .returned (encV ⟨p, c, o, cl, st⟩) ∧ Below w.heap.size w w' := by
  have CM := fun W => mayS_any p c o cl st W hp
  cases hM : mayS ⟨p, c, o, cl, st⟩
  · have hR : encV ⟨p, c, o, cl, st⟩ = .tuple #[.string ⟨#[]⟩, .int .i64 1] := by unfold encV; rw [hM]; rfl
    rw [hR]
    simp only [hM] at CM
    clear hR hM
    go_enter Try.func15, Try.ntmps15
    go_wp2_with (go_at_call 20; refine (CM _).mono ?_; rintro e w1 ⟨rfl, hb1⟩; obtain ⟨hx1, _⟩ := bcell hb1; have hba : Below w.heap.size w w1 := by (repeat (first | assumption | exact Below.refl _ _ | refine bch ?_ (by assumption) | refine Below.alloc ?_ (by simp) _)))
    go_returns
    exact ⟨rfl, hba⟩
  obtain ⟨hE, _, hst0, hst1⟩ := mayS_bounds hM
  obtain ⟨hp12, hc0, hc1⟩ := mayE_bounds hE
  simp only at hst0 hst1 hp12 hc0 hc1
  obtain ⟨cN, rfl⟩ : ∃ x : Nat, c = x := ⟨c.toNat, by omega⟩
  obtain ⟨sN, rfl⟩ : ∃ x : Nat, st = x := ⟨st.toNat, by omega⟩
  have hR : encV ⟨p, cN, o, cl, sN⟩ = .tuple #[.string ⟨(putL (bitN cl) ++ (putL (bitN o) ++ (putL (p.size : Int) ++ (p.data.toList ++ (putL (cN : Int) ++ putL (sN : Int)))))).toArray⟩, .int .i64 0] := by
    unfold encV; rw [hM]; simp [encS]
  rw [hR]
  simp only [hM] at CM
  clear hR hM hE
  have b1 := bitN_le cl
  have b2 := bitN_le o
  have a1 := putL_len' (bitN cl); have a2 := putL_len' (bitN o); have a3 := putL_len' (p.size : Int); have a4 := putL_len' (cN : Int); have a5 := putL_len' (sN : Int)
  have hg0 : (w.alloc (.cells #[.string p, .int .i64 (cN : Int), .bool o, .bool cl, .int .i64 (sN : Int)] 43)).heap[w.heap.size]? = some (.cells #[.string p, .int .i64 (cN : Int), .bool o, .bool cl, .int .i64 (sN : Int)] 43 (0, 0)) := by
    show (w.heap.push _)[w.heap.size]? = _
    rw [Array.getElem?_push_size]
  go_enter Try.func15, Try.ntmps15
  go_wp2_with (first | (go_at_call 20; refine (CM _).mono ?_; rintro e w1 ⟨rfl, hb1⟩; obtain ⟨hx1, _⟩ := bcell hb1; have hg := cells_of hg0 hb1 (by simp); have hwB : w.heap.size ≤ w1.heap.size := (by have := hb1.size; simp at this; omega); have hgB : w.heap.size < w1.heap.size := (Array.getElem?_eq_some_iff.1 hg).1; have q0 := cell_heap hg 0; have q1 := cell_heap hg 1; have q2 := cell_heap hg 2; have q3 := cell_heap hg 3; have q4 := cell_heap hg 4; have hba : Below w.heap.size w w1 := by (repeat (first | assumption | exact Below.refl _ _ | refine bch ?_ (by assumption) | refine Below.alloc ?_ (by simp) _))) | (go_at_call 23; refine (wnew_any w1.heap.size _ (Nat.le_refl _)).mono ?_; rintro e w2 ⟨rfl, hW, hb2⟩; have hbel := hba.trans (hb2.mono hba.size); have hBw := hb2.size; have hg := cells_of hg hb2 hgB; have q0 := cell_heap hg 0; have q1 := cell_heap hg 1; have q2 := cell_heap hg 2; have q3 := cell_heap hg 3; have q4 := cell_heap hg 4) | (go_at_call 35; refine (bit_any _ _).mono ?_; rintro e wx ⟨rfl, hwx⟩; obtain rfl : _ = wx := hwx.symm) | (go_at_call 24; refine (wnum_ok w1.heap.size _ _ _ _ hW hBw ?_ ?_).mono ?_; omega; (simp only [List.length_append, List.length_nil, str_len]; omega); rintro e w3 ⟨rfl, hW, hb3⟩; have hg := cells_of hg hb3 hgB; have q0 := cell_heap hg 0; have q1 := cell_heap hg 1; have q2 := cell_heap hg 2; have q3 := cell_heap hg 3; have q4 := cell_heap hg 4; have hBw := Nat.le_trans hBw hb3.size; have hbel := hbel.trans (hb3.mono hwB)) | (go_at_call 27; refine (wtext_ok w1.heap.size _ _ _ p hW hBw ?_ ?_).mono ?_; omega; (simp only [List.length_append, List.length_nil]; omega); rintro e w3 ⟨rfl, hW, hb3⟩; have hg := cells_of hg hb3 hgB; have q0 := cell_heap hg 0; have q1 := cell_heap hg 1; have q2 := cell_heap hg 2; have q3 := cell_heap hg 3; have q4 := cell_heap hg 4; have hBw := Nat.le_trans hBw hb3.size; have hbel := hbel.trans (hb3.mono hwB)) | (go_at_call 28; refine (wbytes_rd w1.heap.size _ _ _ hW.rd hBw).mono ?_; rintro e w9 ⟨rfl, hW9, hb9⟩; have hbel := hbel.trans (hb9.mono hwB)))
  go_returns
  exact ⟨rfl, hbel⟩
set_option maxRecDepth 100000 in
set_option maxHeartbeats 1600000 in
theorem refEncode_any (p : ByteArray) (c : Int) (o cl : Bool) (st : Int) (w : World) (hp : p.size ≤ maxLen) :
    Calls Try.prog 16 #[.agg #[.string p, .int .i64 c, .bool o, .bool cl, .int .i64 st]] w fun e w' => e = .returned (encV ⟨p, c, o, cl, st⟩) ∧ Below w.heap.size w w' := by
  have CM := fun W => refMayS_any p c o cl st W hp
  cases hM : mayS ⟨p, c, o, cl, st⟩
  · have hR : encV ⟨p, c, o, cl, st⟩ = .tuple #[.string ⟨#[]⟩, .int .i64 1] := by unfold encV; rw [hM]; rfl
    rw [hR]
    simp only [hM] at CM
    clear hR hM
    go_enter Try.func16, Try.ntmps16
    go_wp2_with (go_at_call 21; refine (CM _).mono ?_; rintro e w1 ⟨rfl, hb1⟩; obtain ⟨hx1, _⟩ := bcell hb1; have hba : Below w.heap.size w w1 := by (repeat (first | assumption | exact Below.refl _ _ | refine bch ?_ (by assumption) | refine Below.alloc ?_ (by simp) _)))
    go_returns
    exact ⟨rfl, hba⟩
  obtain ⟨hE, _, hst0, hst1⟩ := mayS_bounds hM
  obtain ⟨hp12, hc0, hc1⟩ := mayE_bounds hE
  simp only at hst0 hst1 hp12 hc0 hc1
  have hR : encV ⟨p, c, o, cl, st⟩ = .tuple #[.string (⟨(putL (bitN cl)).toArray⟩ ++ ⟨(putL (bitN o)).toArray⟩ ++ ⟨(putL (p.size : Int) ++ p.data.toList).toArray⟩ ++ ⟨(putL c).toArray⟩ ++ ⟨(putL st).toArray⟩), .int .i64 0] := by
    unfold encV; rw [hM]
    simp only [ba_append']
    rfl
  rw [hR]
  simp only [hM] at CM
  clear hR hM hE
  have a1 := putL_len' (bitN cl); have a2 := putL_len' (bitN o); have a3 := putL_len' (p.size : Int); have a4 := putL_len' c; have a5 := putL_len' st
  have s1 : (⟨(putL (bitN cl)).toArray⟩ : ByteArray).size ≤ 8 := a1
  obtain ⟨x1, hx1⟩ : ∃ x : ByteArray, (⟨(putL (bitN cl)).toArray⟩ : ByteArray) = x := ⟨_, rfl⟩
  obtain ⟨x2, hx2⟩ : ∃ x : ByteArray, (⟨(putL (bitN o)).toArray⟩ : ByteArray) = x := ⟨_, rfl⟩
  obtain ⟨x3, hx3⟩ : ∃ x : ByteArray, (⟨(putL (p.size : Int) ++ p.data.toList).toArray⟩ : ByteArray) = x := ⟨_, rfl⟩
  obtain ⟨x4, hx4⟩ : ∃ x : ByteArray, (⟨(putL c).toArray⟩ : ByteArray) = x := ⟨_, rfl⟩
  obtain ⟨x5, hx5⟩ : ∃ x : ByteArray, (⟨(putL st).toArray⟩ : ByteArray) = x := ⟨_, rfl⟩
  have z1 : x1.size ≤ 8 := by rw [← hx1]; exact a1
  have z2 : x2.size ≤ 8 := by rw [← hx2]; exact a2
  have z3 : x3.size ≤ 20 := by rw [← hx3]; show (putL (p.size : Int) ++ p.data.toList).length ≤ 20; rw [List.length_append, str_len]; omega
  have z4 : x4.size ≤ 8 := by rw [← hx4]; exact a4
  have z5 : x5.size ≤ 8 := by rw [← hx5]; exact a5
  have P1 := fun W => putNum_any ((bitN cl : Nat) : Int) W
  have P2 := fun W => putNum_any ((bitN o : Nat) : Int) W
  have P3 := fun W => refPutText_any p W (by omega)
  have P4 := fun W => putNum_any c W
  have P5 := fun W => putNum_any st W
  unfold strV at P1 P2 P3 P4 P5
  rw [hx1] at P1 ⊢
  rw [hx2] at P2 ⊢
  rw [hx3] at P3 ⊢
  rw [hx4] at P4 ⊢
  rw [hx5] at P5 ⊢
  have n1 : ¬ 9223372036854775807 < x1.size + x2.size := by omega
  have n2 : ¬ 9223372036854775807 < x1.size + x2.size + x3.size := by omega
  have n3 : ¬ 9223372036854775807 < x1.size + x2.size + x3.size + x4.size := by omega
  have n4 : ¬ 9223372036854775807 < x1.size + x2.size + x3.size + x4.size + x5.size := by omega
  clear hx1 hx2 hx3 hx4 hx5 s1 a1 a2 a3 a4 a5
  have hg0 : (w.alloc (.cells #[.string p, .int .i64 c, .bool o, .bool cl, .int .i64 st] 46)).heap[w.heap.size]? = some (.cells #[.string p, .int .i64 c, .bool o, .bool cl, .int .i64 st] 46 (0, 0)) := by
    show (w.heap.push _)[w.heap.size]? = _
    rw [Array.getElem?_push_size]
  go_enter Try.func16, Try.ntmps16
  go_wp2_with (go_at_call 21; refine (CM _).mono ?_; rintro e w1 ⟨rfl, hb1⟩; obtain ⟨hx1, _⟩ := bcell hb1; have hba : Below w.heap.size w w1 := by (repeat (first | assumption | exact Below.refl _ _ | refine bch ?_ (by assumption) | refine Below.alloc ?_ (by simp) _)))
  have hg := cells_of hg0 hb1 (by simp)
  have hgB : w.heap.size < w1.heap.size := (Array.getElem?_eq_some_iff.1 hg).1
  have q0 := cell_heap hg 0; have q1 := cell_heap hg 1; have q2 := cell_heap hg 2; have q3 := cell_heap hg 3; have q4 := cell_heap hg 4
  obtain ⟨hcb, hfb⟩ := beyond_cells (W := w1)
  clear hx1 hb1 hg0 hg
  refine wp_region_below (by kernel_rfl) (by kernel_rfl) ?_
  repeat (go_big_quiet_step (first | (go_at_call 37; exact quiet_below (one_below _ _)) | (go_at_call 38; exact quiet_below (P3 _)) | (go_at_call 36; first | with_reducible exact quiet_below (P1 _) | with_reducible exact quiet_below (P2 _) | with_reducible exact quiet_below (P4 _) | with_reducible exact quiet_below (P5 _))))
  intro w9 hw9
  have hb9 := beyond_below hw9
  go_wp2
  go_returns
  exact ⟨rfl, hba.trans (hb9.mono hba.size)⟩
end Go.Proofs.Ytekhmdjpkngglaa
