/- Value and Has: what a proof shows of a key. -/
import Derived.Test.YtfikbaoiialfeaaDoorVal2
import Derived.Test.YtfikbaoiialfeaaDoorRf2
import Derived.Deep.MidRow
import Derived.WalkKit
import Derived.ProofKit
import Derived.Handy
import Derived.Below
import Derived.Lib.Hide
import Derived.IntWalk
import Derived.Outline
import Derived.WalkLawsBesides
import Derived.WalkSpells
namespace Go.Proofs.YtfikbaoiialfeaaDoor
open Go.RowKit
attribute [local go_sem] strV
set_option linter.unusedVariables false
/-- Does a proof that may be show a value for a key (and is it its only leaf)? -/
def valB (q : List UInt8) (ct : Int) (xs : List LeafV) (key : ByteArray) : Bool := match xs with
  | [x] => (x.key.toList == key.toList) && standB q ct x
  | _ => false
def valF (q : List UInt8) (ct : Int) (xs : List LeafV) (key : ByteArray) : ByteArray × Bool :=
  if (mayPfB ct xs && valB q ct xs key) = true then (match xs with | [x] => x.val | _ => ⟨#[]⟩, true) else (⟨#[]⟩, false)
theorem valF_may {q : List UInt8} {ct : Int} {xs : List LeafV} {key : ByteArray} (h : mayPfB ct xs = false) : valF q ct xs key = (⟨#[]⟩, false) := by
  unfold valF; rw [h]; rfl
theorem valF_no {q : List UInt8} {ct : Int} {xs : List LeafV} {key : ByteArray} (h : valB q ct xs key = false) : valF q ct xs key = (⟨#[]⟩, false) := by
  unfold valF; rw [h, Bool.and_false]; rfl
theorem valB_len {q : List UInt8} {ct : Int} {xs : List LeafV} {key : ByteArray} (h : xs.length ≠ 1) : valB q ct xs key = false := by
  match xs, h with
  | [], _ => rfl
  | [_], h => simp at h
  | _ :: _ :: _, _ => rfl
def hasF (q : List UInt8) (ct : Int) (xs : List LeafV) (key val : ByteArray) : Bool := (valF q ct xs key).2 && ((valF q ct xs key).1.toList == val.toList)
set_option maxRecDepth 100000 in
set_option maxHeartbeats 6400000 in
theorem value_any (q : List UInt8) (hq : q.length = 32) (ct : Int) (a : Option Addr) (n cap : Nat) (xs : List LeafV) (key : ByteArray) (w : World) (hS : SW w) (h : LvsAt w a xs) (hn : xs.length = n) (hnm : n ≤ cap ∧ cap ≤ maxLen) :
    Calls Tryd.prog 33 #[.agg (hrow q), .agg #[.int .i64 ct, .slice a n cap], .string key] w fun e w' => e = .returned (.tuple #[.string (valF q ct xs key).1, .bool (valF q ct xs key).2]) ∧ Below w.heap.size w w' := by
  have hnM : n ≤ maxLen := Nat.le_trans hnm.1 hnm.2
  have CM := fun W (hb : Below w.heap.size w W) => mayPf_any ct a n cap xs W (h.below hb) hn hnM
  have HNM := Lib.hid hnm
  have hcap := hnm.1
  have hcm := hnm.2
  unfold maxLen at hcm
  obtain ⟨km, em⟩ : ∃ b, mayPfB ct xs = b := ⟨_, rfl⟩
  simp only [em] at CM
  have HEM := Lib.hid em
  have HN := Lib.hid hn
  obtain ⟨⟨rv, rb⟩, hr9⟩ : ∃ r, valF q ct xs key = r := ⟨_, rfl⟩
  rw [hr9]
  simp only []
  have HR := Lib.hid hr9
  clear em hn hr9 hnm hnM
  have hz0 := al2_0 w (.cells (hrow q) 25) (.cells #[.int .i64 ct, .slice a n cap] 46)
  have hz1 := al2_1 w (.cells (hrow q) 25) (.cells #[.int .i64 ct, .slice a n cap] 46)
  have hbA := al2_below w (.cells (hrow q) 25) (.cells #[.int .i64 ct, .slice a n cap] 46)
  go_enter Tryd.func33, Tryd.ntmps33
  go_upto_region 1 with fail
  refine wp_nameE _ (fun W1 hX => ?_)
  have hQ : W1.heap[w.heap.size]? = some (.cells (hrow q) 25 (0, 0)) := by rw [hX]; exact hz0
  have hP : W1.heap[w.heap.size + 1]? = some (.cells #[.int .i64 ct, .slice a n cap] 46 (0, 0)) := by rw [hX]; exact hz1
  have hbel : Below w.heap.size w W1 := by rw [hX]; exact hbA
  clear hX hz0 hz1 hbA
  have p0 : W1.cell? ⟨w.heap.size + 1, 0, none⟩ = some (.int .i64 ct) := cell_heap hP 0
  have p1 : W1.cell? ⟨w.heap.size + 1, 1, none⟩ = some (.slice a n cap) := cell_heap hP 1
  cases km
  · have h9 := HR.out
    rw [valF_may HEM.out, Prod.mk.injEq] at h9
    obtain ⟨rfl, rfl⟩ := h9
    go_wp2_with (first | (go_at_call 36; (with_reducible refine (CM _ hbel).mono ?_); rintro e w2 ⟨rfl, hb⟩; have hQ := cells_of hQ hb (Array.getElem?_eq_some_iff.1 hQ).1; have hP := cells_of hP hb (Array.getElem?_eq_some_iff.1 hP).1; have p0 := cell_heap hP 0; have p1 := cell_heap hP 1; have hbel := hbel.trans (hb.mono hbel.size); clear hb) | (refine wpList_load_mid rfl 25 (.tmp 3) rfl w.heap.size 0 rfl (H32.cells ⟨q, hq⟩) _ (hrow_range (show _ = some (Obj.cells (hrow (⟨q, hq⟩ : H32).1) 25 (0, 0)) from hQ)) Tryd.underlying25 rfl (hash_info (⟨q, hq⟩ : H32)) ?_; rw [show (H32.cells ⟨q, hq⟩).toArray = hrow q from rfl]) | (refine wpList_load_midG 25 (.tmp 3) rfl w.heap.size 0 rfl (H32.cells ⟨q, hq⟩) _ (hrow_range (show _ = some (Obj.cells (hrow (⟨q, hq⟩ : H32).1) 25 (0, 0)) from hQ)) Tryd.underlying25 rfl (hash_info (⟨q, hq⟩ : H32)) (by rfl) ?_; rw [show (H32.cells ⟨q, hq⟩).toArray = hrow q from rfl]))
    refine bodyPost_ret (v := .tuple #[.string ⟨#[]⟩, .bool false]) (by simp [results, Tryd.results33, go_sem]; try rfl) rfl ?_
    exact ⟨rfl, hbel⟩
  by_cases hn1 : n = 1
  rotate_left
  · have d1 : ((n : Int) != 1) = true := bne_iff_ne.2 (by omega)
    have d1n : (n != 1) = true := bne_iff_ne.2 hn1
    have h9 := HR.out
    rw [valF_no (valB_len (by rw [HN.out]; exact hn1)), Prod.mk.injEq] at h9
    obtain ⟨rfl, rfl⟩ := h9
    clear hn1
    go_wp2_with (first | (go_at_call 36; (with_reducible refine (CM _ hbel).mono ?_); rintro e w2 ⟨rfl, hb⟩; have hQ := cells_of hQ hb (Array.getElem?_eq_some_iff.1 hQ).1; have hP := cells_of hP hb (Array.getElem?_eq_some_iff.1 hP).1; have p0 := cell_heap hP 0; have p1 := cell_heap hP 1; have hbel := hbel.trans (hb.mono hbel.size); clear hb) | (refine wpList_load_mid rfl 25 (.tmp 3) rfl w.heap.size 0 rfl (H32.cells ⟨q, hq⟩) _ (hrow_range (show _ = some (Obj.cells (hrow (⟨q, hq⟩ : H32).1) 25 (0, 0)) from hQ)) Tryd.underlying25 rfl (hash_info (⟨q, hq⟩ : H32)) ?_; rw [show (H32.cells ⟨q, hq⟩).toArray = hrow q from rfl]) | (refine wpList_load_midG 25 (.tmp 3) rfl w.heap.size 0 rfl (H32.cells ⟨q, hq⟩) _ (hrow_range (show _ = some (Obj.cells (hrow (⟨q, hq⟩ : H32).1) 25 (0, 0)) from hQ)) Tryd.underlying25 rfl (hash_info (⟨q, hq⟩ : H32)) (by rfl) ?_; rw [show (H32.cells ⟨q, hq⟩).toArray = hrow q from rfl]))
    refine bodyPost_ret (v := .tuple #[.string ⟨#[]⟩, .bool false]) (by simp [results, Tryd.results33, go_sem]; try rfl) rfl ?_
    exact ⟨rfl, hbel⟩
  subst hn1
  obtain ⟨x, hxs⟩ : ∃ x, xs = [x] := List.length_eq_one_iff.1 HN.out
  subst hxs
  obtain ⟨b1, o1, rfl, hb1, hg1⟩ := lv_range (h.below hbel).row (k := 0) (by simp)
  have k0 : W1.cell? ⟨b1, o1, none⟩ = some (.string x.key) := by
    have h9 : W1.cell? ⟨b1, o1 + 0 * 4 + 0, none⟩ = some (.string x.key) := hg1 0 _ rfl
    simpa using h9
  have k1 : W1.cell? ⟨b1, o1 + 1, none⟩ = some (.string x.val) := by
    have h9 : W1.cell? ⟨b1, o1 + 0 * 4 + 1, none⟩ = some (.string x.val) := hg1 1 _ rfl
    simpa using h9
  obtain ⟨kk, ek⟩ : ∃ b, (x.key.toList == key.toList) = b := ⟨_, rfl⟩
  have e9 : (x.key.toList != key.toList) = !kk := by rw [← ek]; rfl
  have HEK := Lib.hid ek
  clear hg1
  cases kk
  · have h9 := HR.out
    rw [valF_no (by show ((x.key.toList == key.toList) && _) = false; rw [HEK.out]; rfl), Prod.mk.injEq] at h9
    obtain ⟨rfl, rfl⟩ := h9
    go_wp2_with (first | (go_at_call 36; (with_reducible refine (CM _ hbel).mono ?_); rintro e w2 ⟨rfl, hb⟩; have hQ := cells_of hQ hb (Array.getElem?_eq_some_iff.1 hQ).1; have hP := cells_of hP hb (Array.getElem?_eq_some_iff.1 hP).1; have p0 := cell_heap hP 0; have p1 := cell_heap hP 1; have hbel := hbel.trans (hb.mono hbel.size); have k0 := (hb.cell (p := ⟨b1, o1, none⟩) hb1).trans k0; have k1 := (hb.cell (p := ⟨b1, o1 + 1, none⟩) hb1).trans k1; have hb1 := Nat.lt_of_lt_of_le hb1 hb.size; clear hb) | (refine wpList_load_mid rfl 25 (.tmp 3) rfl w.heap.size 0 rfl (H32.cells ⟨q, hq⟩) _ (hrow_range (show _ = some (Obj.cells (hrow (⟨q, hq⟩ : H32).1) 25 (0, 0)) from hQ)) Tryd.underlying25 rfl (hash_info (⟨q, hq⟩ : H32)) ?_; rw [show (H32.cells ⟨q, hq⟩).toArray = hrow q from rfl]) | (refine wpList_load_midG 25 (.tmp 3) rfl w.heap.size 0 rfl (H32.cells ⟨q, hq⟩) _ (hrow_range (show _ = some (Obj.cells (hrow (⟨q, hq⟩ : H32).1) 25 (0, 0)) from hQ)) Tryd.underlying25 rfl (hash_info (⟨q, hq⟩ : H32)) (by rfl) ?_; rw [show (H32.cells ⟨q, hq⟩).toArray = hrow q from rfl]))
    refine bodyPost_ret (v := .tuple #[.string ⟨#[]⟩, .bool false]) (by simp [results, Tryd.results33, go_sem]; try rfl) rfl ?_
    exact ⟨rfl, hbel⟩
  have CS := fun W (hb : Below w.heap.size w W) => matches_any q hq ct _ _ _ _ W (hS.below hb) (h.below hb) HN.out HNM.out HEM.out
  obtain ⟨sb, hsb⟩ : ∃ s, standB q ct x = s := ⟨_, rfl⟩
  have HSB := Lib.hid hsb
  simp only [List.all_cons, List.all_nil, Bool.and_true, hsb] at CS
  clear hsb
  cases sb
  · have h9 := HR.out
    rw [valF_no (by show (_ && standB q ct x) = false; rw [HSB.out, Bool.and_false]), Prod.mk.injEq] at h9
    obtain ⟨rfl, rfl⟩ := h9
    go_wp2_with (first | (go_at_call 36; (with_reducible refine (CM _ hbel).mono ?_); rintro e w2 ⟨rfl, hb⟩; have hQ := cells_of hQ hb (Array.getElem?_eq_some_iff.1 hQ).1; have hP := cells_of hP hb (Array.getElem?_eq_some_iff.1 hP).1; have p0 := cell_heap hP 0; have p1 := cell_heap hP 1; have hbel := hbel.trans (hb.mono hbel.size); have k0 := (hb.cell (p := ⟨b1, o1, none⟩) hb1).trans k0; have k1 := (hb.cell (p := ⟨b1, o1 + 1, none⟩) hb1).trans k1; have hb1 := Nat.lt_of_lt_of_le hb1 hb.size; clear hb) | (go_at_call 76; (with_reducible refine (CS _ hbel).mono ?_); rintro e w3 ⟨rfl, hb⟩; have hQ := cells_of hQ hb (Array.getElem?_eq_some_iff.1 hQ).1; have hP := cells_of hP hb (Array.getElem?_eq_some_iff.1 hP).1; have p0 := cell_heap hP 0; have p1 := cell_heap hP 1; have hbel := hbel.trans (hb.mono hbel.size); have k0 := (hb.cell (p := ⟨b1, o1, none⟩) hb1).trans k0; have k1 := (hb.cell (p := ⟨b1, o1 + 1, none⟩) hb1).trans k1; have hb1 := Nat.lt_of_lt_of_le hb1 hb.size; clear hb) | (refine wpList_load_mid rfl 25 (.tmp 3) rfl w.heap.size 0 rfl (H32.cells ⟨q, hq⟩) _ (hrow_range (show _ = some (Obj.cells (hrow (⟨q, hq⟩ : H32).1) 25 (0, 0)) from hQ)) Tryd.underlying25 rfl (hash_info (⟨q, hq⟩ : H32)) ?_; rw [show (H32.cells ⟨q, hq⟩).toArray = hrow q from rfl]) | (refine wpList_load_midG 25 (.tmp 3) rfl w.heap.size 0 rfl (H32.cells ⟨q, hq⟩) _ (hrow_range (show _ = some (Obj.cells (hrow (⟨q, hq⟩ : H32).1) 25 (0, 0)) from hQ)) Tryd.underlying25 rfl (hash_info (⟨q, hq⟩ : H32)) (by rfl) ?_; rw [show (H32.cells ⟨q, hq⟩).toArray = hrow q from rfl]))
    refine bodyPost_ret (v := .tuple #[.string ⟨#[]⟩, .bool false]) (by simp [results, Tryd.results33, go_sem]; try rfl) rfl ?_
    exact ⟨rfl, hbel⟩
  have h9 := HR.out
  have h8 : valF q ct [x] key = (x.val, true) := by unfold valF; rw [if_pos (by rw [HEM.out]; show (true && (_ && standB q ct x)) = true; rw [HEK.out, HSB.out]; rfl)]
  rw [h8, Prod.mk.injEq] at h9
  obtain ⟨rfl, rfl⟩ := h9
  go_wp2_with (first | (go_at_call 36; (with_reducible refine (CM _ hbel).mono ?_); rintro e w2 ⟨rfl, hb⟩; have hQ := cells_of hQ hb (Array.getElem?_eq_some_iff.1 hQ).1; have hP := cells_of hP hb (Array.getElem?_eq_some_iff.1 hP).1; have p0 := cell_heap hP 0; have p1 := cell_heap hP 1; have hbel := hbel.trans (hb.mono hbel.size); have k0 := (hb.cell (p := ⟨b1, o1, none⟩) hb1).trans k0; have k1 := (hb.cell (p := ⟨b1, o1 + 1, none⟩) hb1).trans k1; have hb1 := Nat.lt_of_lt_of_le hb1 hb.size; clear hb) | (go_at_call 76; (with_reducible refine (CS _ hbel).mono ?_); rintro e w3 ⟨rfl, hb⟩; have hQ := cells_of hQ hb (Array.getElem?_eq_some_iff.1 hQ).1; have hP := cells_of hP hb (Array.getElem?_eq_some_iff.1 hP).1; have p0 := cell_heap hP 0; have p1 := cell_heap hP 1; have hbel := hbel.trans (hb.mono hbel.size); have k0 := (hb.cell (p := ⟨b1, o1, none⟩) hb1).trans k0; have k1 := (hb.cell (p := ⟨b1, o1 + 1, none⟩) hb1).trans k1; have hb1 := Nat.lt_of_lt_of_le hb1 hb.size; clear hb) | (refine wpList_load_mid rfl 25 (.tmp 3) rfl w.heap.size 0 rfl (H32.cells ⟨q, hq⟩) _ (hrow_range (show _ = some (Obj.cells (hrow (⟨q, hq⟩ : H32).1) 25 (0, 0)) from hQ)) Tryd.underlying25 rfl (hash_info (⟨q, hq⟩ : H32)) ?_; rw [show (H32.cells ⟨q, hq⟩).toArray = hrow q from rfl]) | (refine wpList_load_midG 25 (.tmp 3) rfl w.heap.size 0 rfl (H32.cells ⟨q, hq⟩) _ (hrow_range (show _ = some (Obj.cells (hrow (⟨q, hq⟩ : H32).1) 25 (0, 0)) from hQ)) Tryd.underlying25 rfl (hash_info (⟨q, hq⟩ : H32)) (by rfl) ?_; rw [show (H32.cells ⟨q, hq⟩).toArray = hrow q from rfl]))
  refine bodyPost_ret (v := .tuple #[.string x.val, .bool true]) (by simp [results, Tryd.results33, go_sem]; try rfl) rfl ?_
  exact ⟨rfl, hbel⟩
set_option maxRecDepth 100000 in
set_option maxHeartbeats 6400000 in
theorem refValue_any (q : List UInt8) (hq : q.length = 32) (ct : Int) (a : Option Addr) (n cap : Nat) (xs : List LeafV) (key : ByteArray) (w : World) (h : LvsAt w a xs) (hn : xs.length = n) (hnm : n ≤ cap ∧ cap ≤ maxLen) :
    Calls Tryd.prog 43 #[.agg (hrow q), .agg #[.int .i64 ct, .slice a n cap], .string key] w fun e w' => e = .returned (.tuple #[.string (valF q ct xs key).1, .bool (valF q ct xs key).2]) ∧ Below w.heap.size w w' := by
  have hnM : n ≤ maxLen := Nat.le_trans hnm.1 hnm.2
  have CM := fun W (hb : Below w.heap.size w W) => refMayPf_any ct a n cap xs W (h.below hb) hn hnM
  have HNM := Lib.hid hnm
  have hcap := hnm.1
  have hcm := hnm.2
  unfold maxLen at hcm
  obtain ⟨km, em⟩ : ∃ b, mayPfB ct xs = b := ⟨_, rfl⟩
  simp only [em] at CM
  have HEM := Lib.hid em
  have HN := Lib.hid hn
  obtain ⟨⟨rv, rb⟩, hr9⟩ : ∃ r, valF q ct xs key = r := ⟨_, rfl⟩
  rw [hr9]
  simp only []
  have HR := Lib.hid hr9
  clear em hn hr9 hnm hnM
  have hz0 := al2_0 w (.cells (hrow q) 25) (.cells #[.int .i64 ct, .slice a n cap] 46)
  have hz1 := al2_1 w (.cells (hrow q) 25) (.cells #[.int .i64 ct, .slice a n cap] 46)
  have hbA := al2_below w (.cells (hrow q) 25) (.cells #[.int .i64 ct, .slice a n cap] 46)
  go_enter Tryd.func43, Tryd.ntmps43
  go_upto_region 1 with fail
  refine wp_nameE _ (fun W1 hX => ?_)
  have hQ : W1.heap[w.heap.size]? = some (.cells (hrow q) 25 (0, 0)) := by rw [hX]; exact hz0
  have hP : W1.heap[w.heap.size + 1]? = some (.cells #[.int .i64 ct, .slice a n cap] 46 (0, 0)) := by rw [hX]; exact hz1
  have hbel : Below w.heap.size w W1 := by rw [hX]; exact hbA
  clear hX hz0 hz1 hbA
  have p0 : W1.cell? ⟨w.heap.size + 1, 0, none⟩ = some (.int .i64 ct) := cell_heap hP 0
  have p1 : W1.cell? ⟨w.heap.size + 1, 1, none⟩ = some (.slice a n cap) := cell_heap hP 1
  cases km
  · have h9 := HR.out
    rw [valF_may HEM.out, Prod.mk.injEq] at h9
    obtain ⟨rfl, rfl⟩ := h9
    go_wp2_with (first | (go_at_call 46; (with_reducible refine (CM _ hbel).mono ?_); rintro e w2 ⟨rfl, hb⟩; have hQ := cells_of hQ hb (Array.getElem?_eq_some_iff.1 hQ).1; have hP := cells_of hP hb (Array.getElem?_eq_some_iff.1 hP).1; have p0 := cell_heap hP 0; have p1 := cell_heap hP 1; have hbel := hbel.trans (hb.mono hbel.size); clear hb) | (refine wpList_load_mid rfl 25 (.tmp 3) rfl w.heap.size 0 rfl (H32.cells ⟨q, hq⟩) _ (hrow_range (show _ = some (Obj.cells (hrow (⟨q, hq⟩ : H32).1) 25 (0, 0)) from hQ)) Tryd.underlying25 rfl (hash_info (⟨q, hq⟩ : H32)) ?_; rw [show (H32.cells ⟨q, hq⟩).toArray = hrow q from rfl]) | (refine wpList_load_midG 25 (.tmp 3) rfl w.heap.size 0 rfl (H32.cells ⟨q, hq⟩) _ (hrow_range (show _ = some (Obj.cells (hrow (⟨q, hq⟩ : H32).1) 25 (0, 0)) from hQ)) Tryd.underlying25 rfl (hash_info (⟨q, hq⟩ : H32)) (by rfl) ?_; rw [show (H32.cells ⟨q, hq⟩).toArray = hrow q from rfl]))
    refine bodyPost_ret (v := .tuple #[.string ⟨#[]⟩, .bool false]) (by simp [results, Tryd.results43, go_sem]; try rfl) rfl ?_
    exact ⟨rfl, hbel⟩
  by_cases hn1 : n = 1
  rotate_left
  · have d1 : ((n : Int) != 1) = true := bne_iff_ne.2 (by omega)
    have d1n : (n != 1) = true := bne_iff_ne.2 hn1
    have h9 := HR.out
    rw [valF_no (valB_len (by rw [HN.out]; exact hn1)), Prod.mk.injEq] at h9
    obtain ⟨rfl, rfl⟩ := h9
    clear hn1
    go_wp2_with (first | (go_at_call 46; (with_reducible refine (CM _ hbel).mono ?_); rintro e w2 ⟨rfl, hb⟩; have hQ := cells_of hQ hb (Array.getElem?_eq_some_iff.1 hQ).1; have hP := cells_of hP hb (Array.getElem?_eq_some_iff.1 hP).1; have p0 := cell_heap hP 0; have p1 := cell_heap hP 1; have hbel := hbel.trans (hb.mono hbel.size); clear hb) | (refine wpList_load_mid rfl 25 (.tmp 3) rfl w.heap.size 0 rfl (H32.cells ⟨q, hq⟩) _ (hrow_range (show _ = some (Obj.cells (hrow (⟨q, hq⟩ : H32).1) 25 (0, 0)) from hQ)) Tryd.underlying25 rfl (hash_info (⟨q, hq⟩ : H32)) ?_; rw [show (H32.cells ⟨q, hq⟩).toArray = hrow q from rfl]) | (refine wpList_load_midG 25 (.tmp 3) rfl w.heap.size 0 rfl (H32.cells ⟨q, hq⟩) _ (hrow_range (show _ = some (Obj.cells (hrow (⟨q, hq⟩ : H32).1) 25 (0, 0)) from hQ)) Tryd.underlying25 rfl (hash_info (⟨q, hq⟩ : H32)) (by rfl) ?_; rw [show (H32.cells ⟨q, hq⟩).toArray = hrow q from rfl]))
    refine bodyPost_ret (v := .tuple #[.string ⟨#[]⟩, .bool false]) (by simp [results, Tryd.results43, go_sem]; try rfl) rfl ?_
    exact ⟨rfl, hbel⟩
  subst hn1
  obtain ⟨x, hxs⟩ : ∃ x, xs = [x] := List.length_eq_one_iff.1 HN.out
  subst hxs
  obtain ⟨b1, o1, rfl, hb1, hg1⟩ := lv_range (h.below hbel).row (k := 0) (by simp)
  have k0 : W1.cell? ⟨b1, o1, none⟩ = some (.string x.key) := by
    have h9 : W1.cell? ⟨b1, o1 + 0 * 4 + 0, none⟩ = some (.string x.key) := hg1 0 _ rfl
    simpa using h9
  have k1 : W1.cell? ⟨b1, o1 + 1, none⟩ = some (.string x.val) := by
    have h9 : W1.cell? ⟨b1, o1 + 0 * 4 + 1, none⟩ = some (.string x.val) := hg1 1 _ rfl
    simpa using h9
  obtain ⟨kk, ek⟩ : ∃ b, (x.key.toList == key.toList) = b := ⟨_, rfl⟩
  have e9 : (x.key.toList != key.toList) = !kk := by rw [← ek]; rfl
  have HEK := Lib.hid ek
  clear hg1
  cases kk
  · have h9 := HR.out
    rw [valF_no (by show ((x.key.toList == key.toList) && _) = false; rw [HEK.out]; rfl), Prod.mk.injEq] at h9
    obtain ⟨rfl, rfl⟩ := h9
    go_wp2_with (first | (go_at_call 46; (with_reducible refine (CM _ hbel).mono ?_); rintro e w2 ⟨rfl, hb⟩; have hQ := cells_of hQ hb (Array.getElem?_eq_some_iff.1 hQ).1; have hP := cells_of hP hb (Array.getElem?_eq_some_iff.1 hP).1; have p0 := cell_heap hP 0; have p1 := cell_heap hP 1; have hbel := hbel.trans (hb.mono hbel.size); have k0 := (hb.cell (p := ⟨b1, o1, none⟩) hb1).trans k0; have k1 := (hb.cell (p := ⟨b1, o1 + 1, none⟩) hb1).trans k1; have hb1 := Nat.lt_of_lt_of_le hb1 hb.size; clear hb) | (refine wpList_load_mid rfl 25 (.tmp 3) rfl w.heap.size 0 rfl (H32.cells ⟨q, hq⟩) _ (hrow_range (show _ = some (Obj.cells (hrow (⟨q, hq⟩ : H32).1) 25 (0, 0)) from hQ)) Tryd.underlying25 rfl (hash_info (⟨q, hq⟩ : H32)) ?_; rw [show (H32.cells ⟨q, hq⟩).toArray = hrow q from rfl]) | (refine wpList_load_midG 25 (.tmp 3) rfl w.heap.size 0 rfl (H32.cells ⟨q, hq⟩) _ (hrow_range (show _ = some (Obj.cells (hrow (⟨q, hq⟩ : H32).1) 25 (0, 0)) from hQ)) Tryd.underlying25 rfl (hash_info (⟨q, hq⟩ : H32)) (by rfl) ?_; rw [show (H32.cells ⟨q, hq⟩).toArray = hrow q from rfl]))
    refine bodyPost_ret (v := .tuple #[.string ⟨#[]⟩, .bool false]) (by simp [results, Tryd.results43, go_sem]; try rfl) rfl ?_
    exact ⟨rfl, hbel⟩
  have CS := fun W (hb : Below w.heap.size w W) => @id (Calls Tryd.prog 80 #[.agg (hrow q), .agg #[.int .i64 ct, .slice (some ⟨b1, o1, none⟩) 1 cap], .int .i64 0] W (fun e w' => e = .returned (.bool (standB q ct [x][0])) ∧ Below W.heap.size W w')) (stands_any q hq ct _ _ _ _ 0 W (h.below hb) HN.out HNM.out HEM.out (by simp))
  obtain ⟨sb, hsb⟩ : ∃ s, standB q ct x = s := ⟨_, rfl⟩
  have HSB := Lib.hid hsb
  simp only [List.getElem_cons_zero, hsb] at CS
  clear hsb
  cases sb
  · have h9 := HR.out
    rw [valF_no (by show (_ && standB q ct x) = false; rw [HSB.out, Bool.and_false]), Prod.mk.injEq] at h9
    obtain ⟨rfl, rfl⟩ := h9
    go_wp2_with (first | (go_at_call 46; (with_reducible refine (CM _ hbel).mono ?_); rintro e w2 ⟨rfl, hb⟩; have hQ := cells_of hQ hb (Array.getElem?_eq_some_iff.1 hQ).1; have hP := cells_of hP hb (Array.getElem?_eq_some_iff.1 hP).1; have p0 := cell_heap hP 0; have p1 := cell_heap hP 1; have hbel := hbel.trans (hb.mono hbel.size); have k0 := (hb.cell (p := ⟨b1, o1, none⟩) hb1).trans k0; have k1 := (hb.cell (p := ⟨b1, o1 + 1, none⟩) hb1).trans k1; have hb1 := Nat.lt_of_lt_of_le hb1 hb.size; clear hb) | (go_at_call 80; (with_reducible refine (CS _ hbel).mono ?_); rintro e w3 ⟨rfl, hb⟩; have hQ := cells_of hQ hb (Array.getElem?_eq_some_iff.1 hQ).1; have hP := cells_of hP hb (Array.getElem?_eq_some_iff.1 hP).1; have p0 := cell_heap hP 0; have p1 := cell_heap hP 1; have hbel := hbel.trans (hb.mono hbel.size); have k0 := (hb.cell (p := ⟨b1, o1, none⟩) hb1).trans k0; have k1 := (hb.cell (p := ⟨b1, o1 + 1, none⟩) hb1).trans k1; have hb1 := Nat.lt_of_lt_of_le hb1 hb.size; clear hb) | (refine wpList_load_mid rfl 25 (.tmp 3) rfl w.heap.size 0 rfl (H32.cells ⟨q, hq⟩) _ (hrow_range (show _ = some (Obj.cells (hrow (⟨q, hq⟩ : H32).1) 25 (0, 0)) from hQ)) Tryd.underlying25 rfl (hash_info (⟨q, hq⟩ : H32)) ?_; rw [show (H32.cells ⟨q, hq⟩).toArray = hrow q from rfl]) | (refine wpList_load_midG 25 (.tmp 3) rfl w.heap.size 0 rfl (H32.cells ⟨q, hq⟩) _ (hrow_range (show _ = some (Obj.cells (hrow (⟨q, hq⟩ : H32).1) 25 (0, 0)) from hQ)) Tryd.underlying25 rfl (hash_info (⟨q, hq⟩ : H32)) (by rfl) ?_; rw [show (H32.cells ⟨q, hq⟩).toArray = hrow q from rfl]))
    refine bodyPost_ret (v := .tuple #[.string ⟨#[]⟩, .bool false]) (by simp [results, Tryd.results43, go_sem]; try rfl) rfl ?_
    exact ⟨rfl, hbel⟩
  have h9 := HR.out
  have h8 : valF q ct [x] key = (x.val, true) := by unfold valF; rw [if_pos (by rw [HEM.out]; show (true && (_ && standB q ct x)) = true; rw [HEK.out, HSB.out]; rfl)]
  rw [h8, Prod.mk.injEq] at h9
  obtain ⟨rfl, rfl⟩ := h9
  go_wp2_with (first | (go_at_call 46; (with_reducible refine (CM _ hbel).mono ?_); rintro e w2 ⟨rfl, hb⟩; have hQ := cells_of hQ hb (Array.getElem?_eq_some_iff.1 hQ).1; have hP := cells_of hP hb (Array.getElem?_eq_some_iff.1 hP).1; have p0 := cell_heap hP 0; have p1 := cell_heap hP 1; have hbel := hbel.trans (hb.mono hbel.size); have k0 := (hb.cell (p := ⟨b1, o1, none⟩) hb1).trans k0; have k1 := (hb.cell (p := ⟨b1, o1 + 1, none⟩) hb1).trans k1; have hb1 := Nat.lt_of_lt_of_le hb1 hb.size; clear hb) | (go_at_call 80; (with_reducible refine (CS _ hbel).mono ?_); rintro e w3 ⟨rfl, hb⟩; have hQ := cells_of hQ hb (Array.getElem?_eq_some_iff.1 hQ).1; have hP := cells_of hP hb (Array.getElem?_eq_some_iff.1 hP).1; have p0 := cell_heap hP 0; have p1 := cell_heap hP 1; have hbel := hbel.trans (hb.mono hbel.size); have k0 := (hb.cell (p := ⟨b1, o1, none⟩) hb1).trans k0; have k1 := (hb.cell (p := ⟨b1, o1 + 1, none⟩) hb1).trans k1; have hb1 := Nat.lt_of_lt_of_le hb1 hb.size; clear hb) | (refine wpList_load_mid rfl 25 (.tmp 3) rfl w.heap.size 0 rfl (H32.cells ⟨q, hq⟩) _ (hrow_range (show _ = some (Obj.cells (hrow (⟨q, hq⟩ : H32).1) 25 (0, 0)) from hQ)) Tryd.underlying25 rfl (hash_info (⟨q, hq⟩ : H32)) ?_; rw [show (H32.cells ⟨q, hq⟩).toArray = hrow q from rfl]) | (refine wpList_load_midG 25 (.tmp 3) rfl w.heap.size 0 rfl (H32.cells ⟨q, hq⟩) _ (hrow_range (show _ = some (Obj.cells (hrow (⟨q, hq⟩ : H32).1) 25 (0, 0)) from hQ)) Tryd.underlying25 rfl (hash_info (⟨q, hq⟩ : H32)) (by rfl) ?_; rw [show (H32.cells ⟨q, hq⟩).toArray = hrow q from rfl]))
  refine bodyPost_ret (v := .tuple #[.string x.val, .bool true]) (by simp [results, Tryd.results43, go_sem]; try rfl) rfl ?_
  exact ⟨rfl, hbel⟩
set_option maxRecDepth 100000 in
set_option maxHeartbeats 6400000 in
theorem has_any (q : List UInt8) (hq : q.length = 32) (ct : Int) (a : Option Addr) (n cap : Nat) (xs : List LeafV) (key val : ByteArray) (w : World) (hS : SW w) (h : LvsAt w a xs) (hn : xs.length = n) (hnm : n ≤ cap ∧ cap ≤ maxLen) :
    Calls Tryd.prog 34 #[.agg (hrow q), .agg #[.int .i64 ct, .slice a n cap], .string key, .string val] w fun e w' => e = .returned (.bool (hasF q ct xs key val)) ∧ Below w.heap.size w w' := by
  have CV := fun W (hb : Below w.heap.size w W) => value_any q hq ct a n cap xs key W (hS.below hb) (h.below hb) hn hnm
  obtain ⟨r, hr⟩ : ∃ r, hasF q ct xs key val = r := ⟨_, rfl⟩
  rw [hr]
  unfold hasF at hr
  obtain ⟨⟨rv, rb⟩, hr9⟩ : ∃ r, valF q ct xs key = r := ⟨_, rfl⟩
  simp only [hr9] at CV hr
  obtain ⟨ks, hks⟩ : ∃ b, (rv.toList == val.toList) = b := ⟨_, rfl⟩
  rw [hks] at hr
  have HR := Lib.hid hr
  clear hr hr9 hn hnm
  have hz0 := al2_0 w (.cells (hrow q) 25) (.cells #[.int .i64 ct, .slice a n cap] 46)
  have hz1 := al2_1 w (.cells (hrow q) 25) (.cells #[.int .i64 ct, .slice a n cap] 46)
  have hbA := al2_below w (.cells (hrow q) 25) (.cells #[.int .i64 ct, .slice a n cap] 46)
  go_enter Tryd.func34, Tryd.ntmps34
  go_upto_region 1 with fail
  refine wp_nameE _ (fun W1 hX => ?_)
  have hQ : W1.heap[w.heap.size]? = some (.cells (hrow q) 25 (0, 0)) := by rw [hX]; exact hz0
  have hP : W1.heap[w.heap.size + 1]? = some (.cells #[.int .i64 ct, .slice a n cap] 46 (0, 0)) := by rw [hX]; exact hz1
  have hbel : Below w.heap.size w W1 := by rw [hX]; exact hbA
  clear hX hz0 hz1 hbA
  have p0 : W1.cell? ⟨w.heap.size + 1, 0, none⟩ = some (.int .i64 ct) := cell_heap hP 0
  have p1 : W1.cell? ⟨w.heap.size + 1, 1, none⟩ = some (.slice a n cap) := cell_heap hP 1
  cases rb
  · obtain rfl : r = false := HR.out.symm
    go_wp2_with (first | (refine wpList_load_mid rfl 25 (.tmp 4) rfl w.heap.size 0 rfl (H32.cells ⟨q, hq⟩) _ (hrow_range (show _ = some (Obj.cells (hrow (⟨q, hq⟩ : H32).1) 25 (0, 0)) from hQ)) Tryd.underlying25 rfl (hash_info (⟨q, hq⟩ : H32)) ?_; rw [show (H32.cells ⟨q, hq⟩).toArray = hrow q from rfl]) | (go_at_call 33; (with_reducible refine (CV _ hbel).mono ?_); rintro e w2 ⟨rfl, hb⟩; have hbel := hbel.trans (hb.mono hbel.size); clear hb))
    go_ret
    exact ⟨rfl, hbel⟩
  · obtain rfl : r = ks := HR.out.symm
    go_wp2_with (first | (refine wpList_load_mid rfl 25 (.tmp 4) rfl w.heap.size 0 rfl (H32.cells ⟨q, hq⟩) _ (hrow_range (show _ = some (Obj.cells (hrow (⟨q, hq⟩ : H32).1) 25 (0, 0)) from hQ)) Tryd.underlying25 rfl (hash_info (⟨q, hq⟩ : H32)) ?_; rw [show (H32.cells ⟨q, hq⟩).toArray = hrow q from rfl]) | (go_at_call 33; (with_reducible refine (CV _ hbel).mono ?_); rintro e w2 ⟨rfl, hb⟩; have hbel := hbel.trans (hb.mono hbel.size); clear hb))
    go_ret
    exact ⟨by first | rfl | simp | (rw [hks]), hbel⟩
set_option maxRecDepth 100000 in
set_option maxHeartbeats 6400000 in
theorem refHas_any (q : List UInt8) (hq : q.length = 32) (ct : Int) (a : Option Addr) (n cap : Nat) (xs : List LeafV) (key val : ByteArray) (w : World) (h : LvsAt w a xs) (hn : xs.length = n) (hnm : n ≤ cap ∧ cap ≤ maxLen) :
    Calls Tryd.prog 44 #[.agg (hrow q), .agg #[.int .i64 ct, .slice a n cap], .string key, .string val] w fun e w' => e = .returned (.bool (hasF q ct xs key val)) ∧ Below w.heap.size w w' := by
  have CV := fun W (hb : Below w.heap.size w W) => refValue_any q hq ct a n cap xs key W (h.below hb) hn hnm
  obtain ⟨r, hr⟩ : ∃ r, hasF q ct xs key val = r := ⟨_, rfl⟩
  rw [hr]
  unfold hasF at hr
  obtain ⟨⟨rv, rb⟩, hr9⟩ : ∃ r, valF q ct xs key = r := ⟨_, rfl⟩
  simp only [hr9] at CV hr
  obtain ⟨ks, hks⟩ : ∃ b, (rv.toList == val.toList) = b := ⟨_, rfl⟩
  rw [hks] at hr
  have HR := Lib.hid hr
  clear hr hr9 hn hnm
  have hz0 := al2_0 w (.cells (hrow q) 25) (.cells #[.int .i64 ct, .slice a n cap] 46)
  have hz1 := al2_1 w (.cells (hrow q) 25) (.cells #[.int .i64 ct, .slice a n cap] 46)
  have hbA := al2_below w (.cells (hrow q) 25) (.cells #[.int .i64 ct, .slice a n cap] 46)
  go_enter Tryd.func44, Tryd.ntmps44
  go_upto_region 1 with fail
  refine wp_nameE _ (fun W1 hX => ?_)
  have hQ : W1.heap[w.heap.size]? = some (.cells (hrow q) 25 (0, 0)) := by rw [hX]; exact hz0
  have hP : W1.heap[w.heap.size + 1]? = some (.cells #[.int .i64 ct, .slice a n cap] 46 (0, 0)) := by rw [hX]; exact hz1
  have hbel : Below w.heap.size w W1 := by rw [hX]; exact hbA
  clear hX hz0 hz1 hbA
  have p0 : W1.cell? ⟨w.heap.size + 1, 0, none⟩ = some (.int .i64 ct) := cell_heap hP 0
  have p1 : W1.cell? ⟨w.heap.size + 1, 1, none⟩ = some (.slice a n cap) := cell_heap hP 1
  cases rb
  · obtain rfl : r = false := HR.out.symm
    go_wp2_with (first | (refine wpList_load_mid rfl 25 (.tmp 4) rfl w.heap.size 0 rfl (H32.cells ⟨q, hq⟩) _ (hrow_range (show _ = some (Obj.cells (hrow (⟨q, hq⟩ : H32).1) 25 (0, 0)) from hQ)) Tryd.underlying25 rfl (hash_info (⟨q, hq⟩ : H32)) ?_; rw [show (H32.cells ⟨q, hq⟩).toArray = hrow q from rfl]) | (go_at_call 43; (with_reducible refine (CV _ hbel).mono ?_); rintro e w2 ⟨rfl, hb⟩; have hbel := hbel.trans (hb.mono hbel.size); clear hb))
    go_ret
    exact ⟨rfl, hbel⟩
  · obtain rfl : r = ks := HR.out.symm
    go_wp2_with (first | (refine wpList_load_mid rfl 25 (.tmp 4) rfl w.heap.size 0 rfl (H32.cells ⟨q, hq⟩) _ (hrow_range (show _ = some (Obj.cells (hrow (⟨q, hq⟩ : H32).1) 25 (0, 0)) from hQ)) Tryd.underlying25 rfl (hash_info (⟨q, hq⟩ : H32)) ?_; rw [show (H32.cells ⟨q, hq⟩).toArray = hrow q from rfl]) | (go_at_call 43; (with_reducible refine (CV _ hbel).mono ?_); rintro e w2 ⟨rfl, hb⟩; have hbel := hbel.trans (hb.mono hbel.size); clear hb))
    go_ret
    exact ⟨by first | rfl | simp | (rw [hks]), hbel⟩
end Go.Proofs.YtfikbaoiialfeaaDoor
