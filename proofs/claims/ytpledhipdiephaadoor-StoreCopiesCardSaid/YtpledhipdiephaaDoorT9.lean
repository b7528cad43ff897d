/- A region that draws its order, whose calls write where others look, each yielding one value: whatever order is drawn, the state behind it is the same. The state is told by which operations are done. A region that draws its order, with one store of its own anywhere: the state is told by which operations are done. A region that draws its order, told by a state that goes by what is done and by the values so far; one operation may write no slot. The document's Fold and Leaf; the program's Leaf; ways of any place. Leaves, the program's and the document's; ways of any place; the document's Fold in general. -/
import Derived.Test.YtpledhipdiephaaDoorSt3
import Derived.Test.YtpledhipdiephaaDoorPhi
import Derived.Test.YtpledhipdiephaaDoorKit
import Derived.Test.YtpledhipdiephaaDoorT8
import Derived.Test.YtpledhipdiephaaDoorRefTree
import Derived.WalkKit
import Derived.ProofKit
import Derived.Handy
import Derived.Below
import Derived.Lib.Hide
import Derived.IntWalk
import Derived.Outline
import Derived.WalkLawsBesides
import Derived.WalkSpells
namespace Go.Proofs.YtpledhipdiephaaDoor
open Go.RowKit
section
variable {P : Program}
/-- What is done is done with all that it waits for. -/
def Closed (l : List Oper) (D : Nat → Bool) : Prop := ∀ i o, l[i]? = some o → D i = true → ∀ e ∈ o.after.toList, Region.binds .any e = true → D e.on = true
theorem Closed.at {l : List Oper} {D : Nat → Bool} (h : Closed l D) {i j : Nat} (hi : D i = true) (hw : (match l[i]? with | some o => waits o j | none => false) = true) : D j = true := by
  cases ho : l[i]? with
  | none => rw [ho] at hw; cases hw
  | some o =>
    rw [ho] at hw
    simp only [waits, List.any_eq_true, Bool.and_eq_true, beq_iff_eq] at hw
    obtain ⟨e, he1, he2, he3⟩ := hw
    rw [← he2]; exact h i o ho hi e he1 he3
end
end Go.Proofs.YtpledhipdiephaaDoor
namespace Go.Proofs.YtpledhipdiephaaDoor
open Go.RowKit
section
variable {P : Program}
end

end Go.Proofs.YtpledhipdiephaaDoor
namespace Go.Proofs.YtpledhipdiephaaDoor
open Go.RowKit
section
variable {P : Program}
end
end Go.Proofs.YtpledhipdiephaaDoor
namespace Go.Proofs.YtpledhipdiephaaDoor
open Go.RowKit
attribute [local go_sem] strV
set_option linter.unusedVariables false

end Go.Proofs.YtpledhipdiephaaDoor
namespace Go.Proofs.YtpledhipdiephaaDoor
open Go.RowKit
attribute [local go_sem] strV
set_option linter.unusedVariables false
def leafF (k v : ByteArray) : List UInt8 := shaF ([0] ++ eightL k.size ++ k.data.toList ++ v.data.toList)
theorem leafF_len (k v : ByteArray) : (leafF k v).length = 32 := shaF_len _
theorem flat4 (a b c d : ByteArray) : flat [a, b, c, d] = a.data.toList ++ b.data.toList ++ c.data.toList ++ d.data.toList := by simp [flat]
set_option maxRecDepth 100000 in
set_option maxHeartbeats 6400000 in
theorem leaf_any (key val : ByteArray) (w : World) (hW : SW w) (hk : key.size ≤ 1000000) (hv : val.size ≤ 1000000) :
    Calls Tryd.prog 82 #[.string key, .string val] w fun e w' => e = .returned (.agg (hrow (leafF key val))) ∧ Below w.heap.size w w' := by
  have CE := fun W => eight_any (key.size : Int) W
  unfold strV at CE
  have hl := leafF_len key val
  have hsz : (hrow (leafF key val)).size = 32 := by rw [hrow_size]; exact hl
  have hone := hrow_one (leafF key val)
  have hfl : flat [⟨#[0]⟩, ⟨(eightL (key.size : Int)).toArray⟩, key, val] = [0] ++ eightL (key.size : Int) ++ key.data.toList ++ val.data.toList := by rw [flat4]
  have hln : (flat [⟨#[0]⟩, ⟨(eightL (key.size : Int)).toArray⟩, key, val]).length ≤ 1000000000000 := by
    rw [hfl]
    have := eightL_le (key.size : Int)
    have e1 : key.data.toList.length = key.size := by rw [Array.length_toList]; rfl
    have e2 : val.data.toList.length = val.size := by rw [Array.length_toList]; rfl
    simp only [List.length_append, List.length_cons, List.length_nil, e1, e2]
    omega
  obtain ⟨E, hE⟩ : ∃ E : ByteArray, (⟨(eightL (key.size : Int)).toArray⟩ : ByteArray) = E := ⟨_, rfl⟩
  simp only [hE] at CE hln hfl
  have CS := fun (W : World) (hb : Below w.heap.size w W) => sum_any (some ⟨W.heap.size, 0, none⟩) 4 4 [⟨#[0]⟩, E, key, val] (W.alloc (.cells #[.string ⟨#[0]⟩, .string E, .string key, .string val] 9)) (row_newH W _ _) rfl ((hW.below hb).below (Below.alloc (Below.refl _ _) (Nat.le_refl _) _)) hln (by unfold maxLen; omega)
  rw [hfl] at CS
  have hLF : shaF ([0] ++ eightL (key.size : Int) ++ key.data.toList ++ val.data.toList) = leafF key val := rfl
  rw [hLF] at CS
  obtain ⟨L, hL⟩ : ∃ L, leafF key val = L := ⟨_, rfl⟩
  simp only [hL] at CS hl hsz hone ⊢
  have hq := heap_push w #[Value.int .u8 0, Value.int .u8 0, Value.int .u8 0, Value.int .u8 0, Value.int .u8 0, Value.int .u8 0, Value.int .u8 0, Value.int .u8 0, Value.int .u8 0, Value.int .u8 0, Value.int .u8 0, Value.int .u8 0, Value.int .u8 0, Value.int .u8 0, Value.int .u8 0, Value.int .u8 0, Value.int .u8 0, Value.int .u8 0, Value.int .u8 0, Value.int .u8 0, Value.int .u8 0, Value.int .u8 0, Value.int .u8 0, Value.int .u8 0, Value.int .u8 0, Value.int .u8 0, Value.int .u8 0, Value.int .u8 0, Value.int .u8 0, Value.int .u8 0, Value.int .u8 0, Value.int .u8 0] 35
  have hb0 : Below w.heap.size w (w.alloc (.cells #[Value.int .u8 0, Value.int .u8 0, Value.int .u8 0, Value.int .u8 0, Value.int .u8 0, Value.int .u8 0, Value.int .u8 0, Value.int .u8 0, Value.int .u8 0, Value.int .u8 0, Value.int .u8 0, Value.int .u8 0, Value.int .u8 0, Value.int .u8 0, Value.int .u8 0, Value.int .u8 0, Value.int .u8 0, Value.int .u8 0, Value.int .u8 0, Value.int .u8 0, Value.int .u8 0, Value.int .u8 0, Value.int .u8 0, Value.int .u8 0, Value.int .u8 0, Value.int .u8 0, Value.int .u8 0, Value.int .u8 0, Value.int .u8 0, Value.int .u8 0, Value.int .u8 0, Value.int .u8 0] 35)) := Below.alloc (Below.refl _ _) (Nat.le_refl _) _
  clear hE hln hfl hLF hL
  go_enter Tryd.func82, Tryd.ntmps82
  go_upto_region 1 with fail
  refine wp_nameE _ (fun W1 hX => ?_)
  have y9 : W1.heap[w.heap.size]? = some (.cells #[Value.int .u8 0, Value.int .u8 0, Value.int .u8 0, Value.int .u8 0, Value.int .u8 0, Value.int .u8 0, Value.int .u8 0, Value.int .u8 0, Value.int .u8 0, Value.int .u8 0, Value.int .u8 0, Value.int .u8 0, Value.int .u8 0, Value.int .u8 0, Value.int .u8 0, Value.int .u8 0, Value.int .u8 0, Value.int .u8 0, Value.int .u8 0, Value.int .u8 0, Value.int .u8 0, Value.int .u8 0, Value.int .u8 0, Value.int .u8 0, Value.int .u8 0, Value.int .u8 0, Value.int .u8 0, Value.int .u8 0, Value.int .u8 0, Value.int .u8 0, Value.int .u8 0, Value.int .u8 0] 35 (0, 0)) := by rw [hX]; exact hq
  have hbel : Below w.heap.size w W1 := by rw [hX]; exact hb0
  clear hX hq hb0
  have hy9 : w.heap.size < W1.heap.size := (Array.getElem?_eq_some_iff.1 y9).1
  go_wp2_with (first | (go_at_call 84; refine (CE _).mono ?_; rintro e wx ⟨rfl, hbx⟩; have y9 := cells_of y9 hbx hy9; have hy9 := Nat.lt_of_lt_of_le hy9 hbx.size; have hbel := hbel.trans (hbx.mono hbel.size); clear hbx) | (go_at_call 83; refine (CS _ hbel).mono ?_; rintro e wy ⟨rfl, hby⟩; have hby := (Below.alloc (Below.refl wx.heap.size wx) (Nat.le_refl _) (.cells #[.string ⟨#[0]⟩, .string E, .string key, .string val] 9)).trans (hby.mono (by simp)); have y9 := cells_of y9 hby hy9; have hbel := hbel.trans (hby.mono hbel.size)) | (refine wpList_storeRowTo (Z := hrow L) rfl (.tmp 4) (.tmp 11) 35 rfl (by rw [hsz]; kernel_rfl) rfl (by rfl) y9 (by rw [hsz]; rfl) hone ?_))
  refine bodyPost_ret (v := .agg (hrow (L))) ?_ rfl ?_
  · simp [results, Tryd.results82, asAddr]
    exact run_loadVar_row _ _ 35 35 _ (0, 0) _ (setRow_heap _ _ _ _ _ _ y9) Tryd.underlying35 rfl (by rw [hsz]; kernel_rfl)
  exact ⟨rfl, below_setRow hbel (Nat.le_refl _) _⟩
set_option maxRecDepth 100000 in
set_option maxHeartbeats 6400000 in
theorem refLeaf_any (key val : ByteArray) (w : World) (hk : key.size ≤ 300000) (hv : val.size ≤ 300000) :
    Calls Tryd.prog 92 #[.string key, .string val] w fun e w' => e = .returned (.agg (hrow (leafF key val))) ∧ Below w.heap.size w w' := by
  have CE := fun W => refEight_any (key.size : Int) W
  unfold strV at CE
  have hl := leafF_len key val
  have hsz : (hrow (leafF key val)).size = 32 := by rw [hrow_size]; exact hl
  have hone := hrow_one (leafF key val)
  obtain ⟨E, hE⟩ : ∃ E : ByteArray, (⟨(eightL (key.size : Int)).toArray⟩ : ByteArray) = E := ⟨_, rfl⟩
  have hEs : E.size ≤ 8 := by rw [← hE]; exact eightL_le _
  simp only [hE] at CE
  have h1s : (⟨#[0]⟩ : ByteArray).size = 1 := rfl
  have hcat1 : ¬ 9223372036854775807 < (⟨#[0]⟩ : ByteArray).size + E.size := by omega
  have hcat2 : ¬ 9223372036854775807 < ((⟨#[0]⟩ : ByteArray) ++ E).size + key.size := by rw [ByteArray.size_append]; omega
  have hcat3 : ¬ 9223372036854775807 < (((⟨#[0]⟩ : ByteArray) ++ E) ++ key).size + val.size := by rw [ByteArray.size_append, ByteArray.size_append]; omega
  have hcat4 : ¬ 9223372036854775807 < (⟨#[0]⟩ : ByteArray).size + E.size + key.size := by omega
  have hcat5 : ¬ 9223372036854775807 < (⟨#[0]⟩ : ByteArray).size + E.size + key.size + val.size := by omega
  have hcat6 : ¬ 9223372036854775807 < 1 + E.size + key.size := by omega
  have hcat7 : ¬ 9223372036854775807 < 1 + E.size + key.size + val.size := by omega
  have CS := fun W => refSum_any ((((⟨#[0]⟩ : ByteArray) ++ E) ++ key) ++ val) W (by rw [ByteArray.size_append, ByteArray.size_append, ByteArray.size_append, h1s]; omega)
  rw [show ((((⟨#[0]⟩ : ByteArray) ++ E) ++ key) ++ val : ByteArray).data.toList = [0] ++ eightL (key.size : Int) ++ key.data.toList ++ val.data.toList by rw [← hE]; simp, show shaF ([0] ++ eightL (key.size : Int) ++ key.data.toList ++ val.data.toList) = leafF key val from rfl] at CS
  obtain ⟨L, hL⟩ : ∃ L, leafF key val = L := ⟨_, rfl⟩
  simp only [hL] at CS hl hsz hone ⊢
  have hq := heap_push w #[Value.int .u8 0, Value.int .u8 0, Value.int .u8 0, Value.int .u8 0, Value.int .u8 0, Value.int .u8 0, Value.int .u8 0, Value.int .u8 0, Value.int .u8 0, Value.int .u8 0, Value.int .u8 0, Value.int .u8 0, Value.int .u8 0, Value.int .u8 0, Value.int .u8 0, Value.int .u8 0, Value.int .u8 0, Value.int .u8 0, Value.int .u8 0, Value.int .u8 0, Value.int .u8 0, Value.int .u8 0, Value.int .u8 0, Value.int .u8 0, Value.int .u8 0, Value.int .u8 0, Value.int .u8 0, Value.int .u8 0, Value.int .u8 0, Value.int .u8 0, Value.int .u8 0, Value.int .u8 0] 35
  have hb0 : Below w.heap.size w (w.alloc (.cells #[Value.int .u8 0, Value.int .u8 0, Value.int .u8 0, Value.int .u8 0, Value.int .u8 0, Value.int .u8 0, Value.int .u8 0, Value.int .u8 0, Value.int .u8 0, Value.int .u8 0, Value.int .u8 0, Value.int .u8 0, Value.int .u8 0, Value.int .u8 0, Value.int .u8 0, Value.int .u8 0, Value.int .u8 0, Value.int .u8 0, Value.int .u8 0, Value.int .u8 0, Value.int .u8 0, Value.int .u8 0, Value.int .u8 0, Value.int .u8 0, Value.int .u8 0, Value.int .u8 0, Value.int .u8 0, Value.int .u8 0, Value.int .u8 0, Value.int .u8 0, Value.int .u8 0, Value.int .u8 0] 35)) := Below.alloc (Below.refl _ _) (Nat.le_refl _) _
  clear hE hL h1s
  go_enter Tryd.func92, Tryd.ntmps92
  go_upto_region 1 with fail
  refine wp_nameE _ (fun W1 hX => ?_)
  have y9 : W1.heap[w.heap.size]? = some (.cells #[Value.int .u8 0, Value.int .u8 0, Value.int .u8 0, Value.int .u8 0, Value.int .u8 0, Value.int .u8 0, Value.int .u8 0, Value.int .u8 0, Value.int .u8 0, Value.int .u8 0, Value.int .u8 0, Value.int .u8 0, Value.int .u8 0, Value.int .u8 0, Value.int .u8 0, Value.int .u8 0, Value.int .u8 0, Value.int .u8 0, Value.int .u8 0, Value.int .u8 0, Value.int .u8 0, Value.int .u8 0, Value.int .u8 0, Value.int .u8 0, Value.int .u8 0, Value.int .u8 0, Value.int .u8 0, Value.int .u8 0, Value.int .u8 0, Value.int .u8 0, Value.int .u8 0, Value.int .u8 0] 35 (0, 0)) := by rw [hX]; exact hq
  have hbel : Below w.heap.size w W1 := by rw [hX]; exact hb0
  clear hX hq hb0
  have hy9 : w.heap.size < W1.heap.size := (Array.getElem?_eq_some_iff.1 y9).1
  go_wp2_with (first | (go_at_call 88; refine (CE _).mono ?_; rintro e wx ⟨rfl, hbx⟩; have y9 := cells_of y9 hbx hy9; have hy9 := Nat.lt_of_lt_of_le hy9 hbx.size; have hbel := hbel.trans (hbx.mono hbel.size); clear hbx) | (go_at_call 87; refine (CS _).mono ?_; rintro e wy ⟨rfl, hby⟩; have y9 := cells_of y9 hby hy9; have hbel := hbel.trans (hby.mono hbel.size)) | (refine wpList_storeRowTo (Z := hrow L) rfl (.tmp 4) (.tmp 13) 35 rfl (by rw [hsz]; kernel_rfl) rfl (by rfl) y9 (by rw [hsz]; rfl) hone ?_))
  refine bodyPost_ret (v := .agg (hrow (L))) ?_ rfl ?_
  · simp [results, Tryd.results92, asAddr]
    exact run_loadVar_row _ _ 35 35 _ (0, 0) _ (setRow_heap _ _ _ _ _ _ y9) Tryd.underlying35 rfl (by rw [hsz]; kernel_rfl)
  exact ⟨rfl, below_setRow hbel (Nat.le_refl _) _⟩
end Go.Proofs.YtpledhipdiephaaDoor
