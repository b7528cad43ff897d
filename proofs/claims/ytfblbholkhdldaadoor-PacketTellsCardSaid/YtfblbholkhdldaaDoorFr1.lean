/- Records: their bytes, what is read of bytes. -/
import Derived.Test.YtfblbholkhdldaaDoorSha7
import Derived.Test.YtfblbholkhdldaaDoorPhi
import Derived.WalkKit
import Derived.ProofKit
import Derived.Handy
import Derived.Below
import Derived.Lib.Hide
import Derived.IntWalk
import Derived.Outline
import Derived.WalkLawsBesides
import Derived.WalkSpells
namespace Go.Proofs.YtfblbholkhdldaaDoor
open Go.RowKit
attribute [local go_sem] strV
set_option linter.unusedVariables false
/-- The checksum of a body. -/
def chk (l : List UInt8) : List UInt8 := (shaF l).take 4
theorem chk_len (l : List UInt8) : (chk l).length = 4 := by unfold chk; rw [List.length_take, shaF_len]; rfl
def b4 (n : Nat) : List UInt8 := [u8 ((n : Int) / 16777216), u8 ((n : Int) / 65536), u8 ((n : Int) / 256), u8 (n : Int)]
/-- The record of a body. -/
def putB (b : ByteArray) : ByteArray := (⟨(b4 b.size).toArray⟩ ++ ⟨(chk b.data.toList).toArray⟩) ++ b
theorem conv_take {w : World} {g : Nat} {q : List UInt8} {t : TypeId} (hg : w.heap[g]? = some (.cells (hrow q) t (0, 0))) (hq : q.length = 32) :
    (convert 72 9 (.slice (some ⟨g, 0, none⟩) 4 32)).run Tryd.prog w = .ok (.string ⟨(q.take 4).toArray⟩) w := by
  have hl : (q.take 4).length = 4 := by rw [List.length_take, hq]; rfl
  have := run_convert_bytes_back (P := Tryd.prog) w 72 9 5 ⟨g, 0, none⟩ 32 (q.take 4) Tryd.underlying72 Tryd.underlying5 Tryd.underlying9 (fun j hj => by
    have hadd : (⟨g, 0, none⟩ : Addr).add j = ⟨g, j, none⟩ := by unfold Addr.add; by_cases h : j = 0 <;> simp [h]
    have hj4 : j < 4 := by rw [hl] at hj; exact hj
    rw [hadd, cell_heap hg, hrow_get (List.getElem?_eq_getElem (by omega))]
    simp)
  rwa [hl] at this
set_option maxRecDepth 100000 in
set_option maxHeartbeats 6400000 in
theorem checksum_any (b : ByteArray) (w : World) (hW : SW w) (hb : b.size ≤ 2147483647) :
    Calls Tryd.prog 81 #[.string b] w fun e w' => e = .returned (.string ⟨(chk b.data.toList).toArray⟩) ∧ Below w.heap.size w w' := by
  have hg0 := heap_push w #[.string b] 9
  have hbA : Below w.heap.size w (w.alloc (.cells #[.string b] 9)) := Below.alloc (Below.refl _ _) (Nat.le_refl _) _
  have hfl : flat [b] = b.data.toList := by simp [flat]
  have CS := sum_any (some ⟨w.heap.size, 0, none⟩) 1 1 [b] _ (row_strs hg0) rfl (hW.below hbA) (by rw [hfl, str_len]; omega) (by unfold maxLen; omega)
  rw [hfl] at CS
  obtain ⟨q, hq⟩ : ∃ q, shaF b.data.toList = q := ⟨_, rfl⟩
  have hql : q.length = 32 := by rw [← hq]; exact shaF_len _
  have HC : Hid (chk b.data.toList = q.take 4) := Lib.hid (by unfold chk; rw [hq])
  rw [hq] at CS
  have hsz : (hrow q).size = 32 := by rw [hrow_size]; exact hql
  have hone := hrow_one q
  go_enter Tryd.func81, Tryd.ntmps81
  go_upto_region 2 with (first | (go_at_call 17; refine CS.mono ?_; rintro e w1 ⟨rfl, hb1⟩) | (refine wpList_storeRowTo rfl (.tmp 3) (.tmp 6) 26 rfl (by rw [hsz]; kernel_rfl) rfl rfl (heap_push _ _ _) (by rw [hsz]; rfl) hone ?_))
  have hbB := hbA.trans (hb1.mono hbA.size)
  refine wp_nameE _ (fun W hX => ?_)
  have hr : W.heap[w1.heap.size]? = some (.cells (hrow q) 26 (0, 0)) := by rw [hX]; exact setRow_heap _ _ _ _ _ _ (heap_push _ _ _)
  have hbel : Below w.heap.size w W := by rw [hX]; exact below_setRow (Below.alloc hbB hbB.size _) hbB.size _
  clear hX hg0 hbA CS hb1 hbB
  have hcv := conv_take hr hql
  go_wp2
  go_ret
  exact ⟨by rw [HC.out]; simp, hbel⟩
set_option maxRecDepth 100000 in
set_option maxHeartbeats 6400000 in
theorem fput_any (b : ByteArray) (w : World) (hW : SW w) (hb : b.size ≤ 1000000) :
    Calls Tryd.prog 47 #[.string b] w fun e w' => e = .returned (.tuple #[.string (putB b), .int .i64 0]) ∧ Below w.heap.size w w' := by
  obtain ⟨n, hn⟩ : ∃ n, b.size = n := ⟨_, rfl⟩
  have d1 : decide (2147483647 < (n : Int)) = false := decide_eq_false (by omega)
  have hcl := chk_len b.data.toList
  have HP : Hid (putB b = (⟨(b4 n).toArray⟩ ++ ⟨(chk b.data.toList).toArray⟩) ++ b) := Lib.hid (by unfold putB; rw [hn])
  have CK := fun W h => checksum_any b W h (by omega)
  go_enter Tryd.func47, Tryd.ntmps47
  go_upto_region 5 with fail
  have hrw : (#[.int .u8 ((n : Int) / 16777216), .int .u8 ((n : Int) / 65536), .int .u8 ((n : Int) / 256 % 256), .int .u8 ((n : Int) % 256)] : Array Value) = hrow (b4 n) := by
    show _ = #[Value.int .u8 ((u8 ((n : Int) / 16777216)).toNat : Int), .int .u8 ((u8 ((n : Int) / 65536)).toNat : Int), .int .u8 ((u8 ((n : Int) / 256)).toNat : Int), .int .u8 ((u8 (n : Int)).toNat : Int)]
    rw [u8_val, u8_val, u8_val, u8_val, show (n : Int) / 16777216 % 256 = (n : Int) / 16777216 by omega, show (n : Int) / 65536 % 256 = (n : Int) / 65536 by omega]
  refine wp_nameE _ (fun W hX => ?_)
  have hr : W.heap[w.heap.size]? = some (.cells (hrow (b4 n)) 108 (0, 0)) := by rw [hX, ← hrw]; exact heap_push _ _ _
  have hbel : Below w.heap.size w W := by rw [hX]; exact Below.alloc (Below.refl _ _) (Nat.le_refl _) _
  have hW := hW.below hbel
  have hgl : w.heap.size < W.heap.size := (Array.getElem?_eq_some_iff.1 hr).1
  clear hX hrw
  obtain ⟨B4, hB4⟩ : ∃ B : ByteArray, (⟨(b4 n).toArray⟩ : ByteArray) = B := ⟨_, rfl⟩
  obtain ⟨C4, hC4⟩ : ∃ B : ByteArray, (⟨(chk b.data.toList).toArray⟩ : ByteArray) = B := ⟨_, rfl⟩
  have hBs : B4.size = 4 := by rw [← hB4]; rfl
  have hCs : C4.size = 4 := by rw [← hC4]; exact hcl
  have hcat1 : ¬ 9223372036854775807 < B4.size + C4.size := by omega
  have hcat2 : ¬ 9223372036854775807 < (B4 ++ C4).size + b.size := by rw [ByteArray.size_append]; omega
  have hcat3 : ¬ 9223372036854775807 < B4.size + C4.size + b.size := by omega
  have hcv : ∀ m : Beyond W, (convert 72 9 (.slice (some ⟨w.heap.size, 0, none⟩) 4 4)).run Tryd.prog m.x = .ok (.string B4) m.x := fun m => by
    have := conv_row (N := 4) (cells_of hr m.h hgl) rfl
    rw [hB4] at this
    exact this
  have CKn : ∀ m : Beyond W, Calls Tryd.prog 81 #[.string b] m.x fun e w' => e = .returned (.string C4) ∧ Below m.x.heap.size m.x w' := fun m => by
    have := CK m.x (hW.below m.h)
    rw [hC4] at this
    exact this
  rw [hB4, hC4] at HP
  clear CK hBs hCs hcl hB4 hC4 d1
  refine wp_region_below (by kernel_rfl) (by kernel_rfl) ?_
  repeat (go_big_quiet_step ((go_at_call 81; exact quiet_below (CKn _))))
  intro w9 hw9
  have hb9 := beyond_below hw9
  go_wp2
  go_returns
  exact ⟨by rw [HP.out]; first | rfl | simp, hbel.trans (hb9.mono hbel.size)⟩
end Go.Proofs.YtfblbholkhdldaaDoor
