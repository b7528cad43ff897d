/- Messages in bytes, their size. -/
import Derived.Test.YthipnkbfdkmhaaaMsg5
import Derived.WalkKit
import Derived.ProofKit
import Derived.Handy
import Derived.Below
import Derived.Lib.Hide
import Derived.IntWalk
import Derived.Outline
import Derived.WalkLawsBesides
import Derived.WalkSpells
namespace Go.Proofs.Ythipnkbfdkmhaaa
open Go.RowKit
attribute [local go_sem] strV
set_option linter.unusedVariables false

def encMsg (m : MsgV) : Value := if mayMsgB m then .tuple #[.string ⟨(msgBy m).toArray⟩, .int .i64 0] else .tuple #[.string ⟨#[]⟩, .int .i64 1]
def msgS (m : MsgV) : ByteArray := if mayMsgB m then ⟨(msgBy m).toArray⟩ else ⟨#[]⟩
set_option maxRecDepth 100000 in
set_option maxHeartbeats 2000000 in
theorem msgEncode_any (m : MsgV) (w : World) (hm : m.ok w) :
    Calls Try.prog 16 #[.agg m.row] w fun e w' => e = .returned (encMsg m) ∧ Below w.heap.size w w' := by
  have CM := fun W (hb : Below w.heap.size w W) => msgMay_any m W (hm.below hb)
  cases k : mayMsgB m
  case false =>
    rw [show encMsg m = .tuple #[.string ⟨#[]⟩, .int .i64 1] by unfold encMsg; rw [k]; rfl]
    simp only [k] at CM
    go_enter Try.func16, Try.ntmps16
    go_upto_region 1 with fail
    refine wp_nameE _ (fun W1 hX => ?_)
    have hg : W1.heap[w.heap.size]? = some (.cells m.row 34 (0, 0)) := by rw [hX]; exact heap_push _ _ _
    have hbel : Below w.heap.size w W1 := by rw [hX]; exact Below.alloc (Below.refl _ _) (Nat.le_refl _) _
    clear hX
    have hgl : w.heap.size < W1.heap.size := (Array.getElem?_eq_some_iff.1 hg).1
    go_wp2_with (first | (refine wpList_load_mid rfl 34 (.tmp 1) rfl w.heap.size 0 rfl m.row.toList _ (rangeAt_row5 hg) Try.underlying34 rfl (msg_info _) ?_; rw [Array.toArray_toList]) | (go_at_call 17; refine (CM _ hbel).mono ?_; rintro e w2 ⟨rfl, hb⟩; have hg := cells_of hg hb hgl; have hgl := Nat.lt_of_lt_of_le hgl hb.size; have hbel := hbel.trans (hb.mono hbel.size); clear hb))
    go_ret2
    exact ⟨rfl, hbel⟩
  rw [show encMsg m = .tuple #[.string ⟨(msgBy m).toArray⟩, .int .i64 0] by unfold encMsg; rw [k]; rfl]
  simp only [k] at CM
  obtain ⟨L, hL⟩ : ∃ L, msgBy m = L := ⟨_, rfl⟩
  rw [hL]
  have HL := Lib.hid hL
  clear hL
  go_enter Try.func16, Try.ntmps16
  go_upto_region 1 with fail
  refine wp_nameE _ (fun W1 hX => ?_)
  have hg : W1.heap[w.heap.size]? = some (.cells m.row 34 (0, 0)) := by rw [hX]; exact heap_push _ _ _
  have hbel : Below w.heap.size w W1 := by rw [hX]; exact Below.alloc (Below.refl _ _) (Nat.le_refl _) _
  clear hX
  have hgl : w.heap.size < W1.heap.size := (Array.getElem?_eq_some_iff.1 hg).1
  go_upto_region 3 with (first | (refine wpList_load_mid rfl 34 (.tmp 1) rfl w.heap.size 0 rfl m.row.toList _ (rangeAt_row5 hg) Try.underlying34 rfl (msg_info _) ?_; rw [Array.toArray_toList]) | (go_at_call 17; refine (CM _ hbel).mono ?_; rintro e w2 ⟨rfl, hb⟩; have hg := cells_of hg hb hgl; have hgl := Nat.lt_of_lt_of_le hgl hb.size; have hbel := hbel.trans (hb.mono hbel.size); clear hb))
  refine wp_nameE _ (fun W2 hX => ?_)
  have hg2 : W2.heap[w.heap.size]? = some (.cells m.row 34 (0, 0)) := by rw [hX]; exact hg
  have hbel2 : Below w.heap.size w W2 := by rw [hX]; exact hbel
  clear hX hg hgl hbel CM
  have hgl : w.heap.size < W2.heap.size := (Array.getElem?_eq_some_iff.1 hg2).1
  have hwB := hbel2.size
  have hm2 := hm.below hbel2
  go_upto_region 4 with (go_at_call 48; refine (wnew_any W2.heap.size _ (Nat.le_refl _)).mono ?_; rintro e w3 ⟨rfl, hW, hb2⟩; have hbel := hbel2.trans (hb2.mono hwB); have hBw := hb2.size; have hg := cells_of hg2 hb2 hgl)
  have CW := fun W (h1 : Below W2.heap.size W2 W) (h2 : WAt W2.heap.size W2.heap.size W [] 0) => msgWrite_any W2.heap.size W2 W m hm2 h1 h2 k
  go_upto_region 5 with (first | (refine wpList_load_mid rfl 34 (.tmp 1) rfl w.heap.size 0 rfl m.row.toList _ (rangeAt_row5 hg) Try.underlying34 rfl (msg_info _) ?_; rw [Array.toArray_toList]) | (go_at_call 49; refine (CW _ hb2 hW).mono ?_; rintro e w4 ⟨rfl, hW, hb3, hk3⟩; have hBw := Nat.le_trans hBw hk3.size; have hbel := hbel.trans (hb3.mono hwB)))
  rw [HL.out] at hW
  go_wp2_with (go_at_call 50; refine (wbytes_rd W2.heap.size _ _ _ hW.rd hBw).mono ?_; rintro e w9 ⟨rfl, hW9, hb9⟩; have hbel := hbel.trans (hb9.mono hwB))
  go_ret2
  exact ⟨rfl, hbel⟩
set_option maxRecDepth 100000 in
set_option maxHeartbeats 2000000 in
theorem msgSize_any (m : MsgV) (w : World) (hm : m.ok w) :
    Calls Try.prog 26 #[.agg m.row] w fun e w' => e = .returned (.int .i64 ((msgS m).size : Nat)) ∧ Below w.heap.size w w' := by
  obtain ⟨er, her⟩ : ∃ x : Int, encMsg m = .tuple #[.string (msgS m), .int .i64 x] := by
    unfold encMsg msgS
    cases mayMsgB m
    · exact ⟨1, rfl⟩
    · exact ⟨0, rfl⟩
  have CE := fun W (hb : Below w.heap.size w W) => msgEncode_any m W (hm.below hb)
  simp only [her] at CE
  obtain ⟨s, hs⟩ : ∃ s, msgS m = s := ⟨_, rfl⟩
  simp only [hs] at CE ⊢
  clear her hs
  go_enter Try.func26, Try.ntmps26
  go_upto_region 1 with fail
  refine wp_nameE _ (fun W1 hX => ?_)
  have hg : W1.heap[w.heap.size]? = some (.cells m.row 34 (0, 0)) := by rw [hX]; exact heap_push _ _ _
  have hbel : Below w.heap.size w W1 := by rw [hX]; exact Below.alloc (Below.refl _ _) (Nat.le_refl _) _
  clear hX
  have hgl : w.heap.size < W1.heap.size := (Array.getElem?_eq_some_iff.1 hg).1
  go_wp2_with (first | (refine wpList_load_mid rfl 34 (.tmp 1) rfl w.heap.size 0 rfl m.row.toList _ (rangeAt_row5 hg) Try.underlying34 rfl (msg_info _) ?_; rw [Array.toArray_toList]) | (go_at_call 16; refine (CE _ hbel).mono ?_; rintro e w2 ⟨rfl, hb⟩; have hbel := hbel.trans (hb.mono hbel.size)))
  go_ret
  exact ⟨by first | rfl | simp, hbel⟩
end Go.Proofs.Ythipnkbfdkmhaaa
