/- ShaHex, walked. -/
import Derived.Test.YtfblbholkhdldaaDoorHexR
import Derived.Test.YtfblbholkhdldaaDoorShaLess
import Derived.WalkKit
import Derived.ProofKit
import Derived.Handy
import Derived.Below
import Derived.Lib.Hide
import Derived.IntWalk
import Derived.Outline
import Derived.WalkLawsBesides
import Derived.WalkSpells
namespace Go.Proofs.YtfblbholkhdldaaDoor
open Go.RowKit
attribute [local go_sem] strV
set_option linter.unusedVariables false
theorem fhV_hexL {q : List UInt8} (hq : q.length = 32) : fhV (hexL q) = (q, 0) := by
  have h1 := pairs_hexL q
  rw [hq] at h1
  have hl : (hexL q).length = 64 := by rw [hexL_len, hq]
  unfold fhV
  rw [if_neg (by omega), if_neg (by omega), if_pos h1.1, h1.2]
set_option maxRecDepth 100000 in
set_option maxHeartbeats 12800000 in
theorem walkShaHex (q : List UInt8) (s : ByteArray) (w : World) (hW : SW w) (hq : q.length = 32) (hs : s.size ≤ maxLen) :
    Calls Tryd.prog 5 #[.agg (hrow q), .string s] w fun e w' => e = .returned (.bool true) ∧ Below w.heap.size w w' := by
  have g2 : (w.alloc (.cells (hrow q) 26)).heap[w.heap.size]? = some (.cells (hrow q) 26 (0, 0)) := heap_push _ _ _
  have hbA : Below w.heap.size w (w.alloc (.cells (hrow q) 26)) := Below.alloc (Below.refl _ _) (Nat.le_refl _) _
  have hW0 := hW.below hbA
  have hbel := hbA
  have zq : (hrow q).size = 32 := by rw [hrow_size]; exact hq
  have oq := hrow_one q
  go_enter Tryd.func5, Tryd.ntmps5
  go_upto_region 1 with fail
  refine wp_nameE _ (fun V hV => ?_)
  have y2 : V.heap[w.heap.size]? = some (.cells (hrow q) 26 (0, 0)) := by rw [hV]; exact g2
  have hW : SW V := by rw [hV]; exact hW0
  have hbel : Below w.heap.size w V := by rw [hV]; exact hbA
  clear hV g2 hbA hW0
  by_cases c1 : 200 < s.size
  · have d1 : decide (200 < (s.size : Int)) = true := decide_eq_true (by omega)
    go_wp2_with (go_at_call 15; refine (first2_any _ hW).mono ?_; rintro e w0 ⟨rfl, hb⟩; have y2 := cells_of y2 hb (Array.getElem?_eq_some_iff.1 y2).1; have hW := hW.below hb; have hbel := hbel.trans (hb.mono hbel.size))
    go_ret
    exact ⟨rfl, hbel⟩
  have d1 : decide (200 < (s.size : Int)) = false := decide_eq_false (by omega)
  have CH := fun (W : World) => hex_any q W hq
  have hXs : (⟨(hexL q).toArray⟩ : ByteArray).size ≤ maxLen := by show (hexL q).toArray.size ≤ _; simp [hexL_len, hq, maxLen]
  have C1 := fun (W : World) => fromHex_any ⟨(hexL q).toArray⟩ W hXs
  rw [show (⟨(hexL q).toArray⟩ : ByteArray).data.toList = hexL q by simp, fhV_hexL hq] at C1
  obtain ⟨X, hX⟩ : ∃ X, (⟨(hexL q).toArray⟩ : ByteArray) = X := ⟨_, rfl⟩
  simp only [hX] at CH C1
  clear hX hXs
  have C2 := fun (W : World) => fromHex_any s W hs
  have C3 := fun (W : World) => refFromHex_any s W (by omega)
  obtain ⟨L, hL⟩ : ∃ L, s.data.toList = L := ⟨_, rfl⟩
  have hLn : L.length = s.size := by rw [← hL]; exact str_len _
  have hsL : (⟨L.toArray⟩ : ByteArray) = s := by rw [← hL]
  simp only [hL] at C2 C3
  obtain ⟨⟨Y, F⟩, hYF⟩ : ∃ p, fhV L = p := ⟨_, rfl⟩
  have hY : Y.length = 32 := by have := fhV_len L; rw [hYF] at this; exact this
  obtain ⟨⟨t, ok⟩, hR⟩ : ∃ p, frV L = p := ⟨_, rfl⟩
  simp only [hYF] at C2
  simp only [hR] at C3
  have zY : (hrow Y).size = 32 := by rw [hrow_size]; exact hY
  have oY := hrow_one Y
  have hEQ : ∀ V : World, (Op.equalIn 10000 26 (.agg (hrow q)) (.agg (hrow q))).run Tryd.prog V = .ok true V := fun V => by
    rw [run_equal_hash V 26 q q hq hq Tryd.underlying26 Tryd.underlying5 (by kernel_rfl)]; simp
  have HLn := Lib.hid hLn
  have HYF := Lib.hid hYF
  have HR := Lib.hid hR
  have HsL := Lib.hid hsL
  clear hL hLn hYF hR hsL c1
  go_upto_region 5 with (go_at_call 15; refine (first2_any _ hW).mono ?_; rintro e w0 ⟨rfl, hb⟩; have y2 := cells_of y2 hb (Array.getElem?_eq_some_iff.1 y2).1; have hW := hW.below hb; have hbel := hbel.trans (hb.mono hbel.size))
  go_upto_region 6 with (first | (refine wpList_loadRow rfl (.tmp 2) 26 rfl Tryd.underlying26 (by rw [zq]; kernel_rfl) rfl y2 ?_) | (go_at_call 22; refine (CH _).mono ?_; rintro e w4 ⟨rfl, hb⟩; have y2 := cells_of y2 hb (Array.getElem?_eq_some_iff.1 y2).1; have hbel := hbel.trans (hb.mono hbel.size)) | (go_at_call 24; refine (C1 _).mono ?_; rintro e w5 ⟨rfl, hb⟩; have y2 := cells_of y2 hb (Array.getElem?_eq_some_iff.1 y2).1; have hbel := hbel.trans (hb.mono hbel.size)) | (refine wpList_storeRowTo rfl (.tmp 5) (.tmp 21) 26 rfl (by rw [zq]; kernel_rfl) rfl (by rfl) (heap_push _ _ _) (by rw [zq]; rfl) oq ?_))
  refine wp_nameE _ (fun W5 hX => ?_)
  obtain ⟨g5, hg5⟩ : ∃ g, w5.heap.size = g := ⟨_, rfl⟩
  have y5 : W5.heap[g5]? = some (.cells (hrow q) 26 (0, 0)) := by rw [hX, ← hg5]; exact setRow_heap _ _ _ _ _ _ (heap_push _ _ _)
  have hbX : Below g5 w5 W5 := by rw [hX, ← hg5]; exact below_setRow (Below.alloc (Below.refl _ _) (Nat.le_refl _) _) (Nat.le_refl _) _
  rw [hg5]
  have y2 := cells_of y2 hbX (by have := (Array.getElem?_eq_some_iff.1 y2).1; omega)
  have hbel := hbel.trans (hbX.mono (by have := hbel.size; omega))
  clear hX hbX C1 CH
  go_upto_region 7 with (first | (go_at_call 24; refine (C2 _).mono ?_; rintro e w6 ⟨rfl, hb⟩; have y2 := cells_of y2 hb (Array.getElem?_eq_some_iff.1 y2).1; have y5 := cells_of y5 hb (Array.getElem?_eq_some_iff.1 y5).1; have hbel := hbel.trans (hb.mono hbel.size)) | (refine wpList_storeRowTo rfl (.tmp 7) (.tmp 26) 26 rfl (by rw [zY]; kernel_rfl) rfl (by rfl) (heap_push _ _ _) (by rw [zY]; rfl) oY ?_))
  refine wp_nameE _ (fun W7 hX => ?_)
  obtain ⟨g7, hg7⟩ : ∃ g, w6.heap.size = g := ⟨_, rfl⟩
  have y7 : W7.heap[g7]? = some (.cells (hrow Y) 26 (0, 0)) := by rw [hX, ← hg7]; exact setRow_heap _ _ _ _ _ _ (heap_push _ _ _)
  have hbX : Below g7 w6 W7 := by rw [hX, ← hg7]; exact below_setRow (Below.alloc (Below.refl _ _) (Nat.le_refl _) _) (Nat.le_refl _) _
  have y2 := cells_of y2 hbX (by have := (Array.getElem?_eq_some_iff.1 y2).1; omega)
  have y5 := cells_of y5 hbX (by have := (Array.getElem?_eq_some_iff.1 y5).1; omega)
  have hbel := hbel.trans (hbX.mono (by have := hbel.size; omega))
  rw [hg7]
  clear hX hbX C2
  have e00 : ((0 : Int) != 0) = false := rfl
  go_upto_region 10 with (first | (refine wpList_loadRowG (.tmp 5) 26 rfl Tryd.underlying26 (by rw [zq]; kernel_rfl) rfl y5 (by rfl) ?_) | (refine wpList_loadRowG (.tmp 2) 26 rfl Tryd.underlying26 (by rw [zq]; kernel_rfl) rfl y2 (by rfl) ?_) | (go_at_call 25; refine (C3 _).mono ?_; rintro e w8 ⟨rfl, hb⟩; have y7 := cells_of y7 hb (Array.getElem?_eq_some_iff.1 y7).1; have hbel := hbel.trans (hb.mono hbel.size)))
  have hEZ : ∀ V : World, (Op.equalIn 10000 26 (.agg (hrow z32)) (.agg #[Value.int .u8 0, Value.int .u8 0, Value.int .u8 0, Value.int .u8 0, Value.int .u8 0, Value.int .u8 0, Value.int .u8 0, Value.int .u8 0, Value.int .u8 0, Value.int .u8 0, Value.int .u8 0, Value.int .u8 0, Value.int .u8 0, Value.int .u8 0, Value.int .u8 0, Value.int .u8 0, Value.int .u8 0, Value.int .u8 0, Value.int .u8 0, Value.int .u8 0, Value.int .u8 0, Value.int .u8 0, Value.int .u8 0, Value.int .u8 0, Value.int .u8 0, Value.int .u8 0, Value.int .u8 0, Value.int .u8 0, Value.int .u8 0, Value.int .u8 0, Value.int .u8 0, Value.int .u8 0])).run Tryd.prog V = .ok true V := fun V =>
    (run_equal_hash V 26 z32 z32 rfl rfl Tryd.underlying26 Tryd.underlying5 (by kernel_rfl)).trans (by simp)
  clear hEQ y2 y5 C3
  have hF := HYF.out
  have hT := HR.out
  have hl := HLn.out
  unfold fhV at hF
  unfold frV at hT
  by_cases k1 : s.size < 64
  · rw [if_pos (by omega), Prod.mk.injEq] at hF
    obtain ⟨rfl, rfl⟩ := hF
    have k2 : decide ((s.size : Int) < 64) = true := decide_eq_true (by omega)
    clear hT hl
    go_wp2_with (first | (refine wpList_loadRowG (.tmp 7) 26 rfl Tryd.underlying26 (by rw [zY]; kernel_rfl) rfl y7 (by rfl) ?_) | (refine wpList_loadRow rfl (.tmp 7) 26 rfl Tryd.underlying26 (by rw [zY]; kernel_rfl) rfl y7 ?_))
    go_ret
    exact ⟨rfl, hbel⟩
  have k2 : decide ((s.size : Int) < 64) = false := decide_eq_false (by omega)
  rw [if_neg (by omega)] at hF
  by_cases k3 : 64 < s.size
  · rw [if_pos (by omega), Prod.mk.injEq] at hF
    obtain ⟨rfl, rfl⟩ := hF
    have k4 : decide (64 < (s.size : Int)) = true := decide_eq_true (by omega)
    clear hT hl
    go_wp2_with (first | (refine wpList_loadRowG (.tmp 7) 26 rfl Tryd.underlying26 (by rw [zY]; kernel_rfl) rfl y7 (by rfl) ?_) | (refine wpList_loadRow rfl (.tmp 7) 26 rfl Tryd.underlying26 (by rw [zY]; kernel_rfl) rfl y7 ?_))
    go_ret
    exact ⟨rfl, hbel⟩
  have k4 : decide (64 < (s.size : Int)) = false := decide_eq_false (by omega)
  have hL64 : L.length = 64 := by omega
  rw [if_neg (by omega)] at hF
  rw [hL64] at hT
  cases ha : allok L 32
  · rw [if_neg (by rw [ha]; decide), Prod.mk.injEq] at hF
    rw [if_neg (by rw [ha]; decide), Prod.mk.injEq] at hT
    obtain ⟨rfl, rfl⟩ := hF
    obtain ⟨rfl, rfl⟩ := hT
    clear hl hL64
    go_wp2_with (first | (refine wpList_loadRowG (.tmp 7) 26 rfl Tryd.underlying26 (by rw [zY]; kernel_rfl) rfl y7 (by rfl) ?_) | (refine wpList_loadRow rfl (.tmp 7) 26 rfl Tryd.underlying26 (by rw [zY]; kernel_rfl) rfl y7 ?_))
    go_ret
    exact ⟨rfl, hbel⟩
  · have hhl := hexL_pairs L 32 (by omega) ha
    rw [show 2 * 32 = L.length by omega, List.take_length] at hhl
    rw [if_pos ha, Prod.mk.injEq] at hF
    rw [if_pos (show allok L (64 / 2) = true from ha), Prod.mk.injEq] at hT
    obtain ⟨rfl, rfl⟩ := hF
    obtain ⟨rfl, rfl⟩ := hT
    have C5 := fun (W : World) => refText_any W (pairs L 32) hY
    have C6 := fun (W : World) => hex_any (pairs L 32) W hY
    rw [hhl, HsL.out] at C6
    clear hl hL64 hhl ha
    obtain ⟨P, hP⟩ : ∃ P, pairs L 32 = P := ⟨_, rfl⟩
    rw [show pairs L (64 / 2) = P from hP]
    simp only [hP] at C5 C6 hY zY oY y7 ⊢
    clear hP
    obtain ⟨T, hT⟩ : ∃ T, (⟨P.toArray⟩ : ByteArray) = T := ⟨_, rfl⟩
    simp only [hT] at C5 ⊢
    clear hT
    go_wp2_with (first | (refine wpList_loadRowG (.tmp 7) 26 rfl Tryd.underlying26 (by rw [zY]; kernel_rfl) rfl y7 (by rfl) ?_) | (refine wpList_loadRow rfl (.tmp 7) 26 rfl Tryd.underlying26 (by rw [zY]; kernel_rfl) rfl y7 ?_) | (go_at_call 21; refine (C5 _).mono ?_; rintro e w9 ⟨rfl, hb⟩; have y7 := cells_of y7 hb (Array.getElem?_eq_some_iff.1 y7).1; have hbel := hbel.trans (hb.mono hbel.size)) | (go_at_call 22; refine (C6 _).mono ?_; rintro e w9 ⟨rfl, hb⟩; have y7 := cells_of y7 hb (Array.getElem?_eq_some_iff.1 y7).1; have hbel := hbel.trans (hb.mono hbel.size)))
    go_ret
    exact ⟨rfl, hbel⟩
end Go.Proofs.YtfblbholkhdldaaDoor
