/- Hexadecimal digits: a hash read. -/
import Derived.Test.YtfblbholkhdldaaDoorHexD
import Derived.Test.YtfblbholkhdldaaDoorSha7
import Derived.WalkKit
import Derived.ProofKit
import Derived.Handy
import Derived.Below
import Derived.Lib.Hide
import Derived.IntWalk
import Derived.Outline
import Derived.WalkLawsBesides
import Derived.WalkSpells
namespace Go.Proofs.YtfblbholkhdldaaDoor
open Go.RowKit
attribute [local go_sem] strV
set_option linter.unusedVariables false
def z32 : List UInt8 := List.replicate 32 0
/-- What FromHex yields. -/
def fhV (L : List UInt8) : List UInt8 × Int := if L.length < 64 then (z32, 2) else if 64 < L.length then (z32, 4) else if allok L 32 = true then (pairs L 32, 0) else (z32, 3)
theorem fhV_len (L : List UInt8) : (fhV L).1.length = 32 := by
  unfold fhV; split
  · rfl
  · split
    · rfl
    · split
      · exact pairs_len _ _
      · rfl
theorem bytes_get (s : ByteArray) (i : Nat) : s[i]? = s.data.toList[i]? := by
  by_cases h : i < s.size
  · rw [getElem?_pos s i h, bget h]
  · rw [getElem?_neg s i h, List.getElem?_eq_none (by rw [str_len]; omega)]
theorem or16 : ∀ a, a < 16 → ∀ b, b < 16 → bits .or .u8 ((a : Nat) * 16 : Int) ((b : Nat) : Int) = (((a * 16 + b : Nat)) : Int) := by decide +kernel
set_option maxRecDepth 100000 in
set_option maxHeartbeats 6400000 in
theorem fromHex_any (s : ByteArray) (w : World) (hs : s.size ≤ maxLen) :
    Calls Tryd.prog 24 #[.string s] w fun e w' => e = .returned (.tuple #[.agg (hrow (fhV s.data.toList).1), .int .i64 (fhV s.data.toList).2]) ∧ Below w.heap.size w w' := by
  unfold maxLen at hs
  obtain ⟨L, hL⟩ : ∃ L, s.data.toList = L := ⟨_, rfl⟩
  have hLn : L.length = s.size := by rw [← hL]; exact str_len _
  have HL := Lib.hid hL
  have HLn := Lib.hid hLn
  have HV0 : Hid (fhV L = _) := Lib.hid (show fhV L = if L.length < 64 then (z32, 2) else if 64 < L.length then (z32, 4) else if allok L 32 = true then (pairs L 32, 0) else (z32, 3) from rfl)
  rw [hL]
  clear hL
  have hOl : (pairs L 32).length = 32 := pairs_len _ _
  have g0 : ((w.alloc (.cells (hrow z32) 26)).alloc (.cells (prow (pairs L 32) 0) 26)).heap[w.heap.size]? = some (.cells (hrow z32) 26 (0, 0)) := by
    show ((w.heap.push _).push _)[w.heap.size]? = _
    rw [Array.getElem?_push_lt (by simp), ← Array.getElem?_eq_getElem (by simp), Array.getElem?_push_size]
  have g1 : ((w.alloc (.cells (hrow z32) 26)).alloc (.cells (prow (pairs L 32) 0) 26)).heap[w.heap.size + 1]? = some (.cells (prow (pairs L 32) 0) 26 (0, 0)) := by
    show ((w.heap.push _).push _)[w.heap.size + 1]? = _
    rw [show w.heap.size + 1 = (w.heap.push (Obj.cells (hrow z32) 26 (0, 0))).size by simp, Array.getElem?_push_size]
  have hbA : Below w.heap.size w ((w.alloc (.cells (hrow z32) 26)).alloc (.cells (prow (pairs L 32) 0) 26)) := Below.alloc (Below.alloc (Below.refl _ _) (Nat.le_refl _) _) (by simp) _
  by_cases c1 : s.size < 64
  · have d1 : decide ((s.size : Int) < 64) = true := decide_eq_true (by omega)
    have HV : Hid (fhV L = _) := Lib.hid (HV0.out.trans (if_pos (by have := HLn.out; omega)))
    clear hLn
    go_enter Tryd.func24, Tryd.ntmps24
    go_upto_region 2 with fail
    refine wp_nameE _ (fun W hX => ?_)
    have y0 : W.heap[w.heap.size]? = some (.cells (hrow z32) 26 (0, 0)) := by rw [hX]; exact g0
    have y1 : W.heap[w.heap.size + 1]? = some (.cells (prow (pairs L 32) 0) 26 (0, 0)) := by rw [hX]; exact g1
    have hbel : Below w.heap.size w W := by rw [hX]; exact hbA
    clear hX g0 g1 hbA
    have hrw := hrow_one z32
    have hsz : (hrow z32).size = 32 := by rw [hrow_size]; rfl
    go_wp2_with (refine wpList_storeRowTo rfl (.tmp 2) (.tmp 13) 26 rfl (by rw [hsz]; kernel_rfl) rfl (Z := hrow z32) (by rfl) y0 (by (try rw [hsz]); try rfl) hrw ?_)
    have hZ : (World.setRow _ w.heap.size (hrow z32)).heap[w.heap.size]? = some (.cells (hrow z32) 26 (0, 0)) := setRow_heap _ _ _ _ _ _ y0
    have hrd := run_loadVar_row (P := Tryd.prog) _ _ 26 26 (hrow z32) (0, 0) _ hZ Tryd.underlying26 rfl (by rw [hsz]; kernel_rfl)
    refine bodyPost_ret (v := .tuple #[.agg (hrow z32), .int .i64 2]) ?_ rfl ?_
    · simp [results, Tryd.results24, asAddr, hrd]
      try rfl
    exact ⟨by rw [HV.out], below_setRow hbel (Nat.le_refl _) _⟩
  have d1 : decide ((s.size : Int) < 64) = false := decide_eq_false (by omega)
  by_cases c2 : 64 < s.size
  · have d2 : decide (64 < (s.size : Int)) = true := decide_eq_true (by omega)
    have HV : Hid (fhV L = _) := Lib.hid ((HV0.out.trans (if_neg (by have := HLn.out; omega))).trans (if_pos (by have := HLn.out; omega)))
    clear hLn
    go_enter Tryd.func24, Tryd.ntmps24
    go_upto_region 2 with fail
    refine wp_nameE _ (fun W hX => ?_)
    have y0 : W.heap[w.heap.size]? = some (.cells (hrow z32) 26 (0, 0)) := by rw [hX]; exact g0
    have y1 : W.heap[w.heap.size + 1]? = some (.cells (prow (pairs L 32) 0) 26 (0, 0)) := by rw [hX]; exact g1
    have hbel : Below w.heap.size w W := by rw [hX]; exact hbA
    clear hX g0 g1 hbA
    have hrw := hrow_one z32
    have hsz : (hrow z32).size = 32 := by rw [hrow_size]; rfl
    go_wp2_with (refine wpList_storeRowTo rfl (.tmp 2) (.tmp 17) 26 rfl (by rw [hsz]; kernel_rfl) rfl (Z := hrow z32) (by rfl) y0 (by (try rw [hsz]); try rfl) hrw ?_)
    have hZ : (World.setRow _ w.heap.size (hrow z32)).heap[w.heap.size]? = some (.cells (hrow z32) 26 (0, 0)) := setRow_heap _ _ _ _ _ _ y0
    have hrd := run_loadVar_row (P := Tryd.prog) _ _ 26 26 (hrow z32) (0, 0) _ hZ Tryd.underlying26 rfl (by rw [hsz]; kernel_rfl)
    refine bodyPost_ret (v := .tuple #[.agg (hrow z32), .int .i64 4]) ?_ rfl ?_
    · simp [results, Tryd.results24, asAddr, hrd]
      try rfl
    exact ⟨by rw [HV.out], below_setRow hbel (Nat.le_refl _) _⟩
  have d2 : decide (64 < (s.size : Int)) = false := decide_eq_false (by omega)
  have HV : Hid (fhV L = _) := Lib.hid ((HV0.out.trans (if_neg (by have := HLn.out; omega))).trans (if_neg (by have := HLn.out; omega)))
  clear hLn
  go_enter Tryd.func24, Tryd.ntmps24
  go_upto_region 2 with fail
  refine wp_nameE _ (fun W hX => ?_)
  have y0 : W.heap[w.heap.size]? = some (.cells (hrow z32) 26 (0, 0)) := by rw [hX]; exact g0
  have y1 : W.heap[w.heap.size + 1]? = some (.cells (prow (pairs L 32) 0) 26 (0, 0)) := by rw [hX]; exact g1
  have hbel : Below w.heap.size w W := by rw [hX]; exact hbA
  clear hX g0 g1 hbA
  go_upto_region 7 with fail
  go_loopw [18] (fun v wr => ∃ k : Nat, k ≤ 32 ∧ allok L k = true ∧ Below w.heap.size w wr ∧ wr.heap[w.heap.size]? = some (.cells (hrow z32) 26 (0, 0)) ∧ wr.heap[w.heap.size + 1]? = some (.cells (prow (pairs L 32) k) 26 (0, 0)) ∧ v = .int .i64 k) (fun v _ => 32 - (intOf v).toNat)
  case atStart => exact ⟨0, by omega, rfl, hbel, y0, y1, rfl⟩
  case round =>
    clear y0 y1 hbel
    obtain ⟨k, hk, hok, hbel, y0, y1, rfl⟩ := hrel
    by_cases hlt : k < 32
    · have d3 : decide ((k : Int) < 32) = true := decide_eq_true (by omega)
      have e1 : IntKind.i64.wrap (2 * (k : Int)) = 2 * (k : Int) := IntWalk.i64_in _ (by omega)
      have e2 : IntKind.i64.wrap (2 * (k : Int) + 1) = 2 * (k : Int) + 1 := IntWalk.i64_in _ (by omega)
      obtain ⟨x, hx⟩ : ∃ x, L.getD (2 * k) 0 = x := ⟨_, rfl⟩
      obtain ⟨y, hy⟩ : ∃ y, L.getD (2 * k + 1) 0 = y := ⟨_, rfl⟩
      have hx1 : s[(2 * (k : Int)).toNat]? = some x := by
        rw [show (2 * (k : Int)).toNat = 2 * k by omega, bytes_get, HL.out, ← hx, List.getD_eq_getElem?_getD, List.getElem?_eq_getElem (by have := HLn.out; omega)]; rfl
      have hy1 : s[(2 * (k : Int) + 1).toNat]? = some y := by
        rw [show (2 * (k : Int) + 1).toNat = 2 * k + 1 by omega, bytes_get, HL.out, ← hy, List.getD_eq_getElem?_getD, List.getElem?_eq_getElem (by have := HLn.out; omega)]; rfl
      have HOK := Lib.hid hok
      have HP : Hid (pok L k = (digk x && digk y)) := Lib.hid (by unfold pok; rw [hx, hy])
      have HB : Hid (pairB L k = UInt8.ofNat (digv x * 16 + digv y)) := Lib.hid (by unfold pairB pairV; rw [hx, hy])
      have hvx := digv_lt x
      have hvy := digv_lt y
      clear hx hy hok
      have CX := fun W => sdigit_any x W
      have CY := fun W => sdigit_any y W
      obtain ⟨vx, hvx0⟩ : ∃ v, digv x = v := ⟨_, rfl⟩
      obtain ⟨vy, hvy0⟩ : ∃ v, digv y = v := ⟨_, rfl⟩
      rw [hvx0] at CX hvx HB
      rw [hvy0] at CY hvy HB
      clear hvx0 hvy0
      go_upto_region 9 with fail
      cases hkx : digk x
      · rw [hkx] at CX HP
        have HV : Hid (fhV L = _) := Lib.hid (HV.out.trans (if_neg (by rw [allok_not (k := k) (by rw [HP.out]; rfl) hlt]; decide)))
        cases hky : digk y
        all_goals
          rw [hky] at CY HP
          go_upto_region 10 with (first | (refine wpList_index_str rfl (.tmp 22) (.tmp 24) 9 rfl Tryd.underlying9 s (by rfl) .i64 (2 * (k : Int)) (by rfl) (by omega) x (by assumption) ?_) | (go_at_call 61; refine (CX _).mono ?_; rintro e w5 ⟨rfl, hb5⟩))
          go_upto_region 12 with (first | (refine wpList_index_str rfl (.tmp 30) (.tmp 33) 9 rfl Tryd.underlying9 s (by rfl) .i64 (2 * (k : Int) + 1) (by rfl) (by omega) y (by assumption) ?_) | (go_at_call 61; refine (CY _).mono ?_; rintro e w6 ⟨rfl, hb6⟩))
          have y0 := cells_of (cells_of y0 hb5 (Array.getElem?_eq_some_iff.1 y0).1) hb6 (Array.getElem?_eq_some_iff.1 (cells_of y0 hb5 (Array.getElem?_eq_some_iff.1 y0).1)).1
          have hbel := (hbel.trans (hb5.mono hbel.size)).trans (hb6.mono (hbel.trans (hb5.mono hbel.size)).size)
          have hrw := hrow_one z32
          have hsz : (hrow z32).size = 32 := by rw [hrow_size]; rfl
          go_wp2_with (refine wpList_storeRowTo rfl (.tmp 2) (.tmp 44) 26 rfl (by rw [hsz]; kernel_rfl) rfl (Z := hrow z32) (by rfl) y0 (by (try rw [hsz]); try rfl) hrw ?_)
          have hZ : (World.setRow _ w.heap.size (hrow z32)).heap[w.heap.size]? = some (.cells (hrow z32) 26 (0, 0)) := setRow_heap _ _ _ _ _ _ y0
          have hrd := run_loadVar_row (P := Tryd.prog) _ _ 26 26 (hrow z32) (0, 0) _ hZ Tryd.underlying26 rfl (by rw [hsz]; kernel_rfl)
          refine bodyPost_ret (v := .tuple #[.agg (hrow z32), .int .i64 3]) ?_ rfl ?_
          · simp [results, Tryd.results24, asAddr, hrd]
            try rfl
          exact ⟨by rw [HV.out], below_setRow hbel (Nat.le_refl _) _⟩
      · rw [hkx] at CX HP
        cases hky : digk y
        · rw [hky] at CY HP
          have HV : Hid (fhV L = _) := Lib.hid (HV.out.trans (if_neg (by rw [allok_not (k := k) (by rw [HP.out]; rfl) hlt]; decide)))
          go_upto_region 10 with (first | (refine wpList_index_str rfl (.tmp 22) (.tmp 24) 9 rfl Tryd.underlying9 s (by rfl) .i64 (2 * (k : Int)) (by rfl) (by omega) x (by assumption) ?_) | (go_at_call 61; refine (CX _).mono ?_; rintro e w5 ⟨rfl, hb5⟩))
          go_upto_region 12 with (first | (refine wpList_index_str rfl (.tmp 30) (.tmp 33) 9 rfl Tryd.underlying9 s (by rfl) .i64 (2 * (k : Int) + 1) (by rfl) (by omega) y (by assumption) ?_) | (go_at_call 61; refine (CY _).mono ?_; rintro e w6 ⟨rfl, hb6⟩))
          have y0 := cells_of (cells_of y0 hb5 (Array.getElem?_eq_some_iff.1 y0).1) hb6 (Array.getElem?_eq_some_iff.1 (cells_of y0 hb5 (Array.getElem?_eq_some_iff.1 y0).1)).1
          have hbel := (hbel.trans (hb5.mono hbel.size)).trans (hb6.mono (hbel.trans (hb5.mono hbel.size)).size)
          have hrw := hrow_one z32
          have hsz : (hrow z32).size = 32 := by rw [hrow_size]; rfl
          go_wp2_with (refine wpList_storeRowTo rfl (.tmp 2) (.tmp 44) 26 rfl (by rw [hsz]; kernel_rfl) rfl (Z := hrow z32) (by rfl) y0 (by (try rw [hsz]); try rfl) hrw ?_)
          have hZ : (World.setRow _ w.heap.size (hrow z32)).heap[w.heap.size]? = some (.cells (hrow z32) 26 (0, 0)) := setRow_heap _ _ _ _ _ _ y0
          have hrd := run_loadVar_row (P := Tryd.prog) _ _ 26 26 (hrow z32) (0, 0) _ hZ Tryd.underlying26 rfl (by rw [hsz]; kernel_rfl)
          refine bodyPost_ret (v := .tuple #[.agg (hrow z32), .int .i64 3]) ?_ rfl ?_
          · simp [results, Tryd.results24, asAddr, hrd]
            try rfl
          exact ⟨by rw [HV.out], below_setRow hbel (Nat.le_refl _) _⟩
        · rw [hky] at CY HP
          have hor := or16 vx hvx vy hvy
          have hm : (vx : Int) * 16 % 256 = (vx : Int) * 16 := by omega
          go_upto_region 10 with (first | (refine wpList_index_str rfl (.tmp 22) (.tmp 24) 9 rfl Tryd.underlying9 s (by rfl) .i64 (2 * (k : Int)) (by rfl) (by omega) x (by assumption) ?_) | (go_at_call 61; refine (CX _).mono ?_; rintro e w5 ⟨rfl, hb5⟩))
          go_upto_region 11 with (first | (refine wpList_index_str rfl (.tmp 30) (.tmp 33) 9 rfl Tryd.underlying9 s (by rfl) .i64 (2 * (k : Int) + 1) (by rfl) (by omega) y (by assumption) ?_) | (go_at_call 61; refine (CY _).mono ?_; rintro e w6 ⟨rfl, hb6⟩))
          have y0' := cells_of y0 hb5 (Array.getElem?_eq_some_iff.1 y0).1
          have y1' := cells_of y1 hb5 (Array.getElem?_eq_some_iff.1 y1).1
          have y0 := cells_of y0' hb6 (Array.getElem?_eq_some_iff.1 y0').1
          have y1 := cells_of y1' hb6 (Array.getElem?_eq_some_iff.1 y1').1
          have hbel := (hbel.trans (hb5.mono hbel.size)).trans (hb6.mono (hbel.trans (hb5.mono hbel.size)).size)
          have c1 : w6.cell? ⟨w.heap.size + 1, k, none⟩ = some (.int .u8 0) := by rw [cell_heap y1]; exact prow_far hOl (by omega) (by omega)
          have f1 : w6.frozen? ⟨w.heap.size + 1, k, none⟩ = false := frozen_heap y1 _
          clear y0' y1'
          go_upto_region 14 with fail
          go_wp2
          go_roundw
          case rel =>
            have p1 := row_put5 (k := k) (v := .int .u8 ((pairB L k).toNat : Int)) y1
            rw [prow_step hOl (by omega) (pairs_at L hlt)] at p1
            have hpb : ((pairB L k).toNat : Int) = ((vx * 16 + vy : Nat) : Int) := by rw [HB.out, UInt8.toNat_ofNat', Nat.mod_eq_of_lt (by omega)]
            rw [hpb] at p1
            exact ⟨k + 1, by omega, by rw [allok_succ, HOK.out, HP.out]; rfl, hbel.setCell (p := ⟨w.heap.size + 1, k, none⟩) (by show _ ≤ w.heap.size + 1; omega) _, row_oth y0 (by omega), p1, by go_num⟩
          case measure => (simp [intOf]) <;> omega
    · obtain rfl : k = 32 := by omega
      have d3 : decide (((32 : Nat) : Int) < 32) = false := rfl
      have y1 : wr.heap[w.heap.size + 1]? = some (.cells (hrow (pairs L 32)) 26 (0, 0)) := by rw [← prow_full hOl]; exact y1
      have hrw := hrow_one (pairs L 32)
      have hsz : (hrow (pairs L 32)).size = 32 := by rw [hrow_size]; exact hOl
      go_wp2_with (first | (refine wpList_loadRow rfl (.tmp 4) 26 rfl Tryd.underlying26 (by rw [hsz]; kernel_rfl) rfl y1 ?_) | (refine wpList_storeRowTo rfl (.tmp 2) (.tmp 52) 26 rfl (by rw [hsz]; kernel_rfl) rfl rfl y0 (by (try rw [hsz]); try rfl) hrw ?_))
      have hZ : (World.setRow _ w.heap.size (hrow (pairs L 32))).heap[w.heap.size]? = some (.cells (hrow (pairs L 32)) 26 (0, 0)) := setRow_heap _ _ _ _ _ _ y0
      have hrd := run_loadVar_row (P := Tryd.prog) _ _ 26 26 (hrow (pairs L 32)) (0, 0) _ hZ Tryd.underlying26 rfl (by rw [hsz]; kernel_rfl)
      refine bodyPost_ret (v := .tuple #[.agg (hrow (pairs L 32)), .int .i64 0]) ?_ rfl ?_
      · simp [results, Tryd.results24, asAddr, hrd]
        try rfl
      exact ⟨by rw [HV.out, if_pos hok], below_setRow hbel (Nat.le_refl _) _⟩
end Go.Proofs.YtfblbholkhdldaaDoor
