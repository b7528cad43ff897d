/- The top out of a leaf and its way: tree.fold, tree.Fold; lists of hashes that are the same. -/
import Derived.Test.YtfikbaoiialfeaaDoorWay
import Derived.WalkKit
import Derived.ProofKit
import Derived.Handy
import Derived.Below
import Derived.Lib.Hide
import Derived.IntWalk
import Derived.Outline
import Derived.WalkLawsBesides
import Derived.WalkSpells
namespace Go.Proofs.YtfikbaoiialfeaaDoor
open Go.RowKit
attribute [local go_sem] strV
set_option linter.unusedVariables false

def Fact.cell (B : Nat) : Fact := ⟨fun v w => ∃ g, v = .pointer (some ⟨g, 0, none⟩) ∧ B ≤ g ∧ w.heap[g]? = some (.cells #[Value.int .u8 0, Value.int .u8 0, Value.int .u8 0, Value.int .u8 0, Value.int .u8 0, Value.int .u8 0, Value.int .u8 0, Value.int .u8 0, Value.int .u8 0, Value.int .u8 0, Value.int .u8 0, Value.int .u8 0, Value.int .u8 0, Value.int .u8 0, Value.int .u8 0, Value.int .u8 0, Value.int .u8 0, Value.int .u8 0, Value.int .u8 0, Value.int .u8 0, Value.int .u8 0, Value.int .u8 0, Value.int .u8 0, Value.int .u8 0, Value.int .u8 0, Value.int .u8 0, Value.int .u8 0, Value.int .u8 0, Value.int .u8 0, Value.int .u8 0, Value.int .u8 0, Value.int .u8 0] 25 (0, 0)),
  fun _ _ _ ⟨g, h1, h2, h3⟩ hb => ⟨g, h1, h2, (hb.block g (Array.getElem?_eq_some_iff.1 h3).1).trans h3⟩⟩
theorem heap_pushF (w : World) (cur : Array Value) (e : TypeId) : (w.alloc (.cells cur e)).heap[w.heap.size]? = some (.cells cur e (0, 0)) := by
  show (w.heap.push _)[w.heap.size]? = _
  rw [Array.getElem?_push_size]
theorem hrow_range {w : World} {b : Nat} {q : H32} {e : TypeId} {fz : Nat × Nat} (h : w.heap[b]? = some (.cells (hrow q.1) e fz)) : w.rangeAt b 0 q.cells := by
  have := rangeAt_row5 h
  rw [H32.list] at this
  exact this
theorem hash_info (q : H32) : (Tryd.prog.info? 25).map (·.size) = some q.cells.length := by rw [H32.cells_len]; kernel_rfl
set_option maxRecDepth 100000 in
set_option maxHeartbeats 1000000 in
theorem fold_any : ∀ (n i : Nat) (z : H32) (wy : List H32) (a : Option Addr) (k cap : Nat) (w : World), i < n → n ≤ 1073741824 → wy.length = deepN n i → wy.length = k → k ≤ cap → cap ≤ maxLen → RowAt w a (wy.flatMap H32.cells) → SW w →
    Calls Tryd.prog 63 #[.int .i64 n, .int .i64 i, .agg (hrow z.1), .slice a k cap] w fun e w' => e = .returned (.agg (hrow (foldH n i z wy).1)) ∧ Below w.heap.size w w' := by
  intro n
  induction n using Nat.strongRecOn with
  | _ n ih =>
  intro i z wy a k cap w hi hn3 hd hk hcap hcm hr hW
  have hq : (hrow z.1).size = 32 := by rw [hrow_size]; exact z.2
  have hqone := hrow_one z.1
  have g0 := al2_0 w (.cells (hrow z.1) 25) (.cells #[Value.int .u8 0, Value.int .u8 0, Value.int .u8 0, Value.int .u8 0, Value.int .u8 0, Value.int .u8 0, Value.int .u8 0, Value.int .u8 0, Value.int .u8 0, Value.int .u8 0, Value.int .u8 0, Value.int .u8 0, Value.int .u8 0, Value.int .u8 0, Value.int .u8 0, Value.int .u8 0, Value.int .u8 0, Value.int .u8 0, Value.int .u8 0, Value.int .u8 0, Value.int .u8 0, Value.int .u8 0, Value.int .u8 0, Value.int .u8 0, Value.int .u8 0, Value.int .u8 0, Value.int .u8 0, Value.int .u8 0, Value.int .u8 0, Value.int .u8 0, Value.int .u8 0, Value.int .u8 0] 25)
  have g9 := al2_1 w (.cells (hrow z.1) 25) (.cells #[Value.int .u8 0, Value.int .u8 0, Value.int .u8 0, Value.int .u8 0, Value.int .u8 0, Value.int .u8 0, Value.int .u8 0, Value.int .u8 0, Value.int .u8 0, Value.int .u8 0, Value.int .u8 0, Value.int .u8 0, Value.int .u8 0, Value.int .u8 0, Value.int .u8 0, Value.int .u8 0, Value.int .u8 0, Value.int .u8 0, Value.int .u8 0, Value.int .u8 0, Value.int .u8 0, Value.int .u8 0, Value.int .u8 0, Value.int .u8 0, Value.int .u8 0, Value.int .u8 0, Value.int .u8 0, Value.int .u8 0, Value.int .u8 0, Value.int .u8 0, Value.int .u8 0, Value.int .u8 0] 25)
  have hbA := al2_below w (.cells (hrow z.1) 25) (.cells #[Value.int .u8 0, Value.int .u8 0, Value.int .u8 0, Value.int .u8 0, Value.int .u8 0, Value.int .u8 0, Value.int .u8 0, Value.int .u8 0, Value.int .u8 0, Value.int .u8 0, Value.int .u8 0, Value.int .u8 0, Value.int .u8 0, Value.int .u8 0, Value.int .u8 0, Value.int .u8 0, Value.int .u8 0, Value.int .u8 0, Value.int .u8 0, Value.int .u8 0, Value.int .u8 0, Value.int .u8 0, Value.int .u8 0, Value.int .u8 0, Value.int .u8 0, Value.int .u8 0, Value.int .u8 0, Value.int .u8 0, Value.int .u8 0, Value.int .u8 0, Value.int .u8 0, Value.int .u8 0] 25)
  rcases Nat.lt_or_ge n 2 with hn2 | hn2
  · obtain rfl : n = 1 := by omega
    obtain rfl : i = 0 := by omega
    have HR : Hid ((foldH 1 0 z wy).1 = z.1) := Lib.hid (by rw [foldH_one (by omega)])
    clear ih
    go_enter Tryd.func63, Tryd.ntmps63
    go_upto_region 1 with fail
    refine wp_nameE _ (fun W1 hX => ?_)
    have y0 : W1.heap[w.heap.size]? = some (.cells (hrow z.1) 25 (0, 0)) := by rw [hX]; exact g0
    have y9 : W1.heap[w.heap.size + 1]? = some (.cells #[Value.int .u8 0, Value.int .u8 0, Value.int .u8 0, Value.int .u8 0, Value.int .u8 0, Value.int .u8 0, Value.int .u8 0, Value.int .u8 0, Value.int .u8 0, Value.int .u8 0, Value.int .u8 0, Value.int .u8 0, Value.int .u8 0, Value.int .u8 0, Value.int .u8 0, Value.int .u8 0, Value.int .u8 0, Value.int .u8 0, Value.int .u8 0, Value.int .u8 0, Value.int .u8 0, Value.int .u8 0, Value.int .u8 0, Value.int .u8 0, Value.int .u8 0, Value.int .u8 0, Value.int .u8 0, Value.int .u8 0, Value.int .u8 0, Value.int .u8 0, Value.int .u8 0, Value.int .u8 0] 25 (0, 0)) := by rw [hX]; exact g9
    have hbel : Below w.heap.size w W1 := by rw [hX]; exact hbA
    clear hX g0 g9 hbA
    have hrg := hrow_range y0
    go_wp2_with (first | (refine wpList_load_mid rfl 25 (.tmp 6) rfl w.heap.size 0 rfl z.cells _ hrg Tryd.underlying25 rfl (hash_info z) ?_; rw [H32.row]) | (refine wpList_storeRowTo (Z := hrow z.1) rfl (.tmp 8) (.tmp 15) 25 rfl (by rw [hq]; kernel_rfl) rfl (by rfl) y9 (by rw [hq]; rfl) hqone ?_))
    refine bodyPost_ret (v := .agg (hrow z.1)) ?_ rfl ?_
    · simp [results, Tryd.results63, asAddr]
      exact run_loadVar_row _ _ 25 25 _ (0, 0) _ (setRow_heap _ _ _ _ _ _ y9) Tryd.underlying25 rfl (by rw [hq]; kernel_rfl)
    exact ⟨by rw [HR.out], below_setRow hbel (by omega) _⟩
  have d2 : ((n : Int) == 1) = false := beq_eq_false_iff_ne.2 (by omega)
  have hk1 : 1 ≤ k := by
    rw [← hk, hd]
    by_cases hh : i < halfN n
    · rw [deepN_left hn2 hh]; omega
    · rw [deepN_right hn2 hh]; omega
  obtain ⟨wp, q, rfl⟩ : ∃ wp q, wy = wp ++ [q] := by
    rcases List.eq_nil_or_concat wy with h | ⟨l, b, h⟩
    · rw [h] at hk; simp at hk; omega
    · exact ⟨l, b, by rw [h, List.concat_eq_append]⟩
  rw [List.length_append, List.length_singleton] at hk hd
  obtain ⟨kk, hkk⟩ : ∃ kk, wp.length = kk := ⟨_, rfl⟩
  have hk30 := deepN_30 (n := n) (i := i) hn3
  have hrp : RowAt w a (wp.flatMap H32.cells) := by
    have := hs_take hr kk
    rw [List.take_append_of_le_length (by omega), List.take_of_length_le (by omega)] at this
    exact this
  obtain ⟨b, off, rfl, _, _⟩ := hs_at hr (k := 0) (by simp)
  have hr0 := hr
  have hW0 := hW
  have CH := fun W : World => half_any n W hn2 hn3
  have BL := fun W : World => below_any n i W hn2 hn3 hi
  have hlt := halfN_lt hn2
  have hpos := halfN_pos n
  have n0 : (0 : Int) ≤ (kk : Int) := by omega
  have n1 : (1 : Int) ≤ (k : Int) := by omega
  have n1' : (k : Int) ≤ 1000 := by omega
  have n2 : (kk : Int) ≤ (cap : Int) := by omega
  have n3 : (kk : Int) ≤ (k : Int) := by omega
  have n3' : (kk : Int) < (k : Int) := by omega
  have n4 : (k : Int) ≤ (cap : Int) := by omega
  have n5 : ((kk : Nat) : Int).toNat = kk := by omega
  have n6 : kk ≤ cap := by omega
  have n7 : kk ≤ k := by omega
  have n8 : kk < k := by omega
  by_cases hh : i < halfN n
  · have hfl := foldH_left (n := n) (i := i) hn2 hh z (wp ++ [q])
    have hdn := deepN_left hn2 hh
    rw [List.dropLast_concat, List.getLastD_concat] at hfl
    simp only [if_pos hh] at BL
    have IH := fun W => ih (halfN n) hlt i z wp (some ⟨b, off, none⟩) kk cap W hh (by omega) (by omega) hkk (by omega) hcm
    obtain ⟨h, hhh⟩ : ∃ h, halfN n = h := ⟨_, rfl⟩
    simp only [hhh] at hfl BL CH IH hh hlt hpos
    obtain ⟨FX, hFX⟩ : ∃ F, foldH h i z wp = F := ⟨_, rfl⟩
    simp only [hFX] at hfl IH
    have HR : Hid ((foldH n i z (wp ++ [q])).1 = nodeF FX.1 q.1) := Lib.hid (by rw [hfl]; rfl)
    have dd : decide ((i : Int) < (h : Int)) = true := decide_eq_true (by omega)
    have ddn : decide (i < h) = true := decide_eq_true hh
    clear hhh hFX hfl ih hdn
    go_enter Tryd.func63, Tryd.ntmps63
    go_upto_region 1 with fail
    refine wp_nameE _ (fun W1 hX => ?_)
    have y0 : W1.heap[w.heap.size]? = some (.cells (hrow z.1) 25 (0, 0)) := by rw [hX]; exact g0
    have y9 : W1.heap[w.heap.size + 1]? = some (.cells #[Value.int .u8 0, Value.int .u8 0, Value.int .u8 0, Value.int .u8 0, Value.int .u8 0, Value.int .u8 0, Value.int .u8 0, Value.int .u8 0, Value.int .u8 0, Value.int .u8 0, Value.int .u8 0, Value.int .u8 0, Value.int .u8 0, Value.int .u8 0, Value.int .u8 0, Value.int .u8 0, Value.int .u8 0, Value.int .u8 0, Value.int .u8 0, Value.int .u8 0, Value.int .u8 0, Value.int .u8 0, Value.int .u8 0, Value.int .u8 0, Value.int .u8 0, Value.int .u8 0, Value.int .u8 0, Value.int .u8 0, Value.int .u8 0, Value.int .u8 0, Value.int .u8 0, Value.int .u8 0] 25 (0, 0)) := by rw [hX]; exact g9
    have hbel : Below w.heap.size w W1 := by rw [hX]; exact hbA
    clear hX g0 g9 hbA
    have hy0 : w.heap.size < W1.heap.size := (Array.getElem?_eq_some_iff.1 y0).1
    have hy9 : w.heap.size + 1 < W1.heap.size := (Array.getElem?_eq_some_iff.1 y9).1
    have hsub : (k : Int) - 1 = ((kk : Nat) : Int) := by omega
    go_upto_region 5 with (go_at_call 71; refine (BL _).mono ?_; rintro e w2 ⟨rfl, hb2⟩)
    have y0 := cells_of y0 hb2 hy0
    have y9 := cells_of y9 hb2 hy9
    have hy0 := Nat.lt_of_lt_of_le hy0 hb2.size
    have hy9 := Nat.lt_of_lt_of_le hy9 hb2.size
    have hbel := hbel.trans (hb2.mono hbel.size)
    have hr := hr.below hbel
    have hW := hW.below hbel
    clear hb2 BL hsub
    refine wp_region_facts_tail 8 rfl [Fact.eq (.int .i64 (h : Int)), Fact.eq (.int .i64 (i : Int)), Fact.eq (.agg (hrow z.1)), Fact.eq (.slice (some ⟨b, off, none⟩) k cap), Fact.eq (.int .i64 (kk : Int)), Fact.eq (.slice (some ⟨b, off, none⟩) kk cap), Fact.eq (.agg (hrow FX.1)), Fact.cell w2.heap.size] (by kernel_rfl) (by kernel_rfl) (by kernel_rfl) (by kernel_rfl) (by kernel_rfl) (fun x => by simp only [List.take_succ_cons, List.take_zero, fillFrom, Act.put, List.setIfInBounds_toArray, List.set_cons_succ, List.set_cons_zero]; rfl) ?_ ?_
    · refine ⟨?_, ?_, ?_, ?_, ?_, ?_, ?_, ?_, trivial⟩
      · intro x w' hbw hd
        clear hd
        go_wp2_with fail
        exact frPost_mk rfl (by repeat (first | assumption | exact Below.refl _ _ | refine bch ?_ (by assumption) | refine Below.alloc ?_ (by simp) _)) rfl
      · intro x w' hbw hd
        clear hd
        go_wp2_with fail
        exact frPost_mk rfl (by repeat (first | assumption | exact Below.refl _ _ | refine bch ?_ (by assumption) | refine Below.alloc ?_ (by simp) _)) rfl
      · intro x w' hbw hd
        clear hd
        have hrg := hrow_range (cells_of y0 hbw hy0)
        go_wp2_with (first | (refine wpList_load_mid rfl 25 (.tmp 6) rfl w.heap.size 0 rfl z.cells _ hrg Tryd.underlying25 rfl (hash_info z) ?_; rw [H32.row]))
        exact frPost_mk rfl (by repeat (first | assumption | exact Below.refl _ _ | refine bch ?_ (by assumption) | refine Below.alloc ?_ (by simp) _)) rfl
      · intro x w' hbw hd
        clear hd
        go_wp2_with fail
        exact frPost_mk rfl (by repeat (first | assumption | exact Below.refl _ _ | refine bch ?_ (by assumption) | refine Below.alloc ?_ (by simp) _)) rfl
      · intro x w' hbw hd
        clear hd
        go_wp2_with fail
        exact frPost_mk rfl (by repeat (first | assumption | exact Below.refl _ _ | refine bch ?_ (by assumption) | refine Below.alloc ?_ (by simp) _)) rfl
      · intro x w' hbw hd
        have d3 : x 3 = .slice (some ⟨b, off, none⟩) k cap := hd 3 rfl
        have d4 : x 4 = .int .i64 (kk : Int) := hd 4 rfl
        clear hd
        go_wp2_with fail
        exact frPost_mk rfl (by repeat (first | assumption | exact Below.refl _ _ | refine bch ?_ (by assumption) | refine Below.alloc ?_ (by simp) _)) rfl
      · intro x w' hbw hd
        have d0 : x 0 = .int .i64 (h : Int) := hd 0 rfl
        have d1 : x 1 = .int .i64 (i : Int) := hd 1 rfl
        have d2 : x 2 = .agg (hrow z.1) := hd 2 rfl
        have d5 : x 5 = .slice (some ⟨b, off, none⟩) kk cap := hd 5 rfl
        clear hd
        have CC := IH w' (hrp.below (hbel.trans (hbw.mono hbel.size))) (hW.below hbw)
        go_wp2_with (first | (go_at_call 63; refine (CC).mono ?_; rintro e wx ⟨rfl, hbx⟩))
        exact frPost_mk rfl (by repeat (first | assumption | exact Below.refl _ _ | refine bch ?_ (by assumption) | refine Below.alloc ?_ (by simp) _)) rfl
      · intro x w' hbw hd
        clear hd
        go_wp2_with fail
        refine frPost_mk rfl (by repeat (first | assumption | exact Below.refl _ _ | refine bch ?_ (by assumption) | refine Below.alloc ?_ (by simp) _)) ?_; show (Fact.cell w2.heap.size).holds _ _; exact ⟨_, rfl, hbw.size, heap_pushF _ _ _⟩
    · intro X w' hbw hall
      have f6 : X 6 = .agg (hrow FX.1) := hall 6 (by decide)
      obtain ⟨g, hx7, hBg, hgz⟩ := (show (Fact.cell w2.heap.size).holds (X 7) w' from hall 7 (by decide))
      clear hall
      simp only [f6, hx7, List.drop_succ_cons, List.drop_zero]
      have y9 := cells_of y9 hbw hy9
      have hbel := hbel.trans (hbw.mono hbel.size)
      have hr := hr.below hbw
      have hW := hW.below hbw
      have hsF : (hrow FX.1).size = 32 := by rw [hrow_size]; exact FX.2
      have hoF := hrow_one FX.1
      go_upto_region 6 with (refine wpList_storeRowTo rfl (.tmp 12) (.tmp 31) 25 rfl (by rw [hsF]; kernel_rfl) rfl (by rfl) hgz (by rw [hsF]; rfl) hoF ?_)
      refine wp_nameE _ (fun W5 hX => ?_)
      have hT : W5.heap[g]? = some (.cells (hrow FX.1) 25 (0, 0)) := by rw [hX]; exact setRow_heap _ _ _ _ _ _ hgz
      have y9 : W5.heap[w.heap.size + 1]? = some (.cells #[Value.int .u8 0, Value.int .u8 0, Value.int .u8 0, Value.int .u8 0, Value.int .u8 0, Value.int .u8 0, Value.int .u8 0, Value.int .u8 0, Value.int .u8 0, Value.int .u8 0, Value.int .u8 0, Value.int .u8 0, Value.int .u8 0, Value.int .u8 0, Value.int .u8 0, Value.int .u8 0, Value.int .u8 0, Value.int .u8 0, Value.int .u8 0, Value.int .u8 0, Value.int .u8 0, Value.int .u8 0, Value.int .u8 0, Value.int .u8 0, Value.int .u8 0, Value.int .u8 0, Value.int .u8 0, Value.int .u8 0, Value.int .u8 0, Value.int .u8 0, Value.int .u8 0, Value.int .u8 0] 25 (0, 0)) := by rw [hX, setRow_other _ _ _ _ (by omega)]; exact y9
      have hbelX : Below w2.heap.size w' W5 := by rw [hX]; exact below_setRow (Below.refl _ _) (by omega) _
      have hbel : Below w.heap.size w W5 := hbel.trans (hbelX.mono (by omega))
      have hr : RowAt W5 (some ⟨b, off, none⟩) ((wp ++ [q]).flatMap H32.cells) := hr0.below hbel
      have hW : SW W5 := hW0.below hbel
      have hTl : g < W5.heap.size := (Array.getElem?_eq_some_iff.1 hT).1
      have hy9 : w.heap.size + 1 < W5.heap.size := (Array.getElem?_eq_some_iff.1 y9).1
      clear hX hbelX
      go_upto_region 7 with (go_at_call 70; refine (CH _).mono ?_; rintro e w6 ⟨rfl, hb6⟩)
      have hT := cells_of hT hb6 hTl
      have y9 := cells_of y9 hb6 hy9
      have hTl := Nat.lt_of_lt_of_le hTl hb6.size
      have hy9 := Nat.lt_of_lt_of_le hy9 hb6.size
      have hbel := hbel.trans (hb6.mono hbel.size)
      have hr := hr.below hb6
      have hW := hW.below hb6
      clear hb6
      obtain ⟨b2, o2, he2, hb2, hrgq⟩ := hs_at hr (k := kk) (by simp; omega)
      simp only [Option.some.injEq, Addr.mk.injEq, and_true] at he2
      obtain ⟨rfl, rfl⟩ := he2
      rw [show (wp ++ [q])[kk]'(by simp; omega) = q by simp [← hkk]] at hrgq
      refine wp_region_facts_tail 6 rfl [Fact.eq (.agg (hrow FX.1)), Fact.eq (.slice (some ⟨b, off, none⟩) k cap), Fact.eq (.int .i64 (kk : Int)), Fact.eq (.pointer (some ⟨b, off + kk * 32, none⟩)), Fact.eq (.agg (hrow q.1)), Fact.eq (.agg (hrow (nodeF FX.1 q.1)))] (by kernel_rfl) (by kernel_rfl) (by kernel_rfl) (by kernel_rfl) (by kernel_rfl) (fun x => by simp only [List.take_succ_cons, List.take_zero, fillFrom, Act.put, List.setIfInBounds_toArray, List.set_cons_succ, List.set_cons_zero]; rfl) ?_ ?_
      · refine ⟨?_, ?_, ?_, ?_, ?_, ?_, trivial⟩
        · intro x w' hbw hd
          clear hd
          have hrg := hrow_range (cells_of hT hbw hTl)
          go_wp2_with (first | (refine wpList_load_mid rfl 25 (.tmp 12) rfl g 0 rfl FX.cells _ hrg Tryd.underlying25 rfl (hash_info FX) ?_; rw [H32.row]))
          exact frPost_mk rfl (by repeat (first | assumption | exact Below.refl _ _ | refine bch ?_ (by assumption) | refine Below.alloc ?_ (by simp) _)) rfl
        · intro x w' hbw hd
          clear hd
          go_wp2_with fail
          exact frPost_mk rfl (by repeat (first | assumption | exact Below.refl _ _ | refine bch ?_ (by assumption) | refine Below.alloc ?_ (by simp) _)) rfl
        · intro x w' hbw hd
          clear hd
          go_wp2_with fail
          exact frPost_mk rfl (by repeat (first | assumption | exact Below.refl _ _ | refine bch ?_ (by assumption) | refine Below.alloc ?_ (by simp) _)) rfl
        · intro x w' hbw hd
          have d1 : x 1 = .slice (some ⟨b, off, none⟩) k cap := hd 1 rfl
          have d2 : x 2 = .int .i64 (kk : Int) := hd 2 rfl
          clear hd
          go_wp2_with fail
          exact frPost_mk rfl (by repeat (first | assumption | exact Below.refl _ _ | refine bch ?_ (by assumption) | refine Below.alloc ?_ (by simp) _)) rfl
        · intro x w' hbw hd
          have d3 : x 3 = .pointer (some ⟨b, off + kk * 32, none⟩) := hd 3 rfl
          clear hd
          have hrg : w'.rangeAt b (off + kk * 32) q.cells := fun j v hv => by rw [hbw.cell (p := ⟨b, off + kk * 32 + j, none⟩) hb2]; exact hrgq j v hv
          go_wp2_with (first | (refine wpList_load_mid rfl 25 (.tmp 39) rfl b (off + kk * 32) d3 q.cells _ hrg Tryd.underlying25 rfl (hash_info q) ?_; rw [H32.row]))
          exact frPost_mk rfl (by repeat (first | assumption | exact Below.refl _ _ | refine bch ?_ (by assumption) | refine Below.alloc ?_ (by simp) _)) rfl
        · intro x w' hbw hd
          have d0 : x 0 = .agg (hrow FX.1) := hd 0 rfl
          have d4 : x 4 = .agg (hrow q.1) := hd 4 rfl
          clear hd
          have CC := node_any FX.1 q.1 w' (hW.below hbw) FX.2 q.2
          go_wp2_with (first | (go_at_call 14; refine (CC).mono ?_; rintro e wx ⟨rfl, hbx⟩))
          exact frPost_mk rfl (by repeat (first | assumption | exact Below.refl _ _ | refine bch ?_ (by assumption) | refine Below.alloc ?_ (by simp) _)) rfl
      · intro X2 w7 hbw hall
        have hf : X2 5 = .agg (hrow (nodeF FX.1 q.1)) := hall 5 (by decide)
        clear hall
        simp only [hf, List.drop_succ_cons, List.drop_zero]
        have hl := nodeF_len FX.1 q.1
        have hsz : (hrow (nodeF FX.1 q.1)).size = 32 := by rw [hrow_size]; exact hl
        have hone := hrow_one (nodeF FX.1 q.1)
        have y9 := cells_of y9 hbw hy9
        have hbel := hbel.trans (hbw.mono hbel.size)
        go_wp2_with (refine wpList_storeRowTo rfl (.tmp 8) (.tmp 41) 25 rfl (by rw [hsz]; kernel_rfl) rfl rfl y9 (by rw [hsz]; rfl) hone ?_)
        refine bodyPost_ret (v := .agg (hrow (nodeF FX.1 q.1))) ?_ rfl ?_
        · simp [results, Tryd.results63, asAddr]
          exact run_loadVar_row _ _ 25 25 _ (0, 0) _ (setRow_heap _ _ _ _ _ _ y9) Tryd.underlying25 rfl (by rw [hsz]; kernel_rfl)
        exact ⟨by rw [HR.out], below_setRow hbel (by omega) _⟩
  · have hfl := foldH_right (n := n) (i := i) hn2 hh z (wp ++ [q])
    have hdn := deepN_right hn2 hh
    rw [List.dropLast_concat, List.getLastD_concat] at hfl
    simp only [if_neg hh] at BL
    have IH := fun W => ih (n - halfN n) (by omega) (i - halfN n) z wp (some ⟨b, off, none⟩) kk cap W (by omega) (by omega) (by omega) hkk (by omega) hcm
    obtain ⟨h, hhh⟩ : ∃ h, halfN n = h := ⟨_, rfl⟩
    simp only [hhh] at hfl BL CH IH hh hlt hpos
    obtain ⟨s, hs⟩ : ∃ s, n - h = s := ⟨_, rfl⟩
    obtain ⟨j, hj⟩ : ∃ j, i - h = j := ⟨_, rfl⟩
    simp only [hs, hj] at hfl BL IH
    obtain ⟨FX, hFX⟩ : ∃ F, foldH s j z wp = F := ⟨_, rfl⟩
    simp only [hFX] at hfl IH
    have HR : Hid ((foldH n i z (wp ++ [q])).1 = nodeF q.1 FX.1) := Lib.hid (by rw [hfl]; rfl)
    have dd : decide ((i : Int) < (h : Int)) = false := decide_eq_false (by omega)
    have ddn : decide (i < h) = false := decide_eq_false hh
    clear hhh hFX hfl ih hdn
    go_enter Tryd.func63, Tryd.ntmps63
    go_upto_region 1 with fail
    refine wp_nameE _ (fun W1 hX => ?_)
    have y0 : W1.heap[w.heap.size]? = some (.cells (hrow z.1) 25 (0, 0)) := by rw [hX]; exact g0
    have y9 : W1.heap[w.heap.size + 1]? = some (.cells #[Value.int .u8 0, Value.int .u8 0, Value.int .u8 0, Value.int .u8 0, Value.int .u8 0, Value.int .u8 0, Value.int .u8 0, Value.int .u8 0, Value.int .u8 0, Value.int .u8 0, Value.int .u8 0, Value.int .u8 0, Value.int .u8 0, Value.int .u8 0, Value.int .u8 0, Value.int .u8 0, Value.int .u8 0, Value.int .u8 0, Value.int .u8 0, Value.int .u8 0, Value.int .u8 0, Value.int .u8 0, Value.int .u8 0, Value.int .u8 0, Value.int .u8 0, Value.int .u8 0, Value.int .u8 0, Value.int .u8 0, Value.int .u8 0, Value.int .u8 0, Value.int .u8 0, Value.int .u8 0] 25 (0, 0)) := by rw [hX]; exact g9
    have hbel : Below w.heap.size w W1 := by rw [hX]; exact hbA
    clear hX g0 g9 hbA
    have hy0 : w.heap.size < W1.heap.size := (Array.getElem?_eq_some_iff.1 y0).1
    have hy9 : w.heap.size + 1 < W1.heap.size := (Array.getElem?_eq_some_iff.1 y9).1
    have hsub : (k : Int) - 1 = ((kk : Nat) : Int) := by omega
    go_upto_region 5 with (go_at_call 71; refine (BL _).mono ?_; rintro e w2 ⟨rfl, hb2⟩)
    have y0 := cells_of y0 hb2 hy0
    have y9 := cells_of y9 hb2 hy9
    have hy0 := Nat.lt_of_lt_of_le hy0 hb2.size
    have hy9 := Nat.lt_of_lt_of_le hy9 hb2.size
    have hbel := hbel.trans (hb2.mono hbel.size)
    have hr := hr.below hbel
    have hW := hW.below hbel
    clear hb2 BL hsub
    refine wp_region_facts_tail 8 rfl [Fact.eq (.int .i64 (s : Int)), Fact.eq (.int .i64 (j : Int)), Fact.eq (.agg (hrow z.1)), Fact.eq (.slice (some ⟨b, off, none⟩) k cap), Fact.eq (.int .i64 (kk : Int)), Fact.eq (.slice (some ⟨b, off, none⟩) kk cap), Fact.eq (.agg (hrow FX.1)), Fact.cell w2.heap.size] (by kernel_rfl) (by kernel_rfl) (by kernel_rfl) (by kernel_rfl) (by kernel_rfl) (fun x => by simp only [List.take_succ_cons, List.take_zero, fillFrom, Act.put, List.setIfInBounds_toArray, List.set_cons_succ, List.set_cons_zero]; rfl) ?_ ?_
    · refine ⟨?_, ?_, ?_, ?_, ?_, ?_, ?_, ?_, trivial⟩
      · intro x w' hbw hd
        clear hd
        go_wp2_with fail
        exact frPost_mk rfl (by repeat (first | assumption | exact Below.refl _ _ | refine bch ?_ (by assumption) | refine Below.alloc ?_ (by simp) _)) rfl
      · intro x w' hbw hd
        clear hd
        go_wp2_with fail
        exact frPost_mk rfl (by repeat (first | assumption | exact Below.refl _ _ | refine bch ?_ (by assumption) | refine Below.alloc ?_ (by simp) _)) rfl
      · intro x w' hbw hd
        clear hd
        have hrg := hrow_range (cells_of y0 hbw hy0)
        go_wp2_with (first | (refine wpList_load_mid rfl 25 (.tmp 6) rfl w.heap.size 0 rfl z.cells _ hrg Tryd.underlying25 rfl (hash_info z) ?_; rw [H32.row]))
        exact frPost_mk rfl (by repeat (first | assumption | exact Below.refl _ _ | refine bch ?_ (by assumption) | refine Below.alloc ?_ (by simp) _)) rfl
      · intro x w' hbw hd
        clear hd
        go_wp2_with fail
        exact frPost_mk rfl (by repeat (first | assumption | exact Below.refl _ _ | refine bch ?_ (by assumption) | refine Below.alloc ?_ (by simp) _)) rfl
      · intro x w' hbw hd
        clear hd
        go_wp2_with fail
        exact frPost_mk rfl (by repeat (first | assumption | exact Below.refl _ _ | refine bch ?_ (by assumption) | refine Below.alloc ?_ (by simp) _)) rfl
      · intro x w' hbw hd
        have d3 : x 3 = .slice (some ⟨b, off, none⟩) k cap := hd 3 rfl
        have d4 : x 4 = .int .i64 (kk : Int) := hd 4 rfl
        clear hd
        go_wp2_with fail
        exact frPost_mk rfl (by repeat (first | assumption | exact Below.refl _ _ | refine bch ?_ (by assumption) | refine Below.alloc ?_ (by simp) _)) rfl
      · intro x w' hbw hd
        have d0 : x 0 = .int .i64 (s : Int) := hd 0 rfl
        have d1 : x 1 = .int .i64 (j : Int) := hd 1 rfl
        have d2 : x 2 = .agg (hrow z.1) := hd 2 rfl
        have d5 : x 5 = .slice (some ⟨b, off, none⟩) kk cap := hd 5 rfl
        clear hd
        have CC := IH w' (hrp.below (hbel.trans (hbw.mono hbel.size))) (hW.below hbw)
        go_wp2_with (first | (go_at_call 63; refine (CC).mono ?_; rintro e wx ⟨rfl, hbx⟩))
        exact frPost_mk rfl (by repeat (first | assumption | exact Below.refl _ _ | refine bch ?_ (by assumption) | refine Below.alloc ?_ (by simp) _)) rfl
      · intro x w' hbw hd
        clear hd
        go_wp2_with fail
        refine frPost_mk rfl (by repeat (first | assumption | exact Below.refl _ _ | refine bch ?_ (by assumption) | refine Below.alloc ?_ (by simp) _)) ?_; show (Fact.cell w2.heap.size).holds _ _; exact ⟨_, rfl, hbw.size, heap_pushF _ _ _⟩
    · intro X w' hbw hall
      have f6 : X 6 = .agg (hrow FX.1) := hall 6 (by decide)
      obtain ⟨g, hx7, hBg, hgz⟩ := (show (Fact.cell w2.heap.size).holds (X 7) w' from hall 7 (by decide))
      clear hall
      simp only [f6, hx7, List.drop_succ_cons, List.drop_zero]
      have y9 := cells_of y9 hbw hy9
      have hbel := hbel.trans (hbw.mono hbel.size)
      have hr := hr.below hbw
      have hW := hW.below hbw
      have hsF : (hrow FX.1).size = 32 := by rw [hrow_size]; exact FX.2
      have hoF := hrow_one FX.1
      go_upto_region 6 with (refine wpList_storeRowTo rfl (.tmp 12) (.tmp 31) 25 rfl (by rw [hsF]; kernel_rfl) rfl (by rfl) hgz (by rw [hsF]; rfl) hoF ?_)
      refine wp_nameE _ (fun W5 hX => ?_)
      have hT : W5.heap[g]? = some (.cells (hrow FX.1) 25 (0, 0)) := by rw [hX]; exact setRow_heap _ _ _ _ _ _ hgz
      have y9 : W5.heap[w.heap.size + 1]? = some (.cells #[Value.int .u8 0, Value.int .u8 0, Value.int .u8 0, Value.int .u8 0, Value.int .u8 0, Value.int .u8 0, Value.int .u8 0, Value.int .u8 0, Value.int .u8 0, Value.int .u8 0, Value.int .u8 0, Value.int .u8 0, Value.int .u8 0, Value.int .u8 0, Value.int .u8 0, Value.int .u8 0, Value.int .u8 0, Value.int .u8 0, Value.int .u8 0, Value.int .u8 0, Value.int .u8 0, Value.int .u8 0, Value.int .u8 0, Value.int .u8 0, Value.int .u8 0, Value.int .u8 0, Value.int .u8 0, Value.int .u8 0, Value.int .u8 0, Value.int .u8 0, Value.int .u8 0, Value.int .u8 0] 25 (0, 0)) := by rw [hX, setRow_other _ _ _ _ (by omega)]; exact y9
      have hbelX : Below w2.heap.size w' W5 := by rw [hX]; exact below_setRow (Below.refl _ _) (by omega) _
      have hbel : Below w.heap.size w W5 := hbel.trans (hbelX.mono (by omega))
      have hr : RowAt W5 (some ⟨b, off, none⟩) ((wp ++ [q]).flatMap H32.cells) := hr0.below hbel
      have hW : SW W5 := hW0.below hbel
      have hTl : g < W5.heap.size := (Array.getElem?_eq_some_iff.1 hT).1
      have hy9 : w.heap.size + 1 < W5.heap.size := (Array.getElem?_eq_some_iff.1 y9).1
      clear hX hbelX
      go_upto_region 8 with (go_at_call 70; refine (CH _).mono ?_; rintro e w6 ⟨rfl, hb6⟩)
      have hT := cells_of hT hb6 hTl
      have y9 := cells_of y9 hb6 hy9
      have hTl := Nat.lt_of_lt_of_le hTl hb6.size
      have hy9 := Nat.lt_of_lt_of_le hy9 hb6.size
      have hbel := hbel.trans (hb6.mono hbel.size)
      have hr := hr.below hb6
      have hW := hW.below hb6
      clear hb6
      obtain ⟨b2, o2, he2, hb2, hrgq⟩ := hs_at hr (k := kk) (by simp; omega)
      simp only [Option.some.injEq, Addr.mk.injEq, and_true] at he2
      obtain ⟨rfl, rfl⟩ := he2
      rw [show (wp ++ [q])[kk]'(by simp; omega) = q by simp [← hkk]] at hrgq
      refine wp_region_facts_tail 6 rfl [Fact.eq (.slice (some ⟨b, off, none⟩) k cap), Fact.eq (.int .i64 (kk : Int)), Fact.eq (.pointer (some ⟨b, off + kk * 32, none⟩)), Fact.eq (.agg (hrow q.1)), Fact.eq (.agg (hrow FX.1)), Fact.eq (.agg (hrow (nodeF q.1 FX.1)))] (by kernel_rfl) (by kernel_rfl) (by kernel_rfl) (by kernel_rfl) (by kernel_rfl) (fun x => by simp only [List.take_succ_cons, List.take_zero, fillFrom, Act.put, List.setIfInBounds_toArray, List.set_cons_succ, List.set_cons_zero]; rfl) ?_ ?_
      · refine ⟨?_, ?_, ?_, ?_, ?_, ?_, trivial⟩
        · intro x w' hbw hd
          clear hd
          go_wp2_with fail
          exact frPost_mk rfl (by repeat (first | assumption | exact Below.refl _ _ | refine bch ?_ (by assumption) | refine Below.alloc ?_ (by simp) _)) rfl
        · intro x w' hbw hd
          clear hd
          go_wp2_with fail
          exact frPost_mk rfl (by repeat (first | assumption | exact Below.refl _ _ | refine bch ?_ (by assumption) | refine Below.alloc ?_ (by simp) _)) rfl
        · intro x w' hbw hd
          have d0 : x 0 = .slice (some ⟨b, off, none⟩) k cap := hd 0 rfl
          have d1 : x 1 = .int .i64 (kk : Int) := hd 1 rfl
          clear hd
          go_wp2_with fail
          exact frPost_mk rfl (by repeat (first | assumption | exact Below.refl _ _ | refine bch ?_ (by assumption) | refine Below.alloc ?_ (by simp) _)) rfl
        · intro x w' hbw hd
          have d2 : x 2 = .pointer (some ⟨b, off + kk * 32, none⟩) := hd 2 rfl
          clear hd
          have hrg : w'.rangeAt b (off + kk * 32) q.cells := fun j v hv => by rw [hbw.cell (p := ⟨b, off + kk * 32 + j, none⟩) hb2]; exact hrgq j v hv
          go_wp2_with (first | (refine wpList_load_mid rfl 25 (.tmp 44) rfl b (off + kk * 32) d2 q.cells _ hrg Tryd.underlying25 rfl (hash_info q) ?_; rw [H32.row]))
          exact frPost_mk rfl (by repeat (first | assumption | exact Below.refl _ _ | refine bch ?_ (by assumption) | refine Below.alloc ?_ (by simp) _)) rfl
        · intro x w' hbw hd
          clear hd
          have hrg := hrow_range (cells_of hT hbw hTl)
          go_wp2_with (first | (refine wpList_load_mid rfl 25 (.tmp 12) rfl g 0 rfl FX.cells _ hrg Tryd.underlying25 rfl (hash_info FX) ?_; rw [H32.row]))
          exact frPost_mk rfl (by repeat (first | assumption | exact Below.refl _ _ | refine bch ?_ (by assumption) | refine Below.alloc ?_ (by simp) _)) rfl
        · intro x w' hbw hd
          have d3 : x 3 = .agg (hrow q.1) := hd 3 rfl
          have d4 : x 4 = .agg (hrow FX.1) := hd 4 rfl
          clear hd
          have CC := node_any q.1 FX.1 w' (hW.below hbw) q.2 FX.2
          go_wp2_with (first | (go_at_call 14; refine (CC).mono ?_; rintro e wx ⟨rfl, hbx⟩))
          exact frPost_mk rfl (by repeat (first | assumption | exact Below.refl _ _ | refine bch ?_ (by assumption) | refine Below.alloc ?_ (by simp) _)) rfl
      · intro X2 w7 hbw hall
        have hf : X2 5 = .agg (hrow (nodeF q.1 FX.1)) := hall 5 (by decide)
        clear hall
        simp only [hf, List.drop_succ_cons, List.drop_zero]
        have hl := nodeF_len q.1 FX.1
        have hsz : (hrow (nodeF q.1 FX.1)).size = 32 := by rw [hrow_size]; exact hl
        have hone := hrow_one (nodeF q.1 FX.1)
        have y9 := cells_of y9 hbw hy9
        have hbel := hbel.trans (hbw.mono hbel.size)
        go_wp2_with (refine wpList_storeRowTo rfl (.tmp 8) (.tmp 47) 25 rfl (by rw [hsz]; kernel_rfl) rfl rfl y9 (by rw [hsz]; rfl) hone ?_)
        refine bodyPost_ret (v := .agg (hrow (nodeF q.1 FX.1))) ?_ rfl ?_
        · simp [results, Tryd.results63, asAddr]
          exact run_loadVar_row _ _ 25 25 _ (0, 0) _ (setRow_heap _ _ _ _ _ _ y9) Tryd.underlying25 rfl (by rw [hsz]; kernel_rfl)
        exact ⟨by rw [HR.out], below_setRow hbel (by omega) _⟩
end Go.Proofs.YtfikbaoiialfeaaDoor
