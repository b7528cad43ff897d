/- EndsTells and EndsBack, walked. -/
import Derived.Test.YtekhmdjpkngglaaEndsD
import Derived.Test.YtekhmdjpkngglaaEndsQ
import Derived.Deep.Cut
import Derived.WalkKit
import Derived.ProofKit
import Derived.Handy
import Derived.Below
import Derived.BigQuiet
import Derived.Lib.Hide
import Derived.IntWalk
import Derived.Outline
import Derived.WalkLawsBesides
import Derived.WalkSpells
namespace Go.Proofs.Ytekhmdjpkngglaa
open Go.RowKit
attribute [local go_sem] strV
set_option linter.unusedVariables false
theorem encV_first : encV ⟨⟨#[116]⟩, 3, true, true, 7⟩ = .tuple #[.string ⟨#[1, 1, 1, 116, 3, 7]⟩, .int .i64 0] := by
  have h1 : mayS ⟨⟨#[116]⟩, 3, true, true, 7⟩ = true := by decide +kernel
  have h2 : encS ⟨⟨#[116]⟩, 3, true, true, 7⟩ = [1, 1, 1, 116, 3, 7] := by decide +kernel
  unfold encV
  rw [h1, h2]
  rfl
set_option maxRecDepth 100000 in
set_option maxHeartbeats 1600000 in
theorem first15_any (w : World) :
    Calls Try.prog 14 #[] w fun e w' => e = .returned (.bool true) ∧ Below w.heap.size w w' := by
  have CE := fun W => encode_any ⟨#[116]⟩ 3 true true 7 W (by decide)
  rw [encV_first] at CE
  go_enter Try.func14, Try.ntmps14
  go_wp2_with (go_at_call 15; refine (CE _).mono ?_; rintro e w1 ⟨rfl, hb1⟩)
  go_ret
  exact ⟨rfl, hb1⟩
set_option maxRecDepth 100000 in
set_option maxHeartbeats 1600000 in
theorem keepState_any (p : ByteArray) (c : Int) (o cl : Bool) (st : Int) (w : World) :
    Calls Try.prog 17 #[.agg #[.string p, .int .i64 c, .bool o, .bool cl, .int .i64 st]] w fun e w' => e = .returned (.agg #[.string p, .int .i64 c, .bool o, .bool cl, .int .i64 st]) ∧ Below w.heap.size w w' := by
  have hz0 : ((w.alloc (.cells #[.string p, .int .i64 c, .bool o, .bool cl, .int .i64 st] 43)).alloc (.cells #[.string ⟨#[]⟩, .int .i64 0, .bool false, .bool false, .int .i64 0] 46)).heap[w.heap.size + 1]? = some (.cells #[.string ⟨#[]⟩, .int .i64 0, .bool false, .bool false, .int .i64 0] 46 (0, 0)) := by
    show ((w.heap.push _).push _)[w.heap.size + 1]? = _
    rw [show w.heap.size + 1 = (w.heap.push (Obj.cells #[.string p, .int .i64 c, .bool o, .bool cl, .int .i64 st] 43 (0, 0))).size by simp, Array.getElem?_push_size]
  have hbel : Below w.heap.size w ((w.alloc (.cells #[.string p, .int .i64 c, .bool o, .bool cl, .int .i64 st] 43)).alloc (.cells #[.string ⟨#[]⟩, .int .i64 0, .bool false, .bool false, .int .i64 0] 46)) := Below.alloc (Below.alloc (Below.refl _ _) (Nat.le_refl _) _) (by simp) _
  go_enter Try.func17, Try.ntmps17
  go_wp2_with (refine wpList_storeRowTo rfl (.tmp 2) (.tmp 11) 46 rfl (by kernel_rfl) rfl rfl hz0 rfl (St.row_one _ _ _ _ _) ?_)
  have hZ : (World.setRow _ (w.heap.size + 1) #[.string p, .int .i64 c, .bool o, .bool cl, .int .i64 st]).heap[w.heap.size + 1]? = some (.cells #[.string p, .int .i64 c, .bool o, .bool cl, .int .i64 st] 46 (0, 0)) := setRow_heap _ _ _ _ _ _ hz0
  have hrd := run_loadVar_mid (P := Try.prog) _ (w.heap.size + 1) 0 46 (#[.string p, .int .i64 c, .bool o, .bool cl, .int .i64 st] : Array Value).toList _ (rangeAt_row5 hZ) Try.underlying46 rfl (by kernel_rfl)
  refine bodyPost_ret (v := .agg #[.string p, .int .i64 c, .bool o, .bool cl, .int .i64 st]) ?_ rfl ?_
  · simp [results, Try.results17, asAddr]
    exact hrd
  exact ⟨rfl, below_setRow hbel (by omega) _⟩
set_option maxRecDepth 100000 in
set_option maxHeartbeats 6400000 in
theorem walkEndsTells (p : ByteArray) (c : Int) (o cl : Bool) (st : Int) (v : ByteArray) (w : World) (hp : p.size ≤ maxLen) (hv : v.size ≤ maxLen) :
    Calls Try.prog 6 #[.agg #[.string p, .int .i64 c, .bool o, .bool cl, .int .i64 st], .string v] w fun e w' => e = .returned (.bool true) ∧ Below w.heap.size w w' := by
  by_cases h60 : 60 < p.size
  · go_enter Try.func6, Try.ntmps6
    go_wp2_with (go_at_call 14; refine (first15_any _).mono ?_; rintro e wa ⟨rfl, hba⟩; obtain ⟨hx1, _⟩ := bcell hba)
    go_ret
    exact ⟨rfl, by (repeat (first | assumption | exact Below.refl _ _ | refine bch ?_ (by assumption) | refine Below.alloc ?_ (by simp) _))⟩
  by_cases h300 : 300 < v.size
  · go_enter Try.func6, Try.ntmps6
    go_wp2_with (go_at_call 14; refine (first15_any _).mono ?_; rintro e wa ⟨rfl, hba⟩; obtain ⟨hx1, _⟩ := bcell hba)
    go_ret
    exact ⟨rfl, by (repeat (first | assumption | exact Below.refl _ _ | refine bch ?_ (by assumption) | refine Below.alloc ?_ (by simp) _))⟩
  obtain ⟨sb, eb, henc⟩ : ∃ sb eb, encV ⟨p, c, o, cl, st⟩ = .tuple #[.string sb, .int .i64 eb] := by
    unfold encV
    cases mayS ⟨p, c, o, cl, st⟩
    · exact ⟨_, _, rfl⟩
    · exact ⟨_, _, rfl⟩
  obtain ⟨mb, hmb⟩ : ∃ b, mayS ⟨p, c, o, cl, st⟩ = b := ⟨_, rfl⟩
  obtain ⟨⟨⟨xp, xc, xo, xcl, xst⟩, f⟩, hx⟩ : ∃ t, decS v = t := ⟨_, rfl⟩
  have CE := fun W => encode_any p c o cl st W hp
  have CE2 := fun W => refEncode_any p c o cl st W hp
  have CD := fun W => decode_any v W (by omega)
  have CD2 := fun W => refDecode_any v W (by omega)
  have CM := fun W => mayS_any p c o cl st W hp
  have CM2 := fun W => refMayS_any p c o cl st W hp
  have K1 := fun W => keepState_any p c o cl st W
  have K2 := fun W => keepState_any xp xc xo xcl xst W
  simp only [henc] at CE CE2
  simp only [hx, St.val] at CD CD2
  simp only [hmb] at CM CM2
  clear henc hx hmb
  have hg0 : (w.alloc (.cells #[.string p, .int .i64 c, .bool o, .bool cl, .int .i64 st] 43)).heap[w.heap.size]? = some (.cells #[.string p, .int .i64 c, .bool o, .bool cl, .int .i64 st] 43 (0, 0)) := by
    show (w.heap.push _)[w.heap.size]? = _
    rw [Array.getElem?_push_size]
  have hbA : Below w.heap.size w (w.alloc (.cells #[.string p, .int .i64 c, .bool o, .bool cl, .int .i64 st] 43)) := Below.alloc (Below.refl _ _) (Nat.le_refl _) _
  go_enter Try.func6, Try.ntmps6
  go_upto_region 5 with (go_at_call 14; refine (first15_any _).mono ?_; rintro e wa ⟨rfl, hba⟩; obtain ⟨hx1, _⟩ := bcell hba)
  have hg := cells_of hg0 hba (by simp)
  have q0 := cell_heap hg 0; have q1 := cell_heap hg 1; have q2 := cell_heap hg 2; have q3 := cell_heap hg 3; have q4 := cell_heap hg 4
  have hbel := hbA.trans (hba.mono hbA.size)
  have hgl := (Array.getElem?_eq_some_iff.1 hg).1
  clear hx1 hba hg0 hbA
  go_upto_region 6 with (go_at_call 15; refine (CE _).mono ?_; rintro e w1 ⟨rfl, hb⟩; have hg := cells_of hg hb hgl; have hgl := Nat.lt_of_lt_of_le hgl hb.size; have hbel := hbel.trans (hb.mono hbel.size); have q0 := cell_heap hg 0; have q1 := cell_heap hg 1; have q2 := cell_heap hg 2; have q3 := cell_heap hg 3; have q4 := cell_heap hg 4)
  go_upto_region 7 with (first | (go_at_call 17; refine (K1 _).mono ?_; rintro e w2 ⟨rfl, hb⟩; have hg := cells_of hg hb hgl; have hgl := Nat.lt_of_lt_of_le hgl hb.size; have hbel := hbel.trans (hb.mono hbel.size); have q0 := cell_heap hg 0; have q1 := cell_heap hg 1; have q2 := cell_heap hg 2; have q3 := cell_heap hg 3; have q4 := cell_heap hg 4) | (go_at_call 16; refine (CE2 _).mono ?_; rintro e w3 ⟨rfl, hb⟩; have hg := cells_of hg hb hgl; have hgl := Nat.lt_of_lt_of_le hgl hb.size; have hbel := hbel.trans (hb.mono hbel.size); have q0 := cell_heap hg 0; have q1 := cell_heap hg 1; have q2 := cell_heap hg 2; have q3 := cell_heap hg 3; have q4 := cell_heap hg 4))
  go_upto_region 8 with (go_at_call 18; refine (CD _).mono ?_; rintro e w4 ⟨rfl, hb⟩; have hg := cells_of hg hb hgl; have hgl := Nat.lt_of_lt_of_le hgl hb.size; have hbel := hbel.trans (hb.mono hbel.size))
  refine wp_nameE _ (fun W5 hW5 => ?_)
  have hb5 : Below w4.heap.size w4 W5 := by rw [hW5]; exact Below.alloc (Below.refl _ _) (Nat.le_refl _) _
  have hx5 : W5.heap[w4.heap.size]? = some (.cells #[.string xp, .int .i64 xc, .bool xo, .bool xcl, .int .i64 xst] 43 (0, 0)) := by
    rw [hW5]; show (w4.heap.push _)[w4.heap.size]? = _; rw [Array.getElem?_push_size]
  have hg := cells_of hg hb5 hgl
  have hbel := hbel.trans (hb5.mono hbel.size)
  clear hW5
  go_upto_region 9 with (go_at_call 19; refine (CD2 _).mono ?_; rintro e w6 ⟨rfl, hb⟩; have hg := cells_of hg hb (Array.getElem?_eq_some_iff.1 hg).1; have hx5 := cells_of hx5 hb (Array.getElem?_eq_some_iff.1 hx5).1; have hbel := hbel.trans (hb.mono hbel.size))
  refine wp_nameE _ (fun W7 hW7 => ?_)
  have hb7 : Below w6.heap.size w6 W7 := by rw [hW7]; exact Below.alloc (Below.refl _ _) (Nat.le_refl _) _
  have hy7 : W7.heap[w6.heap.size]? = some (.cells #[.string xp, .int .i64 xc, .bool xo, .bool xcl, .int .i64 xst] 46 (0, 0)) := by
    rw [hW7]; show (w6.heap.push _)[w6.heap.size]? = _; rw [Array.getElem?_push_size]
  have hg := cells_of hg hb7 (Array.getElem?_eq_some_iff.1 hg).1
  have hx7 := cells_of hx5 hb7 (Array.getElem?_eq_some_iff.1 hx5).1
  have hbel := hbel.trans (hb7.mono hbel.size)
  clear hW7 hx5
  have q0 := cell_heap hg 0; have q1 := cell_heap hg 1; have q2 := cell_heap hg 2; have q3 := cell_heap hg 3; have q4 := cell_heap hg 4
  have r0 := cell_heap hx7 0; have r1 := cell_heap hx7 1; have r2 := cell_heap hx7 2; have r3 := cell_heap hx7 3; have r4 := cell_heap hx7 4
  have y0 := cell_heap hy7 0; have y1 := cell_heap hy7 1; have y2 := cell_heap hy7 2; have y3 := cell_heap hy7 3; have y4 := cell_heap hy7 4
  have l1 := (Array.getElem?_eq_some_iff.1 hg).1
  have l2 := (Array.getElem?_eq_some_iff.1 hx7).1
  have l3 := (Array.getElem?_eq_some_iff.1 hy7).1
  obtain ⟨hcb, hfb⟩ := beyond_cells (W := W7)
  refine wp_region_below (by kernel_rfl) (by kernel_rfl) ?_
  repeat (go_big_quiet_step (first | (go_at_call 20; exact quiet_below (CM _)) | (go_at_call 21; exact quiet_below (CM2 _)) | (go_at_call 17; first | with_reducible exact quiet_below (K1 _) | with_reducible exact quiet_below (K2 _))))
  intro w9 hw9
  have hb9 := beyond_below hw9
  go_wp2
  go_ret
  exact ⟨rfl, hbel.trans (hb9.mono hbel.size)⟩
end Go.Proofs.Ytekhmdjpkngglaa
