/- EndsBack, walked. -/
import Derived.Test.YtekhmdjpkngglaaEndsT
import Derived.Deep.Cut
import Derived.WalkKit
import Derived.ProofKit
import Derived.Handy
import Derived.Below
import Derived.BigQuiet
import Derived.Lib.Hide
import Derived.IntWalk
import Derived.Outline
import Derived.WalkLawsBesides
import Derived.WalkSpells
namespace Go.Proofs.Ytekhmdjpkngglaa
open Go.RowKit
attribute [local go_sem] strV
set_option linter.unusedVariables false
set_option maxRecDepth 100000 in
set_option maxHeartbeats 6400000 in
theorem walkEndsBack (p : ByteArray) (c : Int) (o cl : Bool) (st : Int) (v : ByteArray) (w : World) (hp : p.size ≤ maxLen) (hv : v.size ≤ maxLen) :
    Calls Try.prog 7 #[.agg #[.string p, .int .i64 c, .bool o, .bool cl, .int .i64 st], .string v] w fun e w' => e = .returned (.bool true) ∧ Below w.heap.size w w' := by
  by_cases h60 : 60 < p.size
  · go_enter Try.func7, Try.ntmps7
    go_wp2_with (go_at_call 14; refine (first15_any _).mono ?_; rintro e wa ⟨rfl, hba⟩; obtain ⟨hx1, _⟩ := bcell hba)
    go_ret
    exact ⟨rfl, by (repeat (first | assumption | exact Below.refl _ _ | refine bch ?_ (by assumption) | refine Below.alloc ?_ (by simp) _))⟩
  by_cases h300 : 300 < v.size
  · go_enter Try.func7, Try.ntmps7
    go_wp2_with (go_at_call 14; refine (first15_any _).mono ?_; rintro e wa ⟨rfl, hba⟩; obtain ⟨hx1, _⟩ := bcell hba)
    go_ret
    exact ⟨rfl, by (repeat (first | assumption | exact Below.refl _ _ | refine bch ?_ (by assumption) | refine Below.alloc ?_ (by simp) _))⟩
  have CE := fun W => encode_any p c o cl st W hp
  have CM := fun W => mayS_any p c o cl st W hp
  obtain ⟨⟨⟨xp, xc, xo, xcl, xst⟩, f⟩, hx⟩ : ∃ t, decS v = t := ⟨_, rfl⟩
  have CD3 := fun W => decode_any v W (by omega)
  have hg0 : (w.alloc (.cells #[.string p, .int .i64 c, .bool o, .bool cl, .int .i64 st] 43)).heap[w.heap.size]? = some (.cells #[.string p, .int .i64 c, .bool o, .bool cl, .int .i64 st] 43 (0, 0)) := by
    show (w.heap.push _)[w.heap.size]? = _
    rw [Array.getElem?_push_size]
  have hbA : Below w.heap.size w (w.alloc (.cells #[.string p, .int .i64 c, .bool o, .bool cl, .int .i64 st] 43)) := Below.alloc (Below.refl _ _) (Nat.le_refl _) _
  simp only [hx] at CD3
  cases hM : mayS ⟨p, c, o, cl, st⟩
  · simp only [hM] at CM
    have henc : encV ⟨p, c, o, cl, st⟩ = .tuple #[.string ⟨#[]⟩, .int .i64 1] := by unfold encV; rw [hM]; rfl
    simp only [henc] at CE
    clear henc hM
    by_cases hf : f = 0
    · subst hf
      have hb2 := decS_back (v := v) (by rw [hx])
      rw [hx] at hb2
      simp only at hb2
      obtain ⟨hMx, hEx⟩ := hb2
      have hxp : xp.size ≤ maxLen := by have := (mayE_bounds (mayS_bounds hMx).1).1; simp only at this; unfold maxLen; omega
      have CEx := fun W => encode_any xp xc xo xcl xst W hxp
      have CMx := fun W => mayS_any xp xc xo xcl xst W hxp
      have hencx : encV ⟨xp, xc, xo, xcl, xst⟩ = .tuple #[.string v, .int .i64 0] := by
        unfold encV; rw [hMx, hEx]; rfl
      simp only [hencx] at CEx
      simp only [hMx] at CMx
      simp only [St.val] at CD3
      clear hencx hMx hEx hx
      go_enter Try.func7, Try.ntmps7
      go_upto_region 5 with (go_at_call 14; refine (first15_any _).mono ?_; rintro e wa ⟨rfl, hba⟩; obtain ⟨hx1, _⟩ := bcell hba)
      have hg := cells_of hg0 hba (by simp)
      have q0 := cell_heap hg 0; have q1 := cell_heap hg 1; have q2 := cell_heap hg 2; have q3 := cell_heap hg 3; have q4 := cell_heap hg 4
      have hbel := hbA.trans (hba.mono hbA.size)
      have hgl := (Array.getElem?_eq_some_iff.1 hg).1
      clear hx1 hba hg0 hbA
      go_upto_region 6 with (go_at_call 15; refine (CE _).mono ?_; rintro e w1 ⟨rfl, hb⟩; have hg := cells_of hg hb hgl; have hgl := Nat.lt_of_lt_of_le hgl hb.size; have hbel := hbel.trans (hb.mono hbel.size); have q0 := cell_heap hg 0; have q1 := cell_heap hg 1; have q2 := cell_heap hg 2; have q3 := cell_heap hg 3; have q4 := cell_heap hg 4)
      go_upto_region 13 with (go_at_call 20; refine (CM _).mono ?_; rintro e w2 ⟨rfl, hb⟩; have hg := cells_of hg hb hgl; have hgl := Nat.lt_of_lt_of_le hgl hb.size; have hbel := hbel.trans (hb.mono hbel.size); have q0 := cell_heap hg 0; have q1 := cell_heap hg 1; have q2 := cell_heap hg 2; have q3 := cell_heap hg 3; have q4 := cell_heap hg 4)
      go_upto_region 14 with (go_at_call 18; refine (CD3 _).mono ?_; rintro e w13 ⟨rfl, hb⟩; have hg := cells_of hg hb hgl; have hgl := Nat.lt_of_lt_of_le hgl hb.size; have hbel := hbel.trans (hb.mono hbel.size); have q0 := cell_heap hg 0; have q1 := cell_heap hg 1; have q2 := cell_heap hg 2; have q3 := cell_heap hg 3; have q4 := cell_heap hg 4)
      refine wp_nameE _ (fun W14 hW => ?_)
      have hb := (show Below w13.heap.size w13 W14 by rw [hW]; exact Below.alloc (Below.refl _ _) (Nat.le_refl _) _)
      have hx3 : W14.heap[w13.heap.size]? = some (.cells #[.string xp, .int .i64 xc, .bool xo, .bool xcl, .int .i64 xst] 43 (0, 0)) := by
        rw [hW]; show (w13.heap.push _)[w13.heap.size]? = _; rw [Array.getElem?_push_size]
      have hg := cells_of hg hb hgl
      have hgl := Nat.lt_of_lt_of_le hgl hb.size
      have hbel := hbel.trans (hb.mono hbel.size)
      have q0 := cell_heap hg 0
      have q1 := cell_heap hg 1
      have q2 := cell_heap hg 2
      have q3 := cell_heap hg 3
      have q4 := cell_heap hg 4
      clear hW
      have r0 := cell_heap hx3 0
      have r1 := cell_heap hx3 1
      have r2 := cell_heap hx3 2
      have r3 := cell_heap hx3 3
      have r4 := cell_heap hx3 4
      have hxl := (Array.getElem?_eq_some_iff.1 hx3).1
      go_wp2_with (first | (go_at_call 15; refine (CEx _).mono ?_; rintro e w16 ⟨rfl, hb⟩; have hx3 := cells_of hx3 hb hxl; have hxl := Nat.lt_of_lt_of_le hxl hb.size; have r0 := cell_heap hx3 0; have r1 := cell_heap hx3 1; have r2 := cell_heap hx3 2; have r3 := cell_heap hx3 3; have r4 := cell_heap hx3 4; have hg := cells_of hg hb hgl; have hgl := Nat.lt_of_lt_of_le hgl hb.size; have hbel := hbel.trans (hb.mono hbel.size); have q0 := cell_heap hg 0; have q1 := cell_heap hg 1; have q2 := cell_heap hg 2; have q3 := cell_heap hg 3; have q4 := cell_heap hg 4) | (go_at_call 20; refine (CMx _).mono ?_; rintro e w17 ⟨rfl, hb⟩; have hx3 := cells_of hx3 hb hxl; have hxl := Nat.lt_of_lt_of_le hxl hb.size; have r0 := cell_heap hx3 0; have r1 := cell_heap hx3 1; have r2 := cell_heap hx3 2; have r3 := cell_heap hx3 3; have r4 := cell_heap hx3 4; have hg := cells_of hg hb hgl; have hgl := Nat.lt_of_lt_of_le hgl hb.size; have hbel := hbel.trans (hb.mono hbel.size); have q0 := cell_heap hg 0; have q1 := cell_heap hg 1; have q2 := cell_heap hg 2; have q3 := cell_heap hg 3; have q4 := cell_heap hg 4))
      go_ret
      exact ⟨rfl, hbel⟩
    · have hz := decS_err (v := v) (by rw [hx]; exact hf)
      rw [hx] at hz
      simp only [St.zero, St.mk.injEq] at hz
      obtain ⟨rfl, rfl, rfl, rfl, rfl⟩ := hz
      simp only [St.val] at CD3
      have hf0 : (f == 0) = false := beq_eq_false_iff_ne.2 hf
      clear hx
      go_enter Try.func7, Try.ntmps7
      go_upto_region 5 with (go_at_call 14; refine (first15_any _).mono ?_; rintro e wa ⟨rfl, hba⟩; obtain ⟨hx1, _⟩ := bcell hba)
      have hg := cells_of hg0 hba (by simp)
      have q0 := cell_heap hg 0; have q1 := cell_heap hg 1; have q2 := cell_heap hg 2; have q3 := cell_heap hg 3; have q4 := cell_heap hg 4
      have hbel := hbA.trans (hba.mono hbA.size)
      have hgl := (Array.getElem?_eq_some_iff.1 hg).1
      clear hx1 hba hg0 hbA
      go_upto_region 6 with (go_at_call 15; refine (CE _).mono ?_; rintro e w1 ⟨rfl, hb⟩; have hg := cells_of hg hb hgl; have hgl := Nat.lt_of_lt_of_le hgl hb.size; have hbel := hbel.trans (hb.mono hbel.size); have q0 := cell_heap hg 0; have q1 := cell_heap hg 1; have q2 := cell_heap hg 2; have q3 := cell_heap hg 3; have q4 := cell_heap hg 4)
      go_upto_region 13 with (go_at_call 20; refine (CM _).mono ?_; rintro e w2 ⟨rfl, hb⟩; have hg := cells_of hg hb hgl; have hgl := Nat.lt_of_lt_of_le hgl hb.size; have hbel := hbel.trans (hb.mono hbel.size); have q0 := cell_heap hg 0; have q1 := cell_heap hg 1; have q2 := cell_heap hg 2; have q3 := cell_heap hg 3; have q4 := cell_heap hg 4)
      go_upto_region 14 with (go_at_call 18; refine (CD3 _).mono ?_; rintro e w13 ⟨rfl, hb⟩; have hg := cells_of hg hb hgl; have hgl := Nat.lt_of_lt_of_le hgl hb.size; have hbel := hbel.trans (hb.mono hbel.size); have q0 := cell_heap hg 0; have q1 := cell_heap hg 1; have q2 := cell_heap hg 2; have q3 := cell_heap hg 3; have q4 := cell_heap hg 4)
      refine wp_nameE _ (fun W14 hW => ?_)
      have hb := (show Below w13.heap.size w13 W14 by rw [hW]; exact Below.alloc (Below.refl _ _) (Nat.le_refl _) _)
      have hx3 : W14.heap[w13.heap.size]? = some (.cells #[.string ⟨#[]⟩, .int .i64 0, .bool false, .bool false, .int .i64 0] 43 (0, 0)) := by
        rw [hW]; show (w13.heap.push _)[w13.heap.size]? = _; rw [Array.getElem?_push_size]
      have hg := cells_of hg hb hgl
      have hgl := Nat.lt_of_lt_of_le hgl hb.size
      have hbel := hbel.trans (hb.mono hbel.size)
      have q0 := cell_heap hg 0
      have q1 := cell_heap hg 1
      have q2 := cell_heap hg 2
      have q3 := cell_heap hg 3
      have q4 := cell_heap hg 4
      clear hW
      have r0 := cell_heap hx3 0
      have r1 := cell_heap hx3 1
      have r2 := cell_heap hx3 2
      have r3 := cell_heap hx3 3
      have r4 := cell_heap hx3 4
      have hxl := (Array.getElem?_eq_some_iff.1 hx3).1
      go_wp2
      go_ret
      exact ⟨rfl, hbel⟩
  · simp only [hM] at CM
    obtain ⟨S, hS⟩ : ∃ S : ByteArray, (⟨(encS ⟨p, c, o, cl, st⟩).toArray⟩ : ByteArray) = S := ⟨_, rfl⟩
    have hSl : S.data.toList = encS ⟨p, c, o, cl, st⟩ := by rw [← hS]
    have hlen := encS_len hM
    have hSz : S.size ≤ 52 := by rw [← str_len, hSl]; exact hlen
    have henc : encV ⟨p, c, o, cl, st⟩ = .tuple #[.string S, .int .i64 0] := by unfold encV; rw [hM, ← hS]; rfl
    simp only [henc] at CE
    have CD1 := fun W => decode_any S W (by omega)
    have CD2 := fun W => decode_any (S ++ ⟨#[97]⟩) W (by have h : (S ++ ⟨#[97]⟩ : ByteArray).size = S.size + 1 := (by rw [ByteArray.size_append]; rfl); omega)
    simp only [decS_enc hM hSl] at CD1
    simp only [decS_more hM (show (S ++ ⟨#[97]⟩ : ByteArray).data.toList = encS ⟨p, c, o, cl, st⟩ ++ (97 :: []) by rw [← hSl]; simp)] at CD2
    simp only [St.val, St.zero] at CD1 CD2
    have hcat : ¬ 9223372036854775807 < S.size + 1 := by omega
    have h64 : decide (64 < (S.size : Int)) = false := decide_eq_false (by omega)
    clear hS hSl henc hlen hM
    by_cases hf : f = 0
    · subst hf
      have hb2 := decS_back (v := v) (by rw [hx])
      rw [hx] at hb2
      simp only at hb2
      obtain ⟨hMx, hEx⟩ := hb2
      have hxp : xp.size ≤ maxLen := by have := (mayE_bounds (mayS_bounds hMx).1).1; simp only at this; unfold maxLen; omega
      have CEx := fun W => encode_any xp xc xo xcl xst W hxp
      have CMx := fun W => mayS_any xp xc xo xcl xst W hxp
      have hencx : encV ⟨xp, xc, xo, xcl, xst⟩ = .tuple #[.string v, .int .i64 0] := by
        unfold encV; rw [hMx, hEx]; rfl
      simp only [hencx] at CEx
      simp only [hMx] at CMx
      simp only [St.val] at CD3
      clear hencx hMx hEx hx
      go_enter Try.func7, Try.ntmps7
      go_upto_region 5 with (go_at_call 14; refine (first15_any _).mono ?_; rintro e wa ⟨rfl, hba⟩; obtain ⟨hx1, _⟩ := bcell hba)
      have hg := cells_of hg0 hba (by simp)
      have q0 := cell_heap hg 0; have q1 := cell_heap hg 1; have q2 := cell_heap hg 2; have q3 := cell_heap hg 3; have q4 := cell_heap hg 4
      have hbel := hbA.trans (hba.mono hbA.size)
      have hgl := (Array.getElem?_eq_some_iff.1 hg).1
      clear hx1 hba hg0 hbA
      go_upto_region 6 with (go_at_call 15; refine (CE _).mono ?_; rintro e w1 ⟨rfl, hb⟩; have hg := cells_of hg hb hgl; have hgl := Nat.lt_of_lt_of_le hgl hb.size; have hbel := hbel.trans (hb.mono hbel.size); have q0 := cell_heap hg 0; have q1 := cell_heap hg 1; have q2 := cell_heap hg 2; have q3 := cell_heap hg 3; have q4 := cell_heap hg 4)
      go_upto_region 9 with (go_at_call 20; refine (CM _).mono ?_; rintro e w2 ⟨rfl, hb⟩; have hg := cells_of hg hb hgl; have hgl := Nat.lt_of_lt_of_le hgl hb.size; have hbel := hbel.trans (hb.mono hbel.size); have q0 := cell_heap hg 0; have q1 := cell_heap hg 1; have q2 := cell_heap hg 2; have q3 := cell_heap hg 3; have q4 := cell_heap hg 4)
      go_upto_region 10 with (go_at_call 18; refine (CD1 _).mono ?_; rintro e w9 ⟨rfl, hb⟩; have hg := cells_of hg hb hgl; have hgl := Nat.lt_of_lt_of_le hgl hb.size; have hbel := hbel.trans (hb.mono hbel.size); have q0 := cell_heap hg 0; have q1 := cell_heap hg 1; have q2 := cell_heap hg 2; have q3 := cell_heap hg 3; have q4 := cell_heap hg 4)
      refine wp_nameE _ (fun W10 hW => ?_)
      have hb := (show Below w9.heap.size w9 W10 by rw [hW]; exact Below.alloc (Below.refl _ _) (Nat.le_refl _) _)
      have hx1 : W10.heap[w9.heap.size]? = some (.cells #[.string p, .int .i64 c, .bool o, .bool cl, .int .i64 st] 43 (0, 0)) := by
        rw [hW]; show (w9.heap.push _)[w9.heap.size]? = _; rw [Array.getElem?_push_size]
      have hg := cells_of hg hb hgl
      have hgl := Nat.lt_of_lt_of_le hgl hb.size
      have hbel := hbel.trans (hb.mono hbel.size)
      have q0 := cell_heap hg 0
      have q1 := cell_heap hg 1
      have q2 := cell_heap hg 2
      have q3 := cell_heap hg 3
      have q4 := cell_heap hg 4
      clear hW
      go_upto_region 11 with (go_at_call 18; refine (CD2 _).mono ?_; rintro e w10 ⟨rfl, hb⟩; have hx1 := cells_of hx1 hb (Array.getElem?_eq_some_iff.1 hx1).1; have hg := cells_of hg hb hgl; have hgl := Nat.lt_of_lt_of_le hgl hb.size; have hbel := hbel.trans (hb.mono hbel.size); have q0 := cell_heap hg 0; have q1 := cell_heap hg 1; have q2 := cell_heap hg 2; have q3 := cell_heap hg 3; have q4 := cell_heap hg 4)
      refine wp_nameE _ (fun W11 hW => ?_)
      have hb := (show Below w10.heap.size w10 W11 by rw [hW]; exact Below.alloc (Below.refl _ _) (Nat.le_refl _) _)
      have hx2 : W11.heap[w10.heap.size]? = some (.cells #[.string ⟨#[]⟩, .int .i64 0, .bool false, .bool false, .int .i64 0] 43 (0, 0)) := by
        rw [hW]; show (w10.heap.push _)[w10.heap.size]? = _; rw [Array.getElem?_push_size]
      have hx1 := cells_of hx1 hb (Array.getElem?_eq_some_iff.1 hx1).1
      have hg := cells_of hg hb hgl
      have hgl := Nat.lt_of_lt_of_le hgl hb.size
      have hbel := hbel.trans (hb.mono hbel.size)
      have q0 := cell_heap hg 0
      have q1 := cell_heap hg 1
      have q2 := cell_heap hg 2
      have q3 := cell_heap hg 3
      have q4 := cell_heap hg 4
      clear hW
      have r0 := cell_heap hx1 0
      have r1 := cell_heap hx1 1
      have r2 := cell_heap hx1 2
      have r3 := cell_heap hx1 3
      have r4 := cell_heap hx1 4
      go_upto_region 13 with fail
      go_upto_region 14 with (go_at_call 18; refine (CD3 _).mono ?_; rintro e w13 ⟨rfl, hb⟩; have hg := cells_of hg hb hgl; have hgl := Nat.lt_of_lt_of_le hgl hb.size; have hbel := hbel.trans (hb.mono hbel.size); have q0 := cell_heap hg 0; have q1 := cell_heap hg 1; have q2 := cell_heap hg 2; have q3 := cell_heap hg 3; have q4 := cell_heap hg 4)
      refine wp_nameE _ (fun W14 hW => ?_)
      have hb := (show Below w13.heap.size w13 W14 by rw [hW]; exact Below.alloc (Below.refl _ _) (Nat.le_refl _) _)
      have hx3 : W14.heap[w13.heap.size]? = some (.cells #[.string xp, .int .i64 xc, .bool xo, .bool xcl, .int .i64 xst] 43 (0, 0)) := by
        rw [hW]; show (w13.heap.push _)[w13.heap.size]? = _; rw [Array.getElem?_push_size]
      have hg := cells_of hg hb hgl
      have hgl := Nat.lt_of_lt_of_le hgl hb.size
      have hbel := hbel.trans (hb.mono hbel.size)
      have q0 := cell_heap hg 0
      have q1 := cell_heap hg 1
      have q2 := cell_heap hg 2
      have q3 := cell_heap hg 3
      have q4 := cell_heap hg 4
      clear hW
      have r0 := cell_heap hx3 0
      have r1 := cell_heap hx3 1
      have r2 := cell_heap hx3 2
      have r3 := cell_heap hx3 3
      have r4 := cell_heap hx3 4
      have hxl := (Array.getElem?_eq_some_iff.1 hx3).1
      go_wp2_with (first | (go_at_call 15; refine (CEx _).mono ?_; rintro e w16 ⟨rfl, hb⟩; have hx3 := cells_of hx3 hb hxl; have hxl := Nat.lt_of_lt_of_le hxl hb.size; have r0 := cell_heap hx3 0; have r1 := cell_heap hx3 1; have r2 := cell_heap hx3 2; have r3 := cell_heap hx3 3; have r4 := cell_heap hx3 4; have hg := cells_of hg hb hgl; have hgl := Nat.lt_of_lt_of_le hgl hb.size; have hbel := hbel.trans (hb.mono hbel.size); have q0 := cell_heap hg 0; have q1 := cell_heap hg 1; have q2 := cell_heap hg 2; have q3 := cell_heap hg 3; have q4 := cell_heap hg 4) | (go_at_call 20; refine (CMx _).mono ?_; rintro e w17 ⟨rfl, hb⟩; have hx3 := cells_of hx3 hb hxl; have hxl := Nat.lt_of_lt_of_le hxl hb.size; have r0 := cell_heap hx3 0; have r1 := cell_heap hx3 1; have r2 := cell_heap hx3 2; have r3 := cell_heap hx3 3; have r4 := cell_heap hx3 4; have hg := cells_of hg hb hgl; have hgl := Nat.lt_of_lt_of_le hgl hb.size; have hbel := hbel.trans (hb.mono hbel.size); have q0 := cell_heap hg 0; have q1 := cell_heap hg 1; have q2 := cell_heap hg 2; have q3 := cell_heap hg 3; have q4 := cell_heap hg 4))
      go_ret
      exact ⟨rfl, hbel⟩
    · have hz := decS_err (v := v) (by rw [hx]; exact hf)
      rw [hx] at hz
      simp only [St.zero, St.mk.injEq] at hz
      obtain ⟨rfl, rfl, rfl, rfl, rfl⟩ := hz
      simp only [St.val] at CD3
      have hf0 : (f == 0) = false := beq_eq_false_iff_ne.2 hf
      clear hx
      go_enter Try.func7, Try.ntmps7
      go_upto_region 5 with (go_at_call 14; refine (first15_any _).mono ?_; rintro e wa ⟨rfl, hba⟩; obtain ⟨hx1, _⟩ := bcell hba)
      have hg := cells_of hg0 hba (by simp)
      have q0 := cell_heap hg 0; have q1 := cell_heap hg 1; have q2 := cell_heap hg 2; have q3 := cell_heap hg 3; have q4 := cell_heap hg 4
      have hbel := hbA.trans (hba.mono hbA.size)
      have hgl := (Array.getElem?_eq_some_iff.1 hg).1
      clear hx1 hba hg0 hbA
      go_upto_region 6 with (go_at_call 15; refine (CE _).mono ?_; rintro e w1 ⟨rfl, hb⟩; have hg := cells_of hg hb hgl; have hgl := Nat.lt_of_lt_of_le hgl hb.size; have hbel := hbel.trans (hb.mono hbel.size); have q0 := cell_heap hg 0; have q1 := cell_heap hg 1; have q2 := cell_heap hg 2; have q3 := cell_heap hg 3; have q4 := cell_heap hg 4)
      go_upto_region 9 with (go_at_call 20; refine (CM _).mono ?_; rintro e w2 ⟨rfl, hb⟩; have hg := cells_of hg hb hgl; have hgl := Nat.lt_of_lt_of_le hgl hb.size; have hbel := hbel.trans (hb.mono hbel.size); have q0 := cell_heap hg 0; have q1 := cell_heap hg 1; have q2 := cell_heap hg 2; have q3 := cell_heap hg 3; have q4 := cell_heap hg 4)
      go_upto_region 10 with (go_at_call 18; refine (CD1 _).mono ?_; rintro e w9 ⟨rfl, hb⟩; have hg := cells_of hg hb hgl; have hgl := Nat.lt_of_lt_of_le hgl hb.size; have hbel := hbel.trans (hb.mono hbel.size); have q0 := cell_heap hg 0; have q1 := cell_heap hg 1; have q2 := cell_heap hg 2; have q3 := cell_heap hg 3; have q4 := cell_heap hg 4)
      refine wp_nameE _ (fun W10 hW => ?_)
      have hb := (show Below w9.heap.size w9 W10 by rw [hW]; exact Below.alloc (Below.refl _ _) (Nat.le_refl _) _)
      have hx1 : W10.heap[w9.heap.size]? = some (.cells #[.string p, .int .i64 c, .bool o, .bool cl, .int .i64 st] 43 (0, 0)) := by
        rw [hW]; show (w9.heap.push _)[w9.heap.size]? = _; rw [Array.getElem?_push_size]
      have hg := cells_of hg hb hgl
      have hgl := Nat.lt_of_lt_of_le hgl hb.size
      have hbel := hbel.trans (hb.mono hbel.size)
      have q0 := cell_heap hg 0
      have q1 := cell_heap hg 1
      have q2 := cell_heap hg 2
      have q3 := cell_heap hg 3
      have q4 := cell_heap hg 4
      clear hW
      go_upto_region 11 with (go_at_call 18; refine (CD2 _).mono ?_; rintro e w10 ⟨rfl, hb⟩; have hx1 := cells_of hx1 hb (Array.getElem?_eq_some_iff.1 hx1).1; have hg := cells_of hg hb hgl; have hgl := Nat.lt_of_lt_of_le hgl hb.size; have hbel := hbel.trans (hb.mono hbel.size); have q0 := cell_heap hg 0; have q1 := cell_heap hg 1; have q2 := cell_heap hg 2; have q3 := cell_heap hg 3; have q4 := cell_heap hg 4)
      refine wp_nameE _ (fun W11 hW => ?_)
      have hb := (show Below w10.heap.size w10 W11 by rw [hW]; exact Below.alloc (Below.refl _ _) (Nat.le_refl _) _)
      have hx2 : W11.heap[w10.heap.size]? = some (.cells #[.string ⟨#[]⟩, .int .i64 0, .bool false, .bool false, .int .i64 0] 43 (0, 0)) := by
        rw [hW]; show (w10.heap.push _)[w10.heap.size]? = _; rw [Array.getElem?_push_size]
      have hx1 := cells_of hx1 hb (Array.getElem?_eq_some_iff.1 hx1).1
      have hg := cells_of hg hb hgl
      have hgl := Nat.lt_of_lt_of_le hgl hb.size
      have hbel := hbel.trans (hb.mono hbel.size)
      have q0 := cell_heap hg 0
      have q1 := cell_heap hg 1
      have q2 := cell_heap hg 2
      have q3 := cell_heap hg 3
      have q4 := cell_heap hg 4
      clear hW
      have r0 := cell_heap hx1 0
      have r1 := cell_heap hx1 1
      have r2 := cell_heap hx1 2
      have r3 := cell_heap hx1 3
      have r4 := cell_heap hx1 4
      go_upto_region 13 with fail
      go_upto_region 14 with (go_at_call 18; refine (CD3 _).mono ?_; rintro e w13 ⟨rfl, hb⟩; have hg := cells_of hg hb hgl; have hgl := Nat.lt_of_lt_of_le hgl hb.size; have hbel := hbel.trans (hb.mono hbel.size); have q0 := cell_heap hg 0; have q1 := cell_heap hg 1; have q2 := cell_heap hg 2; have q3 := cell_heap hg 3; have q4 := cell_heap hg 4)
      refine wp_nameE _ (fun W14 hW => ?_)
      have hb := (show Below w13.heap.size w13 W14 by rw [hW]; exact Below.alloc (Below.refl _ _) (Nat.le_refl _) _)
      have hx3 : W14.heap[w13.heap.size]? = some (.cells #[.string ⟨#[]⟩, .int .i64 0, .bool false, .bool false, .int .i64 0] 43 (0, 0)) := by
        rw [hW]; show (w13.heap.push _)[w13.heap.size]? = _; rw [Array.getElem?_push_size]
      have hg := cells_of hg hb hgl
      have hgl := Nat.lt_of_lt_of_le hgl hb.size
      have hbel := hbel.trans (hb.mono hbel.size)
      have q0 := cell_heap hg 0
      have q1 := cell_heap hg 1
      have q2 := cell_heap hg 2
      have q3 := cell_heap hg 3
      have q4 := cell_heap hg 4
      clear hW
      have r0 := cell_heap hx3 0
      have r1 := cell_heap hx3 1
      have r2 := cell_heap hx3 2
      have r3 := cell_heap hx3 3
      have r4 := cell_heap hx3 4
      have hxl := (Array.getElem?_eq_some_iff.1 hx3).1
      go_wp2
      go_ret
      exact ⟨rfl, hbel⟩
end Go.Proofs.Ytekhmdjpkngglaa
