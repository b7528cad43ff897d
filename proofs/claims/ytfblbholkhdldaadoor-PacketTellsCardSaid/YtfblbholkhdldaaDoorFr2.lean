/- Records out of bytes. -/
import Derived.Test.YtfblbholkhdldaaDoorFr1
import Derived.Test.YtfblbholkhdldaaDoorGA
import Derived.WalkKit
import Derived.ProofKit
import Derived.Handy
import Derived.Below
import Derived.Lib.Hide
import Derived.IntWalk
import Derived.Outline
import Derived.WalkLawsBesides
import Derived.WalkSpells
namespace Go.Proofs.YtfblbholkhdldaaDoor
open Go.RowKit
attribute [local go_sem] strV
set_option linter.unusedVariables false
def byb (L : ByteArray) (i : Nat) : Nat := (L.data.toList.getD i 0).toNat
/-- The number that the first four bytes tell. -/
def val4 (L : ByteArray) : Nat := byb L 0 * 16777216 + byb L 1 * 65536 + byb L 2 * 256 + byb L 3
def nextFr (s : ByteArray) (a : Int) : ByteArray × Int × Int :=
  if a < 0 ∨ (s.size : Int) < a then (⟨#[]⟩, 0, 1)
  else
    let L := s.extract a.toNat s.size
    if L.size < 8 then (⟨#[]⟩, 0, 2)
    else if 2147483647 < val4 L then (⟨#[]⟩, 0, 4)
    else if L.size < 8 + val4 L then (⟨#[]⟩, 0, 2)
    else
      let b := L.extract 8 (8 + val4 L)
      if L.extract 4 8 = ⟨(chk b.data.toList).toArray⟩ then (b, a + 8 + val4 L, 0) else (⟨#[]⟩, 0, 5)
theorem byb_lt (L : ByteArray) (i : Nat) : byb L i < 256 := UInt8.toNat_lt _
theorem byb_get {L : ByteArray} {i : Nat} (h : i < L.size) : ∃ c : UInt8, L[i]? = some c ∧ c.toNat = byb L i ∧ L[i] = c := by
  refine ⟨L[i], getElem?_pos L i h, ?_, rfl⟩
  unfold byb
  rw [List.getD_eq_getElem?_getD, List.getElem?_eq_getElem (by rw [str_len]; exact h)]
  rfl
theorem or4 (a b c d : Nat) (ha : a < 256) (hb : b < 256) (hc : c < 256) (hd : d < 256) :
    bits .or .i64 (bits .or .i64 (bits .or .i64 ((a : Int) * 16777216) ((b : Int) * 65536)) ((c : Int) * 256)) (d : Int) = ((a * 16777216 + b * 65536 + c * 256 + d : Nat) : Int) := by
  have e1 : bits .or .i64 ((a : Int) * 16777216) ((b : Int) * 65536) = ((a * 16777216 + b * 65536 : Nat) : Int) := by
    have := i64_or_nat (a * 16777216) (b * 65536) (by omega) (by omega)
    rw [nat_join 24 (a * 16777216) (b * 65536) (by omega) (by omega)] at this
    exact this
  have e2 : bits .or .i64 ((a * 16777216 + b * 65536 : Nat) : Int) ((c : Int) * 256) = ((a * 16777216 + b * 65536 + c * 256 : Nat) : Int) := by
    have := i64_or_nat (a * 16777216 + b * 65536) (c * 256) (by omega) (by omega)
    rw [nat_join 16 (a * 16777216 + b * 65536) (c * 256) (by omega) (by omega)] at this
    exact this
  have e3 : bits .or .i64 ((a * 16777216 + b * 65536 + c * 256 : Nat) : Int) (d : Int) = ((a * 16777216 + b * 65536 + c * 256 + d : Nat) : Int) := by
    have := i64_or_nat (a * 16777216 + b * 65536 + c * 256) d (by omega) (by omega)
    rw [nat_join 8 (a * 16777216 + b * 65536 + c * 256) d (by omega) (by omega)] at this
    exact this
  rw [e1, e2, e3]
set_option maxRecDepth 100000 in
set_option maxHeartbeats 6400000 in
theorem fnext_any (s : ByteArray) (a : Int) (w : World) (hW : SW w) (hs : s.size ≤ 1000000) :
    Calls Tryd.prog 49 #[.string s, .int .i64 a] w fun e w' => e = .returned (.tuple #[.string (nextFr s a).1, .int .i64 (nextFr s a).2.1, .int .i64 (nextFr s a).2.2]) ∧ Below w.heap.size w w' := by
  by_cases c1 : a < 0
  · have d1 : decide (a < 0) = true := decide_eq_true c1
    have HR : Hid (nextFr s a = (⟨#[]⟩, 0, 1)) := Lib.hid (by unfold nextFr; rw [if_pos (.inl c1)])
    go_enter Tryd.func49, Tryd.ntmps49
    go_wp2
    go_returns
    exact ⟨by rw [HR.out]; first | rfl | simp, Below.refl _ _⟩
  have d1 : decide (a < 0) = false := decide_eq_false c1
  by_cases c2 : (s.size : Int) < a
  · have d2 : decide ((s.size : Int) < a) = true := decide_eq_true c2
    have HR : Hid (nextFr s a = (⟨#[]⟩, 0, 1)) := Lib.hid (by unfold nextFr; rw [if_pos (.inr c2)])
    go_enter Tryd.func49, Tryd.ntmps49
    go_wp2
    go_returns
    exact ⟨by rw [HR.out]; first | rfl | simp, Below.refl _ _⟩
  have d2 : decide ((s.size : Int) < a) = false := decide_eq_false c2
  obtain ⟨A, rfl⟩ : ∃ A : Nat, a = A := ⟨a.toNat, by omega⟩
  have n1 : (0 : Int) ≤ (A : Int) := by omega
  have n2 : (A : Int) ≤ (s.size : Int) := by omega
  have n3 : ((A : Nat) : Int).toNat = A := by omega
  obtain ⟨L, hL⟩ : ∃ L, s.extract A s.size = L := ⟨_, rfl⟩
  have hLs : L.size ≤ s.size - A := by rw [← hL]; simp
  have HN : Hid (nextFr s (A : Int) = (if L.size < 8 then (⟨#[]⟩, 0, 2) else if 2147483647 < val4 L then (⟨#[]⟩, 0, 4) else if L.size < 8 + val4 L then (⟨#[]⟩, 0, 2) else if L.extract 4 8 = ⟨(chk (L.extract 8 (8 + val4 L)).data.toList).toArray⟩ then (L.extract 8 (8 + val4 L), (A : Int) + 8 + val4 L, 0) else (⟨#[]⟩, 0, 5))) := Lib.hid (by
    unfold nextFr
    rw [if_neg (by omega), n3, hL])
  by_cases c3 : L.size < 8
  · have d3 : decide ((L.size : Int) < 8) = true := decide_eq_true (by omega)
    go_enter Tryd.func49, Tryd.ntmps49
    go_upto_region 4 with fail
    go_wp2
    go_returns
    exact ⟨by rw [HN.out, if_pos c3]; first | rfl | simp, Below.refl _ _⟩
  have d3 : decide ((L.size : Int) < 8) = false := decide_eq_false (by omega)
  obtain ⟨x0, h0, hx0, g0⟩ := byb_get (L := L) (i := 0) (by omega)
  obtain ⟨x1, h1, hx1, g1⟩ := byb_get (L := L) (i := 1) (by omega)
  obtain ⟨x2, h2, hx2, g2⟩ := byb_get (L := L) (i := 2) (by omega)
  obtain ⟨x3, h3, hx3, g3⟩ := byb_get (L := L) (i := 3) (by omega)
  have hor := or4 (byb L 0) (byb L 1) (byb L 2) (byb L 3) (byb_lt _ _) (byb_lt _ _) (byb_lt _ _) (byb_lt _ _)
  have hv4 : byb L 0 * 16777216 + byb L 1 * 65536 + byb L 2 * 256 + byb L 3 = val4 L := rfl
  have b0 := byb_lt L 0; have b1 := byb_lt L 1; have b2 := byb_lt L 2; have b3 := byb_lt L 3
  obtain ⟨y0, hy0⟩ : ∃ y, byb L 0 = y := ⟨_, rfl⟩
  obtain ⟨y1, hy1⟩ : ∃ y, byb L 1 = y := ⟨_, rfl⟩
  obtain ⟨y2, hy2⟩ : ∃ y, byb L 2 = y := ⟨_, rfl⟩
  obtain ⟨y3, hy3⟩ : ∃ y, byb L 3 = y := ⟨_, rfl⟩
  rw [hy0, hy1, hy2, hy3] at hor hv4
  rw [hy0] at hx0 b0
  rw [hy1] at hx1 b1
  rw [hy2] at hx2 b2
  rw [hy3] at hx3 b3
  rw [hv4] at hor
  obtain ⟨v, hv⟩ : ∃ v, val4 L = v := ⟨_, rfl⟩
  rw [hv] at hor HN
  have hvb : v ≤ 4294967295 := by rw [← hv, ← hv4]; omega
  have s1 : (0 : Int) < (L.size : Int) := by omega
  have s2 : (1 : Int) < (L.size : Int) := by omega
  have s3 : (2 : Int) < (L.size : Int) := by omega
  have s4 : (3 : Int) < (L.size : Int) := by omega
  have o1 : IntKind.i64.wrap ((y0 : Int) * 16777216) = (y0 : Int) * 16777216 := IntWalk.i64_in _ (by omega)
  have o2 : IntKind.i64.wrap ((y1 : Int) * 65536) = (y1 : Int) * 65536 := IntWalk.i64_in _ (by omega)
  have o3 : IntKind.i64.wrap ((y2 : Int) * 256) = (y2 : Int) * 256 := IntWalk.i64_in _ (by omega)
  clear hy0 hy1 hy2 hy3 hv4 hv
  go_enter Tryd.func49, Tryd.ntmps49
  go_upto_region 4 with fail
  go_upto_region 6 with fail
  go_quiet (fail)
  go_upto_region 7 with fail
  refine wp_nameE _ (fun W hX => ?_)
  have hbel : Below w.heap.size w W := by rw [hX]; exact drewN_below _ _
  have hW := hW.below hbel
  clear hX hor h0 h1 h2 h3 g0 g1 g2 g3 o1 o2 o3 s1 s2 s3 s4 d1 d2 d3
  have e1 : IntKind.i64.wrap ((L.size : Int) - 8) = (L.size : Int) - 8 := IntWalk.i64_in _ (by omega)
  have e2 : IntKind.i64.wrap (8 + (v : Int)) = 8 + (v : Int) := IntWalk.i64_in _ (by omega)
  have e3 : IntKind.i64.wrap ((A : Int) + 8) = (A : Int) + 8 := IntWalk.i64_in _ (by omega)
  have e4 : IntKind.i64.wrap ((A : Int) + 8 + (v : Int)) = (A : Int) + 8 + (v : Int) := IntWalk.i64_in _ (by omega)
  have e5 : (8 + (v : Int)).toNat = 8 + v := by omega
  by_cases c4 : 2147483647 < v
  · have d4 : decide (2147483647 < (v : Int)) = true := decide_eq_true (by omega)
    go_wp2
    go_returns
    exact ⟨by rw [HN.out, if_neg c3, if_pos c4]; first | rfl | simp, hbel⟩
  have d4 : decide (2147483647 < (v : Int)) = false := decide_eq_false (by omega)
  by_cases c5 : L.size < 8 + v
  · have d5 : decide ((L.size : Int) - 8 < (v : Int)) = true := decide_eq_true (by omega)
    go_wp2
    go_returns
    exact ⟨by rw [HN.out, if_neg c3, if_neg c4, if_pos c5]; first | rfl | simp, hbel⟩
  have d5 : decide ((L.size : Int) - 8 < (v : Int)) = false := decide_eq_false (by omega)
  have m1 : (8 : Int) ≤ 8 + (v : Int) := by omega
  have m2 : 8 + (v : Int) ≤ (L.size : Int) := by omega
  have m3 : (8 : Int) ≤ (L.size : Int) := by omega
  obtain ⟨b, hb⟩ : ∃ b, L.extract 8 (8 + v) = b := ⟨_, rfl⟩
  obtain ⟨K, hK⟩ : ∃ b, L.extract 4 8 = b := ⟨_, rfl⟩
  have hbs : b.size ≤ 2147483647 := by rw [← hb]; simp; omega
  rw [hb, hK] at HN
  obtain ⟨C, hC⟩ : ∃ C : ByteArray, (⟨(chk b.data.toList).toArray⟩ : ByteArray) = C := ⟨_, rfl⟩
  have CKn : ∀ m : Beyond W, Calls Tryd.prog 81 #[.string b] m.x fun e w' => e = .returned (.string C) ∧ Below m.x.heap.size m.x w' := fun m => by
    have := checksum_any b m.x (hW.below m.h) hbs
    rw [hC] at this
    exact this
  rw [hC] at HN
  clear hC hbs
  by_cases hKC : K = C
  · have dk : (K.toList == C.toList) = true := by rw [hKC]; simp
    go_upto_region 12 with fail
    refine wp_region_below (by kernel_rfl) (by kernel_rfl) ?_
    repeat (go_big_quiet_step ((go_at_call 81; exact quiet_below (CKn _))))
    intro w9 hw9
    have hb9 := beyond_below hw9
    go_wp2
    go_returns
    exact ⟨by rw [HN.out, if_neg c3, if_neg c4, if_neg c5, if_pos hKC]; first | rfl | simp, hbel.trans (hb9.mono hbel.size)⟩
  · have dk : (K.toList == C.toList) = false := beq_eq_false_iff_ne.2 (fun e => hKC (by rw [ByteArray.toList_eq, ByteArray.toList_eq] at e; exact ByteArray.ext (Array.ext' e)))
    go_upto_region 12 with fail
    refine wp_region_below (by kernel_rfl) (by kernel_rfl) ?_
    repeat (go_big_quiet_step ((go_at_call 81; exact quiet_below (CKn _))))
    intro w9 hw9
    have hb9 := beyond_below hw9
    go_wp2
    go_returns
    exact ⟨by rw [HN.out, if_neg c3, if_neg c4, if_neg c5, if_neg hKC]; first | rfl | simp, hbel.trans (hb9.mono hbel.size)⟩
/-- What Open answers. -/
def openFr (s : ByteArray) : ByteArray × Int :=
  let x := nextFr s 0
  if x.2.2 = 0 then (if x.2.1 < (s.size : Int) then (⟨#[]⟩, 3) else (x.1, 0)) else (⟨#[]⟩, x.2.2)
set_option maxRecDepth 100000 in
set_option maxHeartbeats 6400000 in
theorem fopen_any (s : ByteArray) (w : World) (hW : SW w) (hs : s.size ≤ 1000000) :
    Calls Tryd.prog 51 #[.string s] w fun e w' => e = .returned (.tuple #[.string (openFr s).1, .int .i64 (openFr s).2]) ∧ Below w.heap.size w w' := by
  have CN := fnext_any s 0 w hW hs
  obtain ⟨⟨b, n, e⟩, hx⟩ : ∃ t, nextFr s 0 = t := ⟨_, rfl⟩
  have HO : Hid (openFr s = if e = 0 then (if n < (s.size : Int) then (⟨#[]⟩, 3) else (b, 0)) else (⟨#[]⟩, e)) := Lib.hid (by unfold openFr; rw [hx])
  simp only [hx] at CN
  clear hx
  by_cases he : e = 0
  · subst he
    by_cases hn : n < (s.size : Int)
    · have d1 : decide (n < (s.size : Int)) = true := decide_eq_true hn
      go_enter Tryd.func51, Tryd.ntmps51
      go_wp2_with (go_at_call 49; refine CN.mono ?_; rintro e w1 ⟨rfl, hb1⟩)
      go_returns
      exact ⟨by rw [HO.out, if_pos trivial, if_pos hn]; first | rfl | simp, hb1⟩
    · have d1 : decide (n < (s.size : Int)) = false := decide_eq_false hn
      go_enter Tryd.func51, Tryd.ntmps51
      go_wp2_with (go_at_call 49; refine CN.mono ?_; rintro e w1 ⟨rfl, hb1⟩)
      go_returns
      exact ⟨by rw [HO.out, if_pos trivial, if_neg (by omega)]; first | rfl | simp, hb1⟩
  · have d0 : (e == 0) = false := beq_eq_false_iff_ne.2 he
    go_enter Tryd.func51, Tryd.ntmps51
    go_wp2_with (go_at_call 49; refine CN.mono ?_; rintro e w1 ⟨rfl, hb1⟩)
    go_returns
    exact ⟨by rw [HO.out, if_neg he]; first | rfl | simp, hb1⟩
end Go.Proofs.YtfblbholkhdldaaDoor
