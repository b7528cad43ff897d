/- FrameTurned, walked. -/
import Derived.Test.YtfblbholkhdldaaDoorFrM
import Derived.Lib.ConvBytes
import Derived.WalkKit
import Derived.ProofKit
import Derived.Handy
import Derived.Below
import Derived.Lib.Hide
import Derived.IntWalk
import Derived.Outline
import Derived.WalkLawsBesides
import Derived.WalkSpells
namespace Go.Proofs.YtfblbholkhdldaaDoor
open Go.RowKit
attribute [local go_sem] strV
set_option linter.unusedVariables false
theorem put_empty : putB ⟨#[]⟩ = ⟨#[0, 0, 0, 0, 227, 176, 196, 66]⟩ := by decide +kernel
set_option maxRecDepth 100000 in
set_option maxHeartbeats 6400000 in
theorem first11_any (w : World) (hW : SW w) :
    Calls Tryd.prog 46 #[] w fun e w' => e = .returned (.bool true) ∧ Below w.heap.size w w' := by
  have CP := fput_any ⟨#[]⟩ w hW (by decide)
  rw [put_empty] at CP
  go_enter Tryd.func46, Tryd.ntmps46
  go_wp2_with (go_at_call 47; refine CP.mono ?_; rintro e w1 ⟨rfl, hb1⟩)
  go_ret
  exact ⟨rfl, hb1⟩
theorem conv_cells {w : World} {g c : Nat} {q : List UInt8} (hc : ∀ j, (hj : j < q.length) → w.cell? ⟨g, j, none⟩ = some (.int .u8 (q[j].toNat : Int))) :
    (convert 72 9 (.slice (some ⟨g, 0, none⟩) q.length c)).run Tryd.prog w = .ok (.string ⟨q.toArray⟩) w :=
  run_convert_bytes_back (P := Tryd.prog) w 72 9 5 ⟨g, 0, none⟩ c q Tryd.underlying72 Tryd.underlying5 Tryd.underlying9 (fun j hj => by
    have hadd : (⟨g, 0, none⟩ : Addr).add j = ⟨g, j, none⟩ := by unfold Addr.add; by_cases h : j = 0 <;> simp [h]
    rw [hadd, hc j hj])
theorem bytes_frozen (V : World) (S : ByteArray) {k : Nat} (hk : k < S.size) : (Lib.bytesWorld V 5 S).frozen? ⟨V.heap.size, k, none⟩ = false := by
  unfold World.frozen?
  rw [Lib.bytesWorld_at_new]
  have hl : S.size ≤ (Lib.bytesCells V 5 S).size := by unfold Lib.bytesCells; simp
  simp
  omega
theorem bytes_below (V : World) (S : ByteArray) : Below V.heap.size V (Lib.bytesWorld V 5 S) :=
  ⟨rfl, rfl, rfl, by rw [Lib.bytesWorld_size]; omega, fun j hj => Lib.bytesWorld_at_old _ _ _ j hj⟩
set_option maxRecDepth 100000 in
set_option maxHeartbeats 12800000 in
theorem walkFrameTurned (body : ByteArray) (at_ x cut : Int) (more : ByteArray) (w : World) (hW : SW w) (hbo : body.size ≤ maxLen) (hx0 : 0 ≤ x) (hx1 : x < 256) (hmo : more.size ≤ maxLen) :
    Calls Tryd.prog 13 #[.string body, .int .i64 at_, .int .u8 x, .int .i64 cut, .string more] w fun e w' => e = .returned (.bool true) ∧ Below w.heap.size w w' := by
  have hbel : Below w.heap.size w w := Below.refl _ _
  go_enter Tryd.func13, Tryd.ntmps13
  go_upto_region 3 with (go_at_call 46; refine (first11_any _ hW).mono ?_; rintro e w0 ⟨rfl, hb⟩; have hW := hW.below hb; have hbel := hbel.trans (hb.mono hbel.size))
  by_cases c1 : 2000 < body.size
  · have d1 : decide (2000 < (body.size : Int)) = true := decide_eq_true (by omega)
    go_wp2_with (go_at_call 46; refine (first11_any _ hW).mono ?_; rintro e w0 ⟨rfl, hb⟩; have hW := hW.below hb; have hbel := hbel.trans (hb.mono hbel.size))
    go_ret
    exact ⟨rfl, hbel⟩
  have d1 : decide (2000 < (body.size : Int)) = false := decide_eq_false (by omega)
  by_cases c2 : 200 < more.size
  · have d2 : decide (200 < (more.size : Int)) = true := decide_eq_true (by omega)
    go_wp2_with (go_at_call 46; refine (first11_any _ hW).mono ?_; rintro e w0 ⟨rfl, hb⟩; have hW := hW.below hb; have hbel := hbel.trans (hb.mono hbel.size))
    go_ret
    exact ⟨rfl, hbel⟩
  have d2 : decide (200 < (more.size : Int)) = false := decide_eq_false (by omega)
  by_cases c3 : more.size = 0
  · have d3 : ((more.size : Int) == 0) = true := by rw [beq_iff_eq]; omega
    go_wp2_with (go_at_call 46; refine (first11_any _ hW).mono ?_; rintro e w0 ⟨rfl, hb⟩; have hW := hW.below hb; have hbel := hbel.trans (hb.mono hbel.size))
    go_ret
    exact ⟨rfl, hbel⟩
  have d3 : ((more.size : Int) == 0) = false := beq_eq_false_iff_ne.2 (by omega)
  have CP := fun W h => fput_any body W h (by omega)
  obtain ⟨S, hS⟩ : ∃ S, putB body = S := ⟨_, rfl⟩
  have hsz := putB_size body
  rw [hS] at hsz
  simp only [hS] at CP
  have CO1 := fun W h => fopen_any S W h (by omega)
  have CO2 := fun W h => fopen_any (S ++ more) W h (by rw [ByteArray.size_append]; omega)
  have o1 := open_whole (b := body) (by omega)
  have o2 := open_more (b := body) (by omega) more (by omega)
  rw [hS] at o1 o2
  simp only [o1] at CO1
  simp only [o2] at CO2
  have hcut := fun c hc => open_cut (b := body) (c := c) (by omega) hc
  rw [hS] at hcut
  have hturn := fun (T : ByteArray) (k : Nat) (y : UInt8) h1 h2 h3 => open_turned (b := body) (T := T) (k := k) (y := y) (by omega) h1 h2 h3
  rw [hS] at hturn
  have HSZ := Lib.hid hsz
  have e1 : IntKind.i64.wrap (8 + (body.size : Int)) = 8 + (body.size : Int) := IntWalk.i64_in _ (by omega)
  have e2 : ((S.size : Int) == 8 + (body.size : Int)) = true := by rw [beq_iff_eq]; omega
  have e3 : (body.toList == body.toList) = true := by simp
  have hcat : ¬ 9223372036854775807 < S.size + more.size := by omega
  have hSb : S.size ≤ 2008 := by omega
  clear hsz hS o1 o2
  go_upto_region 8 with (first | (go_at_call 46; refine (first11_any _ hW).mono ?_; rintro e w0 ⟨rfl, hb⟩; have hW := hW.below hb; have hbel := hbel.trans (hb.mono hbel.size)) | (go_at_call 47; refine (CP _ hW).mono ?_; rintro e w5 ⟨rfl, hb⟩; have hW := hW.below hb; have hbel := hbel.trans (hb.mono hbel.size)))
  go_upto_region 9 with (go_at_call 51; refine (CO1 _ hW).mono ?_; rintro e w8 ⟨rfl, hb⟩; have hW := hW.below hb; have hbel := hbel.trans (hb.mono hbel.size))
  go_upto_region 12 with (go_at_call 51; refine (CO2 _ hW).mono ?_; rintro e w9 ⟨rfl, hb⟩; have hW := hW.below hb; have hbel := hbel.trans (hb.mono hbel.size))
  clear CP CO1 CO2 d1 d2 d3 e1 e2 e3 hcat
  have rest : ∀ (a : Act) (W : World), True := fun _ _ => trivial
  clear rest
  by_cases h0 : 0 ≤ cut
  · have m0 : decide (0 ≤ cut) = true := decide_eq_true h0
    by_cases h1 : cut < (S.size : Int)
    · have m1 : decide (cut < (S.size : Int)) = true := decide_eq_true h1
      obtain ⟨c, rfl⟩ : ∃ c : Nat, cut = c := ⟨cut.toNat, by omega⟩
      have m2 : (c : Int) ≤ (S.size : Int) := by omega
      have m3 : ((c : Nat) : Int).toNat = c := by omega
      have CO3 := fun W h => fopen_any (S.extract 0 c) W h (by simp; omega)
      simp only [hcut c (by have := HSZ.out; omega)] at CO3
      go_upto_region 16 with (go_at_call 51; refine (CO3 _ hW).mono ?_; rintro e w13 ⟨rfl, hb⟩; have hW := hW.below hb; have hbel := hbel.trans (hb.mono hbel.size))
      clear CO3 hcut
      by_cases g1 : at_ < 0
      · have f1 : decide (at_ < 0) = true := decide_eq_true g1
        go_wp2_with (go_at_call 46; refine (first11_any _ hW).mono ?_; rintro e w0 ⟨rfl, hb⟩; have hW := hW.below hb; have hbel := hbel.trans (hb.mono hbel.size))
        go_ret
        exact ⟨rfl, hbel⟩
      have f1 : decide (at_ < 0) = false := decide_eq_false g1
      by_cases g2 : 8 ≤ at_
      · have f2 : decide (8 ≤ at_) = true := decide_eq_true g2
        go_wp2_with (go_at_call 46; refine (first11_any _ hW).mono ?_; rintro e w0 ⟨rfl, hb⟩; have hW := hW.below hb; have hbel := hbel.trans (hb.mono hbel.size))
        go_ret
        exact ⟨rfl, hbel⟩
      have f2 : decide (8 ≤ at_) = false := decide_eq_false g2
      by_cases g3 : x = 0
      · have f3 : (x == 0) = true := by rw [beq_iff_eq]; exact g3
        go_wp2_with (go_at_call 46; refine (first11_any _ hW).mono ?_; rintro e w0 ⟨rfl, hb⟩; have hW := hW.below hb; have hbel := hbel.trans (hb.mono hbel.size))
        go_ret
        exact ⟨rfl, hbel⟩
      have f3 : (x == 0) = false := beq_eq_false_iff_ne.2 g3
      obtain ⟨k, rfl⟩ : ∃ k : Nat, at_ = k := ⟨at_.toNat, by omega⟩
      obtain ⟨xn, rfl⟩ : ∃ k : Nat, x = k := ⟨x.toNat, by omega⟩
      go_upto_region 18 with fail
      refine wp_nameE _ (fun V hV => ?_)
      have hbel : Below w.heap.size w V := by rw [hV]; exact hbel
      have hW : SW V := by rw [hV]; exact hW
      clear hV f1 f2 f3
      have hcv0 := Lib.run_convert_string_bytes (P := Tryd.prog) V 9 72 5 S Tryd.underlying9 Tryd.underlying72 Tryd.underlying5
      obtain ⟨V2, hV2⟩ : ∃ V2, Lib.bytesWorld V 5 S = V2 := ⟨_, rfl⟩
      obtain ⟨cap, hcap⟩ : ∃ c, grownCap V S.size 0 5 = c := ⟨_, rfl⟩
      rw [hV2, hcap] at hcv0
      have hkS : k < S.size := by have := HSZ.out; omega
      have hc := fun j hj => Lib.bytesWorld_cell V 5 S j hj
      have hf : V2.frozen? ⟨V.heap.size, k, none⟩ = false := by
        rw [← hV2]; exact bytes_frozen V S hkS
      have hb2 : Below V.heap.size V V2 := by rw [← hV2]; exact bytes_below V S
      rw [hV2] at hc
      clear hV2 hcap
      obtain ⟨c8, hc8⟩ : ∃ c, S.data.toList[k]? = some c := ⟨_, List.getElem?_eq_getElem (by rw [str_len]; exact hkS)⟩
      have hcd : S.data.toList.getD k 0 = c8 := by rw [List.getD_eq_getElem?_getD, hc8]; rfl
      have hck := hc k hkS
      rw [hcd] at hck
      obtain ⟨cn, hcn⟩ : ∃ n, c8.toNat = n := ⟨_, rfl⟩
      have hcl := c8.toNat_lt
      rw [hcn] at hck hcl
      have hxl : cn ^^^ xn < 256 := Nat.xor_lt_two_pow (n := 8) hcl (by omega)
      have hyv : (UInt8.ofNat (cn ^^^ xn)).toNat = cn ^^^ xn := by rw [UInt8.toNat_ofNat']; exact Nat.mod_eq_of_lt hxl
      have hxor : bits .xor .u8 (cn : Int) (xn : Int) = ((UInt8.ofNat (cn ^^^ xn)).toNat : Int) := by rw [hyv]; exact u8_xor_nat cn xn (by omega) (by omega)
      obtain ⟨y, hy⟩ : ∃ y, UInt8.ofNat (cn ^^^ xn) = y := ⟨_, rfl⟩
      rw [hy] at hxor hyv
      have hne : S.data.toList[k]? ≠ some y := fun e => by
        rw [hc8] at e
        have e2 : c8 = y := Option.some.inj e
        have e3 : cn = cn ^^^ xn := by rw [← hyv, ← e2, hcn]
        have e4 : cn ^^^ (cn ^^^ xn) = xn := by rw [← Nat.xor_assoc, Nat.xor_self, Nat.zero_xor]
        rw [← e3, Nat.xor_self] at e4
        exact g3 (by rw [← e4]; rfl)
      have hql : (S.data.toList.set k y).length = S.size := by rw [List.length_set, str_len]
      have ht := hturn ⟨(S.data.toList.set k y).toArray⟩ k y (by omega) rfl hne
      have CT := fun W h => fopen_any ⟨(S.data.toList.set k y).toArray⟩ W h (by show (S.data.toList.set k y).toArray.size ≤ _; rw [List.size_toArray, hql]; omega)
      obtain ⟨⟨tb, f⟩, hfo⟩ : ∃ t, openFr ⟨(S.data.toList.set k y).toArray⟩ = t := ⟨_, rfl⟩
      rw [hfo] at ht
      simp only [hfo] at CT
      simp only at ht
      have n1 : (0 : Int) ≤ (k : Int) := by omega
      have n2 : (k : Int) < (S.size : Int) := by omega
      have n3 : ((k : Nat) : Int).toNat = k := by omega
      have hT : ∀ V3 : World, V3 = V2.setCell ⟨V.heap.size, k, none⟩ (.int .u8 (y.toNat : Int)) → (convert 72 9 (.slice (some ⟨V.heap.size, 0, none⟩) S.size cap)).run Tryd.prog V3 = .ok (.string ⟨(S.data.toList.set k y).toArray⟩) V3 := fun V3 e => by
        have := conv_cells (w := V3) (g := V.heap.size) (c := cap) (q := S.data.toList.set k y) (fun j hj => by
          by_cases hjk : j = k
          · subst hjk
            rw [e, World.cell?_setCell_same _ _ _ hck]
            simp
          · rw [e, World.cell?_setCell_other _ _ _ _ (by simp <;> omega), hc j (by omega), List.getElem_set_ne (by omega), List.getD_eq_getElem?_getD, List.getElem?_eq_getElem (by rw [List.length_set] at hj; exact hj)]
            rfl)
        rw [hql] at this
        exact this
      clear hfo hturn hcd hc8 hcn hy hyv hne hql hc
      go_upto_region 20 with fail
      refine wp_nameE _ (fun V3 hV3 => ?_)
      have hcv1 := hT V3 hV3
      have hb3 : Below V.heap.size V V3 := by rw [hV3]; exact hb2.setCell (p := ⟨V.heap.size, k, none⟩) (Nat.le_refl _) _
      have hW := hW.below hb3
      have hbel := hbel.trans (hb3.mono hbel.size)
      clear hT hV3 hb2 hb3 hck hf hcv0 hxor
      have hf0 : (f == 0) = false := beq_eq_false_iff_ne.2 ht.1
      have hf1 : (f != 0) = true := by rw [bne, hf0]; rfl
      by_cases h4 : 4 ≤ k
      · have d4 : decide ((k : Int) < 4) = false := decide_eq_false (by omega)
        obtain rfl : f = 5 := ht.2 h4
        go_wp2_with (go_at_call 51; refine (CT _ hW).mono ?_; rintro e w13 ⟨rfl, hb⟩; have hbel := hbel.trans (hb.mono hbel.size))
        go_ret
        exact ⟨rfl, hbel⟩
      · have d4 : decide ((k : Int) < 4) = true := decide_eq_true (by omega)
        go_wp2_with (go_at_call 51; refine (CT _ hW).mono ?_; rintro e w13 ⟨rfl, hb⟩; have hbel := hbel.trans (hb.mono hbel.size))
        go_ret
        exact ⟨rfl, hbel⟩
    · have m1 : decide (cut < (S.size : Int)) = false := decide_eq_false h1
      go_upto_region 16 with fail
      clear hcut
      by_cases g1 : at_ < 0
      · have f1 : decide (at_ < 0) = true := decide_eq_true g1
        go_wp2_with (go_at_call 46; refine (first11_any _ hW).mono ?_; rintro e w0 ⟨rfl, hb⟩; have hW := hW.below hb; have hbel := hbel.trans (hb.mono hbel.size))
        go_ret
        exact ⟨rfl, hbel⟩
      have f1 : decide (at_ < 0) = false := decide_eq_false g1
      by_cases g2 : 8 ≤ at_
      · have f2 : decide (8 ≤ at_) = true := decide_eq_true g2
        go_wp2_with (go_at_call 46; refine (first11_any _ hW).mono ?_; rintro e w0 ⟨rfl, hb⟩; have hW := hW.below hb; have hbel := hbel.trans (hb.mono hbel.size))
        go_ret
        exact ⟨rfl, hbel⟩
      have f2 : decide (8 ≤ at_) = false := decide_eq_false g2
      by_cases g3 : x = 0
      · have f3 : (x == 0) = true := by rw [beq_iff_eq]; exact g3
        go_wp2_with (go_at_call 46; refine (first11_any _ hW).mono ?_; rintro e w0 ⟨rfl, hb⟩; have hW := hW.below hb; have hbel := hbel.trans (hb.mono hbel.size))
        go_ret
        exact ⟨rfl, hbel⟩
      have f3 : (x == 0) = false := beq_eq_false_iff_ne.2 g3
      obtain ⟨k, rfl⟩ : ∃ k : Nat, at_ = k := ⟨at_.toNat, by omega⟩
      obtain ⟨xn, rfl⟩ : ∃ k : Nat, x = k := ⟨x.toNat, by omega⟩
      go_upto_region 18 with fail
      refine wp_nameE _ (fun V hV => ?_)
      have hbel : Below w.heap.size w V := by rw [hV]; exact hbel
      have hW : SW V := by rw [hV]; exact hW
      clear hV f1 f2 f3
      have hcv0 := Lib.run_convert_string_bytes (P := Tryd.prog) V 9 72 5 S Tryd.underlying9 Tryd.underlying72 Tryd.underlying5
      obtain ⟨V2, hV2⟩ : ∃ V2, Lib.bytesWorld V 5 S = V2 := ⟨_, rfl⟩
      obtain ⟨cap, hcap⟩ : ∃ c, grownCap V S.size 0 5 = c := ⟨_, rfl⟩
      rw [hV2, hcap] at hcv0
      have hkS : k < S.size := by have := HSZ.out; omega
      have hc := fun j hj => Lib.bytesWorld_cell V 5 S j hj
      have hf : V2.frozen? ⟨V.heap.size, k, none⟩ = false := by
        rw [← hV2]; exact bytes_frozen V S hkS
      have hb2 : Below V.heap.size V V2 := by rw [← hV2]; exact bytes_below V S
      rw [hV2] at hc
      clear hV2 hcap
      obtain ⟨c8, hc8⟩ : ∃ c, S.data.toList[k]? = some c := ⟨_, List.getElem?_eq_getElem (by rw [str_len]; exact hkS)⟩
      have hcd : S.data.toList.getD k 0 = c8 := by rw [List.getD_eq_getElem?_getD, hc8]; rfl
      have hck := hc k hkS
      rw [hcd] at hck
      obtain ⟨cn, hcn⟩ : ∃ n, c8.toNat = n := ⟨_, rfl⟩
      have hcl := c8.toNat_lt
      rw [hcn] at hck hcl
      have hxl : cn ^^^ xn < 256 := Nat.xor_lt_two_pow (n := 8) hcl (by omega)
      have hyv : (UInt8.ofNat (cn ^^^ xn)).toNat = cn ^^^ xn := by rw [UInt8.toNat_ofNat']; exact Nat.mod_eq_of_lt hxl
      have hxor : bits .xor .u8 (cn : Int) (xn : Int) = ((UInt8.ofNat (cn ^^^ xn)).toNat : Int) := by rw [hyv]; exact u8_xor_nat cn xn (by omega) (by omega)
      obtain ⟨y, hy⟩ : ∃ y, UInt8.ofNat (cn ^^^ xn) = y := ⟨_, rfl⟩
      rw [hy] at hxor hyv
      have hne : S.data.toList[k]? ≠ some y := fun e => by
        rw [hc8] at e
        have e2 : c8 = y := Option.some.inj e
        have e3 : cn = cn ^^^ xn := by rw [← hyv, ← e2, hcn]
        have e4 : cn ^^^ (cn ^^^ xn) = xn := by rw [← Nat.xor_assoc, Nat.xor_self, Nat.zero_xor]
        rw [← e3, Nat.xor_self] at e4
        exact g3 (by rw [← e4]; rfl)
      have hql : (S.data.toList.set k y).length = S.size := by rw [List.length_set, str_len]
      have ht := hturn ⟨(S.data.toList.set k y).toArray⟩ k y (by omega) rfl hne
      have CT := fun W h => fopen_any ⟨(S.data.toList.set k y).toArray⟩ W h (by show (S.data.toList.set k y).toArray.size ≤ _; rw [List.size_toArray, hql]; omega)
      obtain ⟨⟨tb, f⟩, hfo⟩ : ∃ t, openFr ⟨(S.data.toList.set k y).toArray⟩ = t := ⟨_, rfl⟩
      rw [hfo] at ht
      simp only [hfo] at CT
      simp only at ht
      have n1 : (0 : Int) ≤ (k : Int) := by omega
      have n2 : (k : Int) < (S.size : Int) := by omega
      have n3 : ((k : Nat) : Int).toNat = k := by omega
      have hT : ∀ V3 : World, V3 = V2.setCell ⟨V.heap.size, k, none⟩ (.int .u8 (y.toNat : Int)) → (convert 72 9 (.slice (some ⟨V.heap.size, 0, none⟩) S.size cap)).run Tryd.prog V3 = .ok (.string ⟨(S.data.toList.set k y).toArray⟩) V3 := fun V3 e => by
        have := conv_cells (w := V3) (g := V.heap.size) (c := cap) (q := S.data.toList.set k y) (fun j hj => by
          by_cases hjk : j = k
          · subst hjk
            rw [e, World.cell?_setCell_same _ _ _ hck]
            simp
          · rw [e, World.cell?_setCell_other _ _ _ _ (by simp <;> omega), hc j (by omega), List.getElem_set_ne (by omega), List.getD_eq_getElem?_getD, List.getElem?_eq_getElem (by rw [List.length_set] at hj; exact hj)]
            rfl)
        rw [hql] at this
        exact this
      clear hfo hturn hcd hc8 hcn hy hyv hne hql hc
      go_upto_region 20 with fail
      refine wp_nameE _ (fun V3 hV3 => ?_)
      have hcv1 := hT V3 hV3
      have hb3 : Below V.heap.size V V3 := by rw [hV3]; exact hb2.setCell (p := ⟨V.heap.size, k, none⟩) (Nat.le_refl _) _
      have hW := hW.below hb3
      have hbel := hbel.trans (hb3.mono hbel.size)
      clear hT hV3 hb2 hb3 hck hf hcv0 hxor
      have hf0 : (f == 0) = false := beq_eq_false_iff_ne.2 ht.1
      have hf1 : (f != 0) = true := by rw [bne, hf0]; rfl
      by_cases h4 : 4 ≤ k
      · have d4 : decide ((k : Int) < 4) = false := decide_eq_false (by omega)
        obtain rfl : f = 5 := ht.2 h4
        go_wp2_with (go_at_call 51; refine (CT _ hW).mono ?_; rintro e w13 ⟨rfl, hb⟩; have hbel := hbel.trans (hb.mono hbel.size))
        go_ret
        exact ⟨rfl, hbel⟩
      · have d4 : decide ((k : Int) < 4) = true := decide_eq_true (by omega)
        go_wp2_with (go_at_call 51; refine (CT _ hW).mono ?_; rintro e w13 ⟨rfl, hb⟩; have hbel := hbel.trans (hb.mono hbel.size))
        go_ret
        exact ⟨rfl, hbel⟩
  · have m0 : decide (0 ≤ cut) = false := decide_eq_false h0
    go_upto_region 16 with fail
    clear hcut
    by_cases g1 : at_ < 0
    · have f1 : decide (at_ < 0) = true := decide_eq_true g1
      go_wp2_with (go_at_call 46; refine (first11_any _ hW).mono ?_; rintro e w0 ⟨rfl, hb⟩; have hW := hW.below hb; have hbel := hbel.trans (hb.mono hbel.size))
      go_ret
      exact ⟨rfl, hbel⟩
    have f1 : decide (at_ < 0) = false := decide_eq_false g1
    by_cases g2 : 8 ≤ at_
    · have f2 : decide (8 ≤ at_) = true := decide_eq_true g2
      go_wp2_with (go_at_call 46; refine (first11_any _ hW).mono ?_; rintro e w0 ⟨rfl, hb⟩; have hW := hW.below hb; have hbel := hbel.trans (hb.mono hbel.size))
      go_ret
      exact ⟨rfl, hbel⟩
    have f2 : decide (8 ≤ at_) = false := decide_eq_false g2
    by_cases g3 : x = 0
    · have f3 : (x == 0) = true := by rw [beq_iff_eq]; exact g3
      go_wp2_with (go_at_call 46; refine (first11_any _ hW).mono ?_; rintro e w0 ⟨rfl, hb⟩; have hW := hW.below hb; have hbel := hbel.trans (hb.mono hbel.size))
      go_ret
      exact ⟨rfl, hbel⟩
    have f3 : (x == 0) = false := beq_eq_false_iff_ne.2 g3
    obtain ⟨k, rfl⟩ : ∃ k : Nat, at_ = k := ⟨at_.toNat, by omega⟩
    obtain ⟨xn, rfl⟩ : ∃ k : Nat, x = k := ⟨x.toNat, by omega⟩
    go_upto_region 18 with fail
    refine wp_nameE _ (fun V hV => ?_)
    have hbel : Below w.heap.size w V := by rw [hV]; exact hbel
    have hW : SW V := by rw [hV]; exact hW
    clear hV f1 f2 f3
    have hcv0 := Lib.run_convert_string_bytes (P := Tryd.prog) V 9 72 5 S Tryd.underlying9 Tryd.underlying72 Tryd.underlying5
    obtain ⟨V2, hV2⟩ : ∃ V2, Lib.bytesWorld V 5 S = V2 := ⟨_, rfl⟩
    obtain ⟨cap, hcap⟩ : ∃ c, grownCap V S.size 0 5 = c := ⟨_, rfl⟩
    rw [hV2, hcap] at hcv0
    have hkS : k < S.size := by have := HSZ.out; omega
    have hc := fun j hj => Lib.bytesWorld_cell V 5 S j hj
    have hf : V2.frozen? ⟨V.heap.size, k, none⟩ = false := by
      rw [← hV2]; exact bytes_frozen V S hkS
    have hb2 : Below V.heap.size V V2 := by rw [← hV2]; exact bytes_below V S
    rw [hV2] at hc
    clear hV2 hcap
    obtain ⟨c8, hc8⟩ : ∃ c, S.data.toList[k]? = some c := ⟨_, List.getElem?_eq_getElem (by rw [str_len]; exact hkS)⟩
    have hcd : S.data.toList.getD k 0 = c8 := by rw [List.getD_eq_getElem?_getD, hc8]; rfl
    have hck := hc k hkS
    rw [hcd] at hck
    obtain ⟨cn, hcn⟩ : ∃ n, c8.toNat = n := ⟨_, rfl⟩
    have hcl := c8.toNat_lt
    rw [hcn] at hck hcl
    have hxl : cn ^^^ xn < 256 := Nat.xor_lt_two_pow (n := 8) hcl (by omega)
    have hyv : (UInt8.ofNat (cn ^^^ xn)).toNat = cn ^^^ xn := by rw [UInt8.toNat_ofNat']; exact Nat.mod_eq_of_lt hxl
    have hxor : bits .xor .u8 (cn : Int) (xn : Int) = ((UInt8.ofNat (cn ^^^ xn)).toNat : Int) := by rw [hyv]; exact u8_xor_nat cn xn (by omega) (by omega)
    obtain ⟨y, hy⟩ : ∃ y, UInt8.ofNat (cn ^^^ xn) = y := ⟨_, rfl⟩
    rw [hy] at hxor hyv
    have hne : S.data.toList[k]? ≠ some y := fun e => by
      rw [hc8] at e
      have e2 : c8 = y := Option.some.inj e
      have e3 : cn = cn ^^^ xn := by rw [← hyv, ← e2, hcn]
      have e4 : cn ^^^ (cn ^^^ xn) = xn := by rw [← Nat.xor_assoc, Nat.xor_self, Nat.zero_xor]
      rw [← e3, Nat.xor_self] at e4
      exact g3 (by rw [← e4]; rfl)
    have hql : (S.data.toList.set k y).length = S.size := by rw [List.length_set, str_len]
    have ht := hturn ⟨(S.data.toList.set k y).toArray⟩ k y (by omega) rfl hne
    have CT := fun W h => fopen_any ⟨(S.data.toList.set k y).toArray⟩ W h (by show (S.data.toList.set k y).toArray.size ≤ _; rw [List.size_toArray, hql]; omega)
    obtain ⟨⟨tb, f⟩, hfo⟩ : ∃ t, openFr ⟨(S.data.toList.set k y).toArray⟩ = t := ⟨_, rfl⟩
    rw [hfo] at ht
    simp only [hfo] at CT
    simp only at ht
    have n1 : (0 : Int) ≤ (k : Int) := by omega
    have n2 : (k : Int) < (S.size : Int) := by omega
    have n3 : ((k : Nat) : Int).toNat = k := by omega
    have hT : ∀ V3 : World, V3 = V2.setCell ⟨V.heap.size, k, none⟩ (.int .u8 (y.toNat : Int)) → (convert 72 9 (.slice (some ⟨V.heap.size, 0, none⟩) S.size cap)).run Tryd.prog V3 = .ok (.string ⟨(S.data.toList.set k y).toArray⟩) V3 := fun V3 e => by
      have := conv_cells (w := V3) (g := V.heap.size) (c := cap) (q := S.data.toList.set k y) (fun j hj => by
        by_cases hjk : j = k
        · subst hjk
          rw [e, World.cell?_setCell_same _ _ _ hck]
          simp
        · rw [e, World.cell?_setCell_other _ _ _ _ (by simp <;> omega), hc j (by omega), List.getElem_set_ne (by omega), List.getD_eq_getElem?_getD, List.getElem?_eq_getElem (by rw [List.length_set] at hj; exact hj)]
          rfl)
      rw [hql] at this
      exact this
    clear hfo hturn hcd hc8 hcn hy hyv hne hql hc
    go_upto_region 20 with fail
    refine wp_nameE _ (fun V3 hV3 => ?_)
    have hcv1 := hT V3 hV3
    have hb3 : Below V.heap.size V V3 := by rw [hV3]; exact hb2.setCell (p := ⟨V.heap.size, k, none⟩) (Nat.le_refl _) _
    have hW := hW.below hb3
    have hbel := hbel.trans (hb3.mono hbel.size)
    clear hT hV3 hb2 hb3 hck hf hcv0 hxor
    have hf0 : (f == 0) = false := beq_eq_false_iff_ne.2 ht.1
    have hf1 : (f != 0) = true := by rw [bne, hf0]; rfl
    by_cases h4 : 4 ≤ k
    · have d4 : decide ((k : Int) < 4) = false := decide_eq_false (by omega)
      obtain rfl : f = 5 := ht.2 h4
      go_wp2_with (go_at_call 51; refine (CT _ hW).mono ?_; rintro e w13 ⟨rfl, hb⟩; have hbel := hbel.trans (hb.mono hbel.size))
      go_ret
      exact ⟨rfl, hbel⟩
    · have d4 : decide ((k : Int) < 4) = true := decide_eq_true (by omega)
      go_wp2_with (go_at_call 51; refine (CT _ hW).mono ?_; rintro e w13 ⟨rfl, hb⟩; have hbel := hbel.trans (hb.mono hbel.size))
      go_ret
      exact ⟨rfl, hbel⟩
end Go.Proofs.YtfblbholkhdldaaDoor
