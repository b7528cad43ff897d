/- span.Add. -/
import Derived.Test.YtdlngadcgcgenaaSp8
import Derived.BigRegion
import Derived.RegionTactic
import Derived.BigQuiet
import Derived.Deep.QuietTactic
import Derived.Deep.MidRow
import Derived.LoopTactic
import Derived.BigFrame
import Derived.Laws.OwnMore
import Derived.WalkKit
import Derived.ProofKit
import Derived.Handy
import Derived.Below
import Derived.Lib.Hide
import Derived.IntWalk
import Derived.Outline
import Derived.WalkLawsBesides
import Derived.WalkSpells
namespace Go.Proofs.Ytdlngadcgcgenaa
open Go.RowKit
attribute [local go_sem] strV
set_option linter.unusedVariables false
structure AddInv (l : List (Int × Int)) (x0 : Int) (k : Nat) (A B : List (Int × Int)) (m : Int × Int) (q : Int) : Prop where
  eq : A ++ addS (B ++ l.drop k) m = addS l (x0, x0)
  a : ∀ r ∈ A, r.2 + 1 < x0 ∧ 0 ≤ r.1 ∧ r.1 ≤ r.2
  b : ∀ r ∈ B, x0 + 1 < r.1 ∧ m.2 + 1 < r.1 ∧ r.1 ≤ r.2 ∧ r.2 ≤ maxN
  g : goodFrom q (l.drop k) = true
  m0 : 0 ≤ m.1 ∧ m.1 ≤ x0 ∧ x0 ≤ m.2 ∧ m.2 ≤ maxN
  mq : m = (x0, x0) ∨ x0 - 1 ≤ q
  bq : B = [] ∨ x0 + 1 ≤ q
  m2 : m.2 ≤ max x0 q
  len : A.length + B.length ≤ k
theorem AddInv.start {l : List (Int × Int)} {x0 : Int} (h : goodR l = true) (hi : insideB x0 = true) : AddInv l x0 0 [] [] (x0, x0) (-2) := by
  have hb := inside_bd hi
  exact ⟨rfl, fun r hr => (by cases hr), fun r hr => (by cases hr), h, ⟨hb.1, Int.le_refl _, Int.le_refl _, hb.2⟩, .inl rfl, .inl rfl, by show x0 ≤ _; omega, Nat.le_refl _⟩
section
variable {l : List (Int × Int)} {x0 : Int} {k : Nat} {A B : List (Int × Int)} {m : Int × Int} {q : Int} {r : Int × Int}
theorem AddInv.gd (h : AddInv l x0 k A B m q) (hd : l.drop k = r :: l.drop (k + 1)) : (0 ≤ r.1 ∧ r.1 ≤ r.2 ∧ r.2 ≤ maxN ∧ q + 2 ≤ r.1) ∧ goodFrom r.2 (l.drop (k + 1)) = true := by
  have := h.g; rw [hd] at this; exact goodFrom_cons.1 this
theorem AddInv.before (h : AddInv l x0 k A B m q) (hd : l.drop k = r :: l.drop (k + 1)) (hc : r.2 + 1 < x0) : B = [] ∧ AddInv l x0 (k + 1) (A ++ [r]) [] m r.2 := by
  obtain ⟨h1, h2⟩ := h.gd hd
  have hB : B = [] := h.bq.resolve_right (by omega)
  have hm : m = (x0, x0) := h.mq.resolve_right (by omega)
  subst hB hm
  refine ⟨rfl, ?_, ?_, fun r hr => (by cases hr), h2, h.m0, .inl rfl, .inl rfl, by show x0 ≤ _; omega, ?_⟩
  · have := h.eq
    rw [List.nil_append, hd] at this
    rw [← this, List.nil_append, List.append_assoc]
    show A ++ ([r] ++ _) = A ++ (if r.2 + 1 < x0 then r :: addS (l.drop (k + 1)) (x0, x0) else _)
    rw [if_pos hc]; rfl
  · intro s hs
    rcases List.mem_append.1 hs with h3 | h3
    · exact h.a s h3
    · rw [List.mem_singleton.1 h3]; exact ⟨hc, h1.1, h1.2.1⟩
  · have := h.len; rw [List.length_append]; simp at this ⊢; omega
theorem AddInv.after (h : AddInv l x0 k A B m q) (hd : l.drop k = r :: l.drop (k + 1)) (hc : x0 + 1 < r.1) : AddInv l x0 (k + 1) A (B ++ [r]) m r.2 := by
  obtain ⟨h1, h2⟩ := h.gd hd
  refine ⟨?_, h.a, ?_, h2, h.m0, .inr (by omega), .inr (by omega), by have := h.m2; omega, ?_⟩
  · have := h.eq
    rw [hd] at this
    rw [← this, List.append_assoc]; rfl
  · intro s hs
    rcases List.mem_append.1 hs with h3 | h3
    · exact h.b s h3
    · rw [List.mem_singleton.1 h3]
      have := h.m2
      exact ⟨hc, by omega, h1.2.1, h1.2.2.1⟩
  · have := h.len; rw [List.length_append]; simp; omega
theorem AddInv.touch (h : AddInv l x0 k A B m q) (hd : l.drop k = r :: l.drop (k + 1)) (hc1 : ¬ r.2 + 1 < x0) (hc2 : ¬ x0 + 1 < r.1) : AddInv l x0 (k + 1) A B (min m.1 r.1, max m.2 r.2) r.2 := by
  obtain ⟨h1, h2⟩ := h.gd hd
  have hB : B = [] := h.bq.resolve_right (by omega)
  subst hB
  have hm := h.m0
  have hm2 := h.m2
  refine ⟨?_, h.a, fun r hr => (by cases hr), h2, ⟨by show 0 ≤ min m.1 r.1; omega, by show min m.1 r.1 ≤ x0; omega, by show x0 ≤ max m.2 r.2; omega, by show max m.2 r.2 ≤ maxN; omega⟩, .inr (by omega), .inl rfl, by show max m.2 r.2 ≤ _; omega, by have := h.len; omega⟩
  have := h.eq
  rw [List.nil_append, hd] at this
  rw [← this, List.nil_append]
  show _ = A ++ (if r.2 + 1 < m.1 then _ else if m.2 + 1 < r.1 then _ else addS (l.drop (k + 1)) (min m.1 r.1, max m.2 r.2))
  rw [if_neg (by omega), if_neg (by omega)]
theorem AddInv.fin (h : AddInv l x0 k A B m q) (hk : l.length ≤ k) : A ++ [m] ++ B = addS l (x0, x0) := by
  have := h.eq
  rw [List.drop_of_length_le hk, List.append_nil] at this
  rw [← this, List.append_assoc]
  congr 1
  cases B with
  | nil => rfl
  | cons b B =>
    have hb := h.b b (List.mem_cons_self ..)
    have hm := h.m0
    show _ = (if b.2 + 1 < m.1 then _ else if m.2 + 1 < b.1 then m :: b :: B else _)
    by_cases hz : b.2 + 1 < m.1
    · omega
    · rw [if_neg hz, if_pos hb.2.1]; rfl
end
def addRes (l : List (Int × Int)) (x0 : Int) : List (Int × Int) := if goodR l = true then addR l x0 else []
set_option maxRecDepth 100000 in
set_option maxHeartbeats 12800000 in
theorem add_any (a : Option Addr) (n cap : Nat) (l : List (Int × Int)) (x0 : Int) (w : World) (hr : RowAt w a (l.flatMap rgL)) (hn : l.length = n) (hm : n ≤ 100000) (ha : a = none → n = 0 ∧ cap = 0) :
    Calls Try.prog 19 #[.slice a n cap, .int .i64 x0] w fun e w' => ∃ v, e = .returned v ∧ w'.ownsRow w.heap.size 62 2 v (addRes l x0).length ((addRes l x0).flatMap rgL) ∧ Below w.heap.size w w' := by
  have CG := fun W (hb : Below w.heap.size w W) => good_any a n cap l W (hr.below hb) hn (by unfold maxLen; omega)
  have CI := inside_any x0
  have CL := fun W (hb : Below w.heap.size w W) => cloneRg_any a n cap l W (hr.below hb) hn (by omega) ha
  obtain ⟨RES, hRES⟩ : ∃ x, addRes l x0 = x := ⟨_, rfl⟩
  rw [hRES]
  unfold addRes at hRES
  obtain ⟨gd, hgd⟩ : ∃ r, goodR l = r := ⟨_, rfl⟩
  simp only [hgd] at CG hRES
  have HGD := Lib.hid hgd
  obtain ⟨ib, hib⟩ : ∃ r, insideB x0 = r := ⟨_, rfl⟩
  simp only [hib] at CI
  have HIB := Lib.hid hib
  unfold addR at hRES
  simp only [hib] at hRES
  have HN := Lib.hid hn
  obtain ⟨iR, hiR, hzR, hsR, hbR⟩ := info_parts Try.infoRg
  clear hgd hib hn
  cases gd
  · rw [if_neg Bool.false_ne_true] at hRES
    subst hRES
    go_enter Try.func19, Try.ntmps19
    go_wp2_with (go_at_call 9; refine (CG _ (Below.refl _ _)).mono ?_; rintro e w2 ⟨rfl, hb⟩)
    go_ret
    exact ⟨_, rfl, World.ownsRow_nil _ _ _ _, hb⟩
  rw [if_pos rfl] at hRES
  cases ib
  · rw [if_neg Bool.false_ne_true] at hRES
    subst hRES
    go_enter Try.func19, Try.ntmps19
    go_wp2_with (first | (go_at_call 9; refine (CG _ (Below.refl _ _)).mono ?_; rintro e w2 ⟨rfl, hb⟩) | (go_at_call 38; refine (CI _).mono ?_; rintro e w3 ⟨rfl, hb3⟩; have hb := hb.trans (hb3.mono hb.size)) | (go_at_call 39; refine (CL _ hb).mono ?_; rintro e w4 ⟨v4, rfl, ho4, hb4⟩))
    go_ret
    exact ⟨_, rfl, own_lowerM ho4 hb.size, hb.trans (hb4.mono hb.size)⟩
  rw [if_pos rfl] at hRES
  have HRES := Lib.hid hRES
  clear hRES
  have hbd := inside_bd HIB.out
  unfold maxN at hbd
  obtain ⟨hx1, hx2⟩ := hbd
  go_enter Try.func19, Try.ntmps19
  go_upto_region 6 with (first | (go_at_call 9; refine (CG _ (Below.refl _ _)).mono ?_; rintro e w2 ⟨rfl, hbel⟩) | (go_at_call 38; refine (CI _).mono ?_; rintro e w3 ⟨rfl, hb3⟩; have hbel := hbel.trans (hb3.mono hbel.size)))
  have hbelS := hbel.size
  clear hb3 CG CL CI
  go_upto_region 7 with fail
  refine wp_nameE _ (fun W7 hX => ?_)
  have hb7 : Below w3.heap.size w3 W7 := by rw [hX]; exact Below.alloc (Below.refl _ _) (Nat.le_refl _) _
  have hG : W7.heap[w3.heap.size]? = some (.cells #[.int .i64 x0, .int .i64 x0] 62 (0, 0)) := by rw [hX]; exact heap_push _ _ _
  have hbel := hbel.trans (hb7.mono hbel.size)
  obtain ⟨gm, hgm⟩ : ∃ g, w3.heap.size = g := ⟨_, rfl⟩
  have hgw : w.heap.size ≤ gm := by rw [← hgm]; exact hbelS
  rw [hgm] at hG
  simp only [hgm]
  clear hX hgm hb7
  obtain ⟨B0, hB0⟩ : ∃ b, W7.heap.size = b := ⟨_, rfl⟩
  have hgB : gm < B0 := by rw [← hB0]; exact row_lt hG
  have hwB : w.heap.size ≤ B0 := by omega
  have hs0 : B0 ≤ W7.heap.size := by omega
  clear hB0
  go_upto_region 8 with fail
  go_loopw [5, 24] (fun v i wr => ∃ (k : Nat) (A B : List (Int × Int)) (m1 m2 q : Int), k ≤ n ∧ i = .int .i64 k ∧ wr.ownsRow B0 62 2 v (A ++ B).length ((A ++ B).flatMap rgL) ∧ wr.heap[gm]? = some (.cells #[.int .i64 m1, .int .i64 m2] 62 (0, 0)) ∧ Hid (AddInv l x0 k A B (m1, m2) q) ∧ B0 ≤ wr.heap.size ∧ Below w.heap.size w wr) (fun _ i _ => n - (intOf i).toNat)
  case atStart => exact ⟨0, [], [], x0, x0, -2, Nat.zero_le _, rfl, World.ownsRow_nil _ _ _ _, hG, Lib.hid (AddInv.start HGD.out HIB.out), hs0, hbel⟩
  case round =>
    clear hbel hG hs0
    obtain ⟨k, A, B, m1, m2, q, hk, rfl, hown, hG, HV, hsz, hbel⟩ := hrel
    have hlen := HV.out.len
    have hm0 := HV.out.m0
    unfold maxN at hm0
    simp only [] at hm0
    by_cases hlt : k < n
    rotate_left
    · have d9 : decide ((k : Int) < (n : Int)) = false := decide_eq_false (by omega)
      have d9n : decide (k < n) = false := decide_eq_false hlt
      obtain ⟨nA, hnA⟩ : ∃ z, A.length = z := ⟨_, rfl⟩
      obtain ⟨nK, hnK⟩ : ∃ z, (A ++ B).length = z := ⟨_, rfl⟩
      have hnk1 : nK ≤ 100000 := by rw [← hnK, List.length_append]; omega
      have hnk2 : nA ≤ nK := by rw [← hnK, ← hnA, List.length_append]; omega
      rw [hnK] at hown
      obtain ⟨aK, cK, hvK, hrK, hK1, hK2, _⟩ := own_sliceN hown
      subst hvK
      have hfin := HV.out.fin (by rw [HN.out]; omega)
      have hat : ∀ (t : Nat) r, (A ++ B)[t]? = some r → (t < nA → r ∈ A) ∧ (nA ≤ t → r ∈ B) := fun t r ht => by
        constructor
        · intro h; rw [List.getElem?_append_left (by rw [hnA]; exact h)] at ht; exact List.mem_of_getElem? ht
        · intro h; rw [List.getElem?_append_right (by rw [hnA]; exact h)] at ht; exact List.mem_of_getElem? ht
      have hA := HV.out.a
      have hB := HV.out.b
      unfold maxN at hB
      have CS := srch_any aK nK cK (A ++ B) x0 nA wr hrK hnK (by omega) hnk2 (fun t r ht => by
          rcases Nat.lt_or_ge t nA with h | h
          · have := hA r ((hat t r ht).1 h); omega
          · have := hB r ((hat t r ht).2 h); omega) (fun t r h ht => by have := hA r ((hat t r ht).1 h); omega) (fun t r h ht => by have := hB r ((hat t r ht).2 h); omega)
      have HF := Lib.hid (show ((A ++ B).flatMap rgL).take (nA * 2) ++ ([Value.int .i64 m1, Value.int .i64 m2] ++ ((A ++ B).flatMap rgL).drop (nA * 2)) = RES.flatMap rgL by
        have e1 : ((A ++ B).flatMap rgL).take (nA * 2) = A.flatMap rgL := by rw [List.flatMap_append, List.take_append_of_le_length (by rw [rg_flat_len, hnA]; omega), List.take_of_length_le (by rw [rg_flat_len, hnA]; omega)]
        have e2 : ((A ++ B).flatMap rgL).drop (nA * 2) = B.flatMap rgL := by rw [List.flatMap_append, List.drop_append_of_le_length (by rw [rg_flat_len, hnA]; omega), List.drop_of_length_le (by rw [rg_flat_len, hnA]; omega), List.nil_append]
        rw [e1, e2, ← HRES.out, ← hfin, List.flatMap_append, List.flatMap_append, List.append_assoc]
        rfl)
      have HL := Lib.hid (show RES.length = nK + 1 by rw [← HRES.out, ← hfin, List.length_append, List.length_append, ← hnK, List.length_append]; simp; omega)
      clear hat hA hB hfin hrK hnA hnK
      go_upto_region 16 with (go_at_call 40; refine CS.mono ?_; rintro e w4 ⟨⟨f4, rfl⟩, hb4⟩)
      have hG := cells_of hG hb4 (row_lt hG)
      have hown := own_kept9 hown hb4
      have hsz := Nat.le_trans hsz hb4.size
      have hbel := hbel.trans (hb4.mono hbel.size)
      clear hb4 CS
      have hb5 : Below w4.heap.size w4 (w4.alloc (.cells #[.int .i64 m1, .int .i64 m2] 62)) := Below.alloc (Below.refl _ _) (Nat.le_refl _) _
      have hq5 := heap_push w4 #[.int .i64 m1, .int .i64 m2] 62
      have hown5 := own_kept9 hown hb5
      have k0 : w4.cell? ⟨gm, 0, none⟩ = some (.int .i64 m1) := cell_heap hG 0
      have k1 : w4.cell? ⟨gm, 1, none⟩ = some (.int .i64 m2) := cell_heap hG 1
      have CN := insRg_any hown5 (rg_ones _) hnk2 (by omega) (Nat.le_trans hsz hb5.size) hq5 (fun e => by have := (hown.lt _ e).2; omega) rfl rfl
      go_wp2_with (go_at_call 42; refine CN.mono ?_; rintro e w5 ⟨v5, rfl, ho5, hg5, _⟩)
      go_ret
      refine ⟨_, rfl, ?_, (hbel.trans (hb5.mono hbel.size)).grown hg5 (Nat.le_trans hbel.size hb5.size) (fun j hj => Nat.le_trans hwB (hown5.lt j hj).1)⟩
      rw [HL.out, ← HF.out]
      have ho6 := own_lowerM ho5 hwB
      rw [List.append_assoc] at ho6
      exact ho6
    have d9 : decide ((k : Int) < (n : Int)) = true := decide_eq_true (by omega)
    have d9n : decide (k < n) = true := decide_eq_true hlt
    have hkl : k < l.length := by rw [HN.out]; exact hlt
    obtain ⟨b1, o1, rfl, hb1, hg1⟩ := rg_range (hr.below hbel) hkl
    have hkm := List.getElem?_eq_getElem hkl
    have hdr := List.drop_eq_getElem_cons hkl
    obtain ⟨⟨x, y⟩, hxy⟩ : ∃ p, l[k] = p := ⟨_, rfl⟩
    rw [hxy] at hg1 hkm hdr
    have hg1 : wr.rangeAt b1 (o1 + k * 2) (#[.int .i64 x, .int .i64 y] : Array Value).toList := hg1
    clear hxy
    have n0 : (0 : Int) ≤ (k : Int) := by omega
    have n1 : (k : Int) < (n : Int) := by omega
    have n2 : ((k : Nat) : Int).toNat = k := by omega
    have hgk := good_take HGD.out hkm
    unfold maxN at hgk
    simp only [] at hgk
    obtain ⟨hk1, hk2, hk3⟩ := hgk
    have HDR := Lib.hid hdr
    have hgl0 : gm < wr.heap.size := row_lt hG
    clear hkm hdr
    go_upto_region 10 with (first | (refine wpList_load_mid rfl 62 (.tmp 26) rfl b1 _ rfl ((#[.int .i64 x, .int .i64 y] : Array Value).toList) _ hg1 Try.underlying62 rfl (by rfl) ?_; rw [Array.toArray_toList]) | fail)
    refine wp_nameE _ (fun W6 hX => ?_)
    have hb6 : Below wr.heap.size wr W6 := by rw [hX]; exact Below.alloc (Below.refl _ _) (Nat.le_refl _) _
    have hszg : w.heap.size ≤ wr.heap.size := hbel.size
    have hx6 : W6.heap[wr.heap.size]? = some (.cells #[.int .i64 x, .int .i64 y] 62 (0, 0)) := by rw [hX]; exact heap_push _ _ _
    have hbel := hbel.trans (hb6.mono hbel.size)
    obtain ⟨g6, hg6⟩ : ∃ g, wr.heap.size = g := ⟨_, rfl⟩
    rw [hg6] at hx6 hszg hgl0
    simp only [hg6]
    clear hX hg1 hg6
    have c0 : W6.cell? ⟨g6, 0, none⟩ = some (.int .i64 x) := cell_heap hx6 0
    have c1 : W6.cell? ⟨g6, 1, none⟩ = some (.int .i64 y) := cell_heap hx6 1
    have hown := own_kept9 hown hb6
    have hsz := Nat.le_trans hsz hb6.size
    have hG := cells_of hG hb6 (by omega)
    clear hb6 hszg
    obtain ⟨nK, hnK⟩ : ∃ z, (A ++ B).length = z := ⟨_, rfl⟩
    have hnk1 : nK ≤ 100000 := by rw [← hnK, List.length_append]; omega
    rw [hnK] at hown
    have HNK := Lib.hid hnK
    clear hnK
    have hb5 : Below W6.heap.size W6 (W6.alloc (.cells #[.int .i64 x, .int .i64 y] 62)) := Below.alloc (Below.refl _ _) (Nat.le_refl _) _
    have hown5 := own_kept9 hown hb5
    have hG5 := cells_of hG hb5 (row_lt hG)
    by_cases h1 : y + 1 < x0
    · have e1 : decide (y + 1 < x0) = true := decide_eq_true h1
      obtain ⟨hBn, hV2⟩ := HV.out.before HDR.out h1
      subst hBn
      rw [List.append_nil] at hown5 HNK
      go_wp2_with (at_builtin; refine wpList_append_own_at _ rfl (.tmp 40) (.tmp 42) 22 rfl B0 62 iR (.agg #[.int .i64 0, .int .i64 0]) 2 16 Try.underlying22 hiR hzR hsR hbR rfl (by decide) _ _ _ rfl hown5 ⟨W6.heap.size, 0, none⟩ 1 1 [.int .i64 (x), .int .i64 (y)] rfl rfl (cell_two_new _ _ _ _) (two_one _ _) (by unfold maxLen; omega) (by omega) (Nat.le_trans hsz hb5.size) ?_; intro v9 w9 hown9 hgr9 _ hat9)
      go_roundw
      case rel => exact ⟨k + 1, A ++ [(x, y)], [], m1, m2, y, by omega, by go_num, by rw [List.append_nil]; exact rg_snoc HNK.out hown9, grown_at hgr9 hG5 (fun e => by have := (hown5.lt _ e.symm).1; omega), Lib.hid hV2, Nat.le_trans (Nat.le_trans hsz hb5.size) hgr9.size, (hbel.trans (hb5.mono hbel.size)).grown hgr9 (Nat.le_trans hbel.size hb5.size) (fun j hj => Nat.le_trans hwB (hown5.lt j hj).1)⟩
      case measure => (simp [intOf]) <;> omega
    have e1 : decide (y + 1 < x0) = false := decide_eq_false h1
    by_cases h2 : x0 + 1 < x
    · have e2 : decide (x0 + 1 < x) = true := decide_eq_true h2
      have hV2 := HV.out.after HDR.out h2
      go_wp2_with (at_builtin; refine wpList_append_own_at _ rfl (.tmp 40) (.tmp 42) 22 rfl B0 62 iR (.agg #[.int .i64 0, .int .i64 0]) 2 16 Try.underlying22 hiR hzR hsR hbR rfl (by decide) _ _ _ rfl hown5 ⟨W6.heap.size, 0, none⟩ 1 1 [.int .i64 (x), .int .i64 (y)] rfl rfl (cell_two_new _ _ _ _) (two_one _ _) (by unfold maxLen; omega) (by omega) (Nat.le_trans hsz hb5.size) ?_; intro v9 w9 hown9 hgr9 _ hat9)
      go_roundw
      case rel => exact ⟨k + 1, A, B ++ [(x, y)], m1, m2, y, by omega, by go_num, by rw [← List.append_assoc]; exact rg_snoc HNK.out hown9, grown_at hgr9 hG5 (fun e => by have := (hown5.lt _ e.symm).1; omega), Lib.hid hV2, Nat.le_trans (Nat.le_trans hsz hb5.size) hgr9.size, (hbel.trans (hb5.mono hbel.size)).grown hgr9 (Nat.le_trans hbel.size hb5.size) (fun j hj => Nat.le_trans hwB (hown5.lt j hj).1)⟩
      case measure => (simp [intOf]) <;> omega
    have e2 : decide (x0 + 1 < x) = false := decide_eq_false h2
    have hV2 := HV.out.touch HDR.out h1 h2
    clear hb5 hown5 hG5
    obtain ⟨p1, hp1⟩ : ∃ z, min m1 x = z := ⟨_, rfl⟩
    obtain ⟨p2, hp2⟩ : ∃ z, max m2 y = z := ⟨_, rfl⟩
    have hV2 : AddInv l x0 (k + 1) A B (p1, p2) y := by rw [← hp1, ← hp2]; exact hV2
    have HV2 := Lib.hid hV2
    clear hV2
    have k0 : W6.cell? ⟨gm, 0, none⟩ = some (.int .i64 m1) := cell_heap hG 0
    have k1 : W6.cell? ⟨gm, 1, none⟩ = some (.int .i64 m2) := cell_heap hG 1
    have z0 : W6.frozen? ⟨gm, 0, none⟩ = false := by unfold World.frozen?; rw [hG]; rfl
    have z1 : W6.frozen? ⟨gm, 1, none⟩ = false := by unfold World.frozen?; rw [hG]; rfl
    have ng : gm ≠ g6 := by omega
    have ng2 : g6 ≠ gm := by omega
    go_wp2
    go_roundw
    case rel =>
      have q1 := heap_setCell_same W6 gm 0 _ _ (.int .i64 p1) hG
      have q2 := heap_setCell_same (W6.setCell ⟨gm, 0, none⟩ (.int .i64 p1)) gm 1 _ _ (.int .i64 p2) q1
      have gg : W6.grownBy ((W6.setCell ⟨gm, 0, none⟩ (.int .i64 p1)).setCell ⟨gm, 1, none⟩ (.int .i64 p2)) (some gm) := ⟨rfl, rfl, rfl, by simp, fun j _ hj => by rw [heap_setCell_other _ _ _ _ (fun e => hj (by rw [e])), heap_setCell_other _ _ _ _ (fun e => hj (by rw [e]))]⟩
      exact ⟨k + 1, A, B, p1, p2, y, by omega, by go_num, by rw [HNK.out]; exact hown.kept gg (by
        cases hvb : u5.ownBlock with
        | none => exact .inl rfl
        | some j => exact .inr (fun e => by have := (hown.lt j hvb).1; cases e; omega)), q2, HV2, Nat.le_trans hsz gg.size, hbel.grown gg hbel.size (fun j hj => by cases hj; exact hgw)⟩
    case measure => (simp [intOf]) <;> omega
end Go.Proofs.Ytdlngadcgcgenaa
