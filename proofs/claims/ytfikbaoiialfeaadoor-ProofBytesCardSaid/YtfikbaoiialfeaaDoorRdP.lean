/- The document's reader: proofs. -/
import Derived.Test.YtfikbaoiialfeaaDoorRd1
import Derived.Test.YtfikbaoiialfeaaDoorPf5
import Derived.Deep.MidRow
import Derived.LoopTactic
import Derived.BigFrame
import Derived.WalkKit
import Derived.ProofKit
import Derived.Handy
import Derived.Below
import Derived.Lib.Hide
import Derived.IntWalk
import Derived.Outline
import Derived.WalkLawsBesides
import Derived.WalkSpells
namespace Go.Proofs.YtfikbaoiialfeaaDoor
open Go.RowKit
attribute [local go_sem] strV
set_option linter.unusedVariables false
/-- As PushI, for the document's reader. -/
def PushQ (wr : World) (b : Nat) (s : ByteArray) (p0 sv p2 : Value) (ak ek an en : Int) (Φ : Value → World → Prop) (Ψ : Value → Value → World → Prop) (D0 D1 D2 D3 D4 : Bool) (x0 x1 x2 x3 x4 : Value) (W : World) : Prop :=
  (D0 = true → x0 = p0) ∧ (D1 = true → x1 = sv) ∧ (D2 = true → x2 = p2) ∧ (D3 = true → Φ x3 W) ∧ (D4 = true → Ψ x3 x4 W) ∧ QAt b W s (bif D3 then an else ak) (bif D3 then en else ek) ∧ Kept b wr W
theorem QAt.drew {b : Nat} {w : World} {s : ByteArray} {A E : Int} (h : QAt b w s A E) (n : Nat) : QAt b { w with drawn := w.drawn + n } s A E := h
/-- How far a list has been read: an error stays. -/
def Sofar {α : Type} (PP : ByteArray → Int → Int → α × Int × Int) (N k : Nat) (s : ByteArray) (a0 e0 : Int) (xs : List α) (ak ek : Int) : Prop :=
  (ek = 0 → listP PP N s a0 e0 = (xs ++ (listP PP (N - k) s ak 0).1, (listP PP (N - k) s ak 0).2)) ∧ (ek ≠ 0 → (listP PP N s a0 e0).2 = (ak, ek))
theorem listP_stay2 {α : Type} {PP : ByteArray → Int → Int → α × Int × Int} (hs : ∀ s a e, e ≠ 0 → (PP s a e).2 = (a, e)) : ∀ (n : Nat) (s : ByteArray) (a e : Int), e ≠ 0 → (listP PP n s a e).2 = (a, e)
  | 0, _, _, _, _ => rfl
  | n + 1, s, a, e, he => by
    show ((listP PP n s (PP s a e).2.1 (PP s a e).2.2).2.1, (listP PP n s (PP s a e).2.1 (PP s a e).2.2).2.2) = (a, e)
    rw [hs s a e he]
    exact listP_stay2 hs n s _ _ he
theorem Sofar.start {α : Type} {PP : ByteArray → Int → Int → α × Int × Int} (hst : ∀ s a e, e ≠ 0 → (PP s a e).2 = (a, e)) (N : Nat) (s : ByteArray) (a0 e0 : Int) : Sofar PP N 0 s a0 e0 [] a0 e0 :=
  ⟨fun h => by subst h; simp, fun h => listP_stay2 hst N s a0 e0 h⟩
theorem Sofar.next {α : Type} {PP : ByteArray → Int → Int → α × Int × Int} (hst : ∀ s a e, e ≠ 0 → (PP s a e).2 = (a, e)) {N k : Nat} {s : ByteArray} {a0 e0 : Int} {xs : List α} {ak : Int} (h : Sofar PP N k s a0 e0 xs ak 0) (hk : k < N) {q : α} {an en bn : Int} (hx : (PP s ak 0).2.2 = en) (hb : (PP s ak 0).2.1 = bn) (hq : en = 0 → (PP s ak 0).1 = q) :
    Sofar PP N (k + 1) s a0 e0 (xs ++ [q]) bn en := by
  have h0 := h.1 rfl
  have hs := listP_step (P := PP) (s := s) hk (show PP s ak 0 = ((PP s ak 0).1, (PP s ak 0).2.1, (PP s ak 0).2.2) from rfl)
  refine ⟨fun he => ?_, fun he => ?_⟩
  · have q1 := hq he
    rw [h0, hs, hx, he, q1, hb]
    simp
  · rw [h0, hs]
    simp only
    rw [hx, hb]
    exact listP_stay2 hst _ _ _ _ he
theorem Sofar.done {α : Type} {PP : ByteArray → Int → Int → α × Int × Int} {N : Nat} {s : ByteArray} {a0 e0 : Int} {xs : List α} {ak : Int} (h : Sofar PP N N s a0 e0 xs ak 0) : listP PP N s a0 e0 = (xs, ak, 0) := by
  rw [h.1 rfl, Nat.sub_self]
  simp [listP]
theorem hash_stay (s : ByteArray) (a e : Int) (h : e ≠ 0) : (hashP s a e).2 = (a, e) := by unfold hashP; rw [if_neg h]
theorem leaf_stay (s : ByteArray) (a e : Int) (h : e ≠ 0) : (leafP s a e).2 = (a, e) := by
  have t1 : textG s a e 160 = (⟨#[]⟩, a, e) := if_neg h
  have t2 : textG s a e 64 = (⟨#[]⟩, a, e) := if_neg h
  have t3 : numG s a e 0 1073741824 = (0, a, e) := if_neg h
  have t4 : countG s a e 30 = (0, a, e) := if_neg h
  unfold leafP mapP lfP seqP tP nP cP
  simp only [t1, t2, t3, t4]
  rfl
/-- Behind the reading of a proof by the document's reader. -/
def rdPfPost (b : Nat) (w : World) (s : ByteArray) (r : PfD × Int × Int) (e : Ending) (w' : World) : Prop :=
  ∃ (ct : Int) (a : Option Addr) (n c : Nat) (xs : List LeafV) (A : Int), e = .returned (.agg #[.int .i64 ct, .slice a n c]) ∧ lvsHeld w' w.heap.size a xs ∧ xs.length = n ∧ n ≤ c ∧ c ≤ maxLen ∧ QAt b w' s A r.2.2 ∧ (0 ≤ A ∧ A ≤ s.size) ∧ Kept b w w' ∧ A = r.2.1 ∧ (r.2.2 = 0 → (⟨ct, xs.map LeafV.d⟩ : PfD) = r.1)
set_option maxRecDepth 100000 in
set_option maxHeartbeats 12800000 in
theorem rdPf_any (b : Nat) (w : World) (s : ByteArray) (at_ err : Int) (h : QAt b w s at_ err) (hs : s.size ≤ 1000000000) (hp : 0 ≤ at_ ∧ at_ ≤ s.size) :
    Calls Tryd.prog 52 #[.pointer (some ⟨b, 0, none⟩)] w fun e w' => rdPfPost b w s (pfP s at_ err) e w' := by
  have p1 := numG_in (err := err) (least := 0) (most := 1073741824) hp
  obtain ⟨⟨ct, a1, e1⟩, h1⟩ : ∃ t, numG s at_ err 0 1073741824 = t := ⟨_, rfl⟩
  rw [h1] at p1
  have k2 := countG_val (s := s) (a := a1) (e := e1) (m := 2) (by decide)
  have p2 := countG_in (err := e1) (most := 2) p1
  obtain ⟨⟨cn, a2, e2⟩, h2⟩ : ∃ t, countG s a1 e1 2 = t := ⟨_, rfl⟩
  rw [h2] at k2 p2
  simp only at k2 p1 p2
  obtain ⟨N, rfl⟩ : ∃ N : Nat, cn = N := ⟨cn.toNat, by omega⟩
  obtain ⟨⟨xl, a5, e5⟩, h5⟩ : ∃ t, listP leafP N s a2 e2 = t := ⟨_, rfl⟩
  have hE : pfP s at_ err = (if e5 = 0 then ⟨ct, xl⟩ else ⟨0, []⟩, a5, e5) := by unfold pfP fixP mapP pfP0 seqP nP cP mkPf; simp only [h1, h2, Int.toNat_natCast, h5]
  obtain ⟨RR, hRR⟩ : ∃ r, pfP s at_ err = r := ⟨_, rfl⟩
  rw [hRR] at hE ⊢
  have HE : Hid (RR.2 = (a5, e5) ∧ (e5 = 0 → RR.1 = ⟨ct, xl⟩)) := Lib.hid ⟨by rw [hE], fun q => by rw [hE, if_pos q]⟩
  have C1 := fun W h => qnumK_all b W s at_ err 0 1073741824 h hs
  have C2 := fun W h => qcountK_all b W s a1 e1 2 h hs
  simp only [h1] at C1
  simp only [h2] at C2
  have H5 := Lib.hid h5
  have HN : Hid (N ≤ 2) := Lib.hid (by omega)
  have HP2 := Lib.hid p2
  clear h1 h2 h5 hE p1 p2 k2 hRR
  have hlt := h.lt
  obtain ⟨i0, hi, hz0', hz1, hz2⟩ := info_parts Tryd.infoLf
  obtain ⟨j0, hj, hy0', hy1, hy2⟩ := info_parts Tryd.infoHs
  have hz0 := heap_push w #[.int .i64 0, .slice none 0 0] 46
  have hbA : Below w.heap.size w (w.alloc (.cells #[.int .i64 0, .slice none 0 0] 46)) := Below.alloc (Below.refl _ _) (Nat.le_refl _) _
  go_enter Tryd.func52, Tryd.ntmps52
  go_upto_region 1 with fail
  refine wp_nameE _ (fun W1 hW => ?_)
  have hZ : W1.heap[w.heap.size]? = some (.cells #[.int .i64 0, .slice none 0 0] 46 (0, 0)) := by rw [hW]; exact hz0
  have hb1 : Below w.heap.size w W1 := by rw [hW]; exact hbA
  have hR := h.below hb1 hlt
  have hK : Kept b w W1 := Kept.of hb1
  have hzb : w.heap.size ≠ b := by omega
  have hzl : w.heap.size < W1.heap.size := (Array.getElem?_eq_some_iff.1 hZ).1
  clear hW hz0 hbA hb1 h
  go_upto_region 2 with (first | (go_at_call 86; refine (C1 _ hR).mono ?_; rintro e w2 ⟨rfl, hR, hk⟩; have hZ := hk.row5 hZ hzb; have hzl := Nat.lt_of_lt_of_le hzl hk.size; have hK := hK.trans hk) | (refine wpList_storeRowTo rfl (.tmp 3) (.tmp 11) 46 rfl (by kernel_rfl) rfl (by rfl) (heap_push _ _ _) rfl (pf_one _ _ _ _) ?_))
  refine wp_nameE _ (fun W3 hX => ?_)
  have hb : Below w2.heap.size w2 W3 := by rw [hX]; first | exact below_setRow (Below.alloc (Below.refl _ _) (Nat.le_refl _) _) (Nat.le_refl _) _ | exact Below.alloc (Below.refl _ _) (Nat.le_refl _) _
  have hG : W3.heap[w2.heap.size]? = some (.cells #[.int .i64 ct, .slice none 0 0] 46 (0, 0)) := by rw [hX]; first | exact setRow_heap _ _ _ _ _ _ (heap_push _ _ _) | exact heap_push _ _ _
  have hR := hR.below hb hR.lt
  have hZ := cells_of hZ hb hzl
  have hK := hK.trans (Kept.of hb)
  have hwz : w.heap.size ≤ w2.heap.size := by omega
  obtain ⟨g, hgg⟩ : ∃ g, w2.heap.size = g := ⟨_, rfl⟩
  rw [hgg] at hG hzl hwz
  simp only [hgg]
  have hgb : g ≠ b := by omega
  have hgz : g ≠ w.heap.size := by omega
  clear hX hgg hb
  go_upto_region 3 with (go_at_call 87; refine (C2 _ hR).mono ?_; rintro e w4 ⟨rfl, hR, hk⟩; have hG := hk.row5 hG hgb; have hZ := hk.row5 hZ hzb; have hK := hK.trans hk)
  clear C1 C2
  obtain ⟨base, hbase⟩ : ∃ x, w4.heap.size = x := ⟨_, rfl⟩
  have hgl : g < base := by rw [← hbase]; exact (Array.getElem?_eq_some_iff.1 hG).1
  go_upto_region 4 with fail
  go_loopw [5] (fun i wr => ∃ (k : Nat) (xs : List LeafV) (sv : Value) (ak ek : Int), k ≤ N ∧ xs.length = k ∧ Hid (0 ≤ ak ∧ ak ≤ s.size) ∧ Hid (Sofar leafP N k s a2 e2 (xs.map LeafV.d) ak ek) ∧ wr.heap[g]? = some (.cells #[.int .i64 ct, sv] 46 (0, 0)) ∧ wr.ownsRow base 94 4 sv k (xs.flatMap LeafV.cells) ∧ (∀ x ∈ xs, x.held wr base) ∧ QAt b wr s ak ek ∧ wr.heap[w.heap.size]? = some (.cells #[.int .i64 0, .slice none 0 0] 46 (0, 0)) ∧ base ≤ wr.heap.size ∧ Kept b w wr ∧ i = .int .i64 k) (fun i _ => N - (intOf i).toNat)
  case atStart => exact ⟨0, [], .slice none 0 0, a2, e2, Nat.zero_le _, rfl, HP2, Lib.hid (Sofar.start leaf_stay _ _ _ _), hG, ⟨rfl, .inl ⟨rfl, rfl⟩⟩, (fun x h => by cases h), hR, hZ, by omega, hK, rfl⟩
  case round =>
    clear hG hR hZ hK HP2
    obtain ⟨k, xs, sv, ak, ek, hk, hxl, HP, HL, hG, hown, hxs, hR, hZ, hbw, hK, rfl⟩ := hrel
    obtain ⟨wo, rfl⟩ : ∃ x, x = wr := ⟨_, rfl⟩
    have c2 := hR.c2
    by_cases hlt : k < N
    · have d1 : decide ((k : Int) < (N : Int)) = true := decide_eq_true (by omega)
      have d1n : decide (k < N) = true := decide_eq_true hlt
      by_cases hek : ek = 0
      rotate_left
      · have ee : (ek == 0) = false := beq_eq_false_iff_ne.2 hek
        obtain ⟨a, cap, hsv, hrow, hkc, hcm, hab⟩ := own_slice hown
        subst hsv
        have hheld : lvsHeld wo base a xs := ⟨hrow, own_held hown, hxs⟩
        have hfin : e5 = ek ∧ a5 = ak ∧ (ek = 0 → xs.map LeafV.d = xl) := by
          have := HL.out.2 hek; rw [H5.out, Prod.mk.injEq] at this; exact ⟨this.2, this.1, fun h => absurd h hek⟩
        obtain ⟨hfe, hfa, hfv⟩ := hfin
        have HFV := Lib.hid hfv
        have HFA := Lib.hid hfa
        clear HL H5 hown hfv hfa
        go_wp2_with (first | (refine wpList_load_mid rfl 46 (.tmp 3) rfl g 0 rfl _ _ (rangeAt_row5 hG) Tryd.underlying46 rfl (by kernel_rfl) ?_) | (refine wpList_storeRowTo (Z := #[.int .i64 ct, .slice a k cap]) rfl (.tmp 2) (.tmp 62) 46 rfl (by kernel_rfl) rfl (by rfl) hZ rfl (pf_one _ _ _ _) ?_))
        have hZ2 : (World.setRow _ w.heap.size #[.int .i64 ct, .slice a k cap]).heap[w.heap.size]? = some (.cells #[.int .i64 ct, .slice a k cap] 46 (0, 0)) := setRow_heap _ _ _ _ _ _ hZ
        have hrd := run_loadVar_mid (P := Tryd.prog) _ w.heap.size 0 46 (#[.int .i64 ct, .slice a k cap] : Array Value).toList _ (rangeAt_row5 hZ2) Tryd.underlying46 rfl (by kernel_rfl)
        refine bodyPost_ret (v := .agg #[.int .i64 ct, .slice a k cap]) ?_ rfl ?_
        · simp [results, Tryd.results52, asAddr]
          exact hrd
        refine ⟨ct, a, k, cap, xs, ak, rfl, (hheld.same (SameT.setRow (Nat.lt_trans hzl hgl)) (SameT.setRow (Nat.lt_trans hzl hgl))).mono (Nat.le_trans hwz (Nat.le_of_lt hgl)), hxl, hkc, hcm, ?_, HP.out, hK.setRow (Nat.le_refl _) _, ?_, fun h => ?_⟩
        · rw [HE.out.1, hfe]; exact hR.setRow8 hzb _
        · rw [HE.out.1, HFA.out]
        · have h5 : e5 = 0 := by rw [HE.out.1] at h; exact h
          have q1 := HFV.out (by rw [← hfe]; exact h5)
          rw [HE.out.2 h5, q1]
      subst hek
      have k1 := textG_size s ak 0 160
      have p1 := textG_in (err := 0) (most := 160) HP.out
      obtain ⟨⟨key, b1, f1⟩, h1⟩ : ∃ t, textG s ak 0 160 = t := ⟨_, rfl⟩
      rw [h1] at k1 p1
      have k2 := textG_size s b1 f1 64
      have p2 := textG_in (err := f1) (most := 64) p1
      obtain ⟨⟨val, b2, f2⟩, h2⟩ : ∃ t, textG s b1 f1 64 = t := ⟨_, rfl⟩
      rw [h2] at k2 p2
      have p3 := numG_in (err := f2) (least := 0) (most := 1073741824) p2
      obtain ⟨⟨idx, b3, f3⟩, h3⟩ : ∃ t, numG s b2 f2 0 1073741824 = t := ⟨_, rfl⟩
      rw [h3] at p3
      have k4 := countG_val (s := s) (a := b3) (e := f3) (m := 30) (by decide)
      have p4 := countG_in (err := f3) (most := 30) p3
      obtain ⟨⟨cm, b4, f4⟩, h4⟩ : ∃ t, countG s b3 f3 30 = t := ⟨_, rfl⟩
      rw [h4] at k4 p4
      simp only at k1 k2 k4 p1 p2 p3 p4
      obtain ⟨M, rfl⟩ : ∃ M : Nat, cm = M := ⟨cm.toNat, by omega⟩
      have HLF : Hid (leafP s ak 0 = (⟨key, val, idx, (listP hashP M s b4 f4).1⟩, (listP hashP M s b4 f4).2.1, (listP hashP M s b4 f4).2.2)) := Lib.hid (by unfold leafP mapP lfP seqP tP nP cP mkLf; simp only [h1, h2, h3, h4, Int.toNat_natCast])
      have D1 := fun W h => qtextK_all b W s ak 0 160 h hs
      have D2 := fun W h => qtextK_all b W s b1 f1 64 h hs
      have D3 := fun W h => qnumK_all b W s b2 f2 0 1073741824 h hs
      have D4 := fun W h => qcountK_all b W s b3 f3 30 h hs
      simp only [h1] at D1
      simp only [h2] at D2
      simp only [h3] at D3
      simp only [h4] at D4
      have HM : Hid (M ≤ 30) := Lib.hid (by omega)
      have HP4 := Lib.hid p4
      have HKV : Hid (key.size ≤ maxLen ∧ val.size ≤ maxLen) := Lib.hid (by unfold maxLen; omega)
      have hKr : Kept b wo wo := Kept.of (Below.refl _ _)
      have hbr := hR.lt
      have hgr : g < wo.heap.size := by omega
      clear h1 h2 h3 h4 p1 p2 p3 p4 k1 k2 k4
      go_upto_region 6 with fail
      clear c2
      go_upto_region 7 with (first | (go_at_call 88; refine (D1 _ hR).mono ?_; rintro e w5 ⟨rfl, hR, hk5⟩; have hKr := hKr.trans hk5) | (refine wpList_storeRowTo rfl (.tmp 6) (.tmp 28) 94 rfl (by kernel_rfl) rfl (by rfl) (heap_push _ _ _) rfl (lf_one _ _ _ _ _ _) ?_))
      refine wp_nameE _ (fun W6 hX => ?_)
      have hb6 : Below w5.heap.size w5 W6 := by rw [hX]; first | exact below_setRow (Below.alloc (Below.refl _ _) (Nat.le_refl _) _) (Nat.le_refl _) _ | exact Below.alloc (Below.refl _ _) (Nat.le_refl _) _
      have hX6 : W6.heap[w5.heap.size]? = some (.cells #[.string key, .string ⟨#[]⟩, .int .i64 0, .slice none 0 0] 94 (0, 0)) := by rw [hX]; first | exact setRow_heap _ _ _ _ _ _ (heap_push _ _ _) | exact heap_push _ _ _
      clear hX
      have hX := hX6
      have hR := hR.below hb6 hR.lt
      have hwx := hKr.size
      have hKr := hKr.trans (Kept.of hb6)
      obtain ⟨gx, hgx⟩ : ∃ g, w5.heap.size = g := ⟨_, rfl⟩
      rw [hgx] at hX hwx
      simp only [hgx]
      have hxb : gx ≠ b := by omega
      clear hX6 hgx hb6
      have qk := cell_heap hX 1; have fk := frozen_heap hX 1
      go_upto_region 8 with (go_at_call 88; refine (D2 _ hR).mono ?_; rintro e w1 ⟨rfl, hR, hk⟩; have hX := hk.row5 hX hxb; have hKr := hKr.trans hk; have qk := cell_heap hX 1; have fk := frozen_heap hX 1)
      refine wp_nameE _ (fun W7 hW => ?_)
      have hR : QAt b W7 s b2 f2 := by rw [hW]; exact hR.put8 hxb _
      have hX : W7.heap[gx]? = some (.cells #[.string key, .string val, .int .i64 0, .slice none 0 0] 94 (0, 0)) := by rw [hW]; exact row_put5 hX
      have hKr : Kept b wo W7 := by rw [hW]; exact hKr.setFar hwx
      clear hW qk fk
      have qk := cell_heap hX 2; have fk := frozen_heap hX 2
      go_upto_region 9 with (go_at_call 86; refine (D3 _ hR).mono ?_; rintro e w1 ⟨rfl, hR, hk⟩; have hX := hk.row5 hX hxb; have hKr := hKr.trans hk; have qk := cell_heap hX 2; have fk := frozen_heap hX 2)
      refine wp_nameE _ (fun W8 hW => ?_)
      have hR : QAt b W8 s b3 f3 := by rw [hW]; exact hR.put8 hxb _
      have hX : W8.heap[gx]? = some (.cells #[.string key, .string val, .int .i64 idx, .slice none 0 0] 94 (0, 0)) := by rw [hW]; exact row_put5 hX
      have hKr : Kept b wo W8 := by rw [hW]; exact hKr.setFar hwx
      clear hW qk fk
      go_upto_region 11 with (go_at_call 87; refine (D4 _ hR).mono ?_; rintro e w9 ⟨rfl, hR, hk⟩; have hX := hk.row5 hX hxb; have hKr := hKr.trans hk)
      clear D1 D2 D3 D4
      obtain ⟨base2, hbase2⟩ : ∃ x, w9.heap.size = x := ⟨_, rfl⟩
      have hxl2 : gx < base2 := by rw [← hbase2]; exact (Array.getElem?_eq_some_iff.1 hX).1
      have hbb2 : b < base2 := by omega
      go_loopw [8] (fun i wv => ∃ (j : Nat) (zs : List H32) (pv : Value) (bj fj : Int), j ≤ M ∧ zs.length = j ∧ Hid (0 ≤ bj ∧ bj ≤ s.size) ∧ Hid (Sofar hashP M j s b4 f4 zs bj fj) ∧ wv.heap[gx]? = some (.cells #[.string key, .string val, .int .i64 idx, pv] 94 (0, 0)) ∧ wv.ownsRow base2 25 32 pv j (zs.flatMap H32.cells) ∧ QAt b wv s bj fj ∧ base2 ≤ wv.heap.size ∧ Kept b wo wv ∧ i = .int .i64 j) (fun i _ => M - (intOf i).toNat)
      case atStart => exact ⟨0, [], .slice none 0 0, b4, f4, Nat.zero_le _, rfl, HP4, Lib.hid (Sofar.start hash_stay _ _ _ _), hX, ⟨rfl, .inl ⟨rfl, rfl⟩⟩, hR, by omega, hKr, rfl⟩
      case round =>
        clear hX hR HP4
        obtain ⟨j, zs, pv, bj, fj, hj9, hzl9, HPJ, HLJ, hX, hown2, hR, hbw2, hKv, rfl⟩ := hrel
        have c2 := hR.c2
        by_cases hgo : j < M ∧ fj = 0
        · obtain ⟨hltj, rfl⟩ := hgo
          have d2 : decide ((j : Int) < (M : Int)) = true := decide_eq_true (by omega)
          have d2n : decide (j < M) = true := decide_eq_true hltj
          have CN := fun W h => qhashK_all b W s bj 0 h hs HPJ.out
          rw [hashP_G HPJ.out.1] at CN
          have hpn : 0 ≤ (hashP s bj 0).2.1 ∧ (hashP s bj 0).2.1 ≤ s.size := by
            have q := hashG_in (err := 0) HPJ.out
            rw [hashP_G HPJ.out.1] at q
            exact q
          have hnx := fun q bn en => Sofar.next hash_stay HLJ.out hltj (q := q) (an := 0) (bn := bn) (en := en)
          obtain ⟨⟨q, an, en⟩, hI⟩ : ∃ x, hashP s bj 0 = x := ⟨_, rfl⟩
          simp only [hI] at CN hpn hnx
          have HNX : Hid (Sofar hashP M (j + 1) s b4 f4 (zs ++ [q]) an en) := Lib.hid (hnx q an en rfl rfl (fun _ => rfl))
          have HPN := Lib.hid hpn
          clear hI hnx hpn
          have hqs : (hrow q.1).size = 32 := by rw [hrow_size]; exact q.2
          go_upto_region 13 with fail
          refine wp_region_state_chain 5 (by decide) (fun D x W => PushQ wr b s (.pointer (some ⟨gx, 3, none⟩)) pv (.pointer (some ⟨b, 0, none⟩)) bj 0 an en (fun v _ => v = .agg (hrow q.1)) (fun _ v W => ∃ g4, v = .slice (some ⟨g4, 0, none⟩) 1 1 ∧ W.heap[g4]? = some (.cells (hrow q.1) 25 (0, 0))) (D 0) (D 1) (D 2) (D 3) (D 4) (x 0) (x 1) (x 2) (x 3) (x 4) W) (by kernel_rfl) (by kernel_rfl) (by kernel_rfl) (by kernel_rfl) (by kernel_rfl) (by kernel_rfl) (by kernel_rfl) (fun x => by simp only [List.take_succ_cons, List.take_zero, fillFrom, Act.put, List.setIfInBounds_toArray, List.set_cons_succ, List.set_cons_zero, Nat.zero_add, Nat.reduceAdd]; rfl) ?_ ?_ ?_
          case refine_1 => exact fun x => ⟨(fun h => by cases h), (fun h => by cases h), (fun h => by cases h), (fun h => by cases h), (fun h => by cases h), hR.drew 1, (Kept.of (Below.refl _ _)).drewN 1⟩
          case refine_2 =>
            simp only [List.take_succ_cons, List.take_zero]
            refine ⟨?_, ?_, ?_, ?_, ?_, trivial⟩
            · intro D x w' hD ⟨i0', i1, i2, i3, i4, iR, iK⟩ hw hcl
              clear hw
              go_wp2_with fail
              exact stPost_mk rfl rfl ⟨fun _ => rfl, i1, i2, i3, i4, iR, iK⟩
            · intro D x w' hD ⟨i0', i1, i2, i3, i4, iR, iK⟩ hw hcl
              have d0 := i0' (hw 0 rfl)
              have m := cell_heap (iK.row5 hX hxb) 3
              clear hw
              go_wp2_with fail
              exact stPost_mk rfl rfl ⟨fun h => (by first | rfl | exact i0' h), fun _ => rfl, i2, i3, i4, iR, iK⟩
            · intro D x w' hD ⟨i0', i1, i2, i3, i4, iR, iK⟩ hw hcl
              clear hw
              go_wp2_with fail
              exact stPost_mk rfl rfl ⟨i0', i1, fun _ => rfl, i3, i4, iR, iK⟩
            · intro D x w' hD ⟨i0', i1, i2, i3, i4, iR, iK⟩ hw hcl
              have d2 := i2 (hw 2 rfl)
              have n4 : D 4 = true → False := fun h => by have := hcl.at (i := 4) (j := 3) h rfl; rw [hD] at this; cases this
              clear hw
              rw [hD] at iR
              go_wp2_with (go_at_call 89; refine (CN w' iR).mono ?_; rintro e w2 ⟨rfl, hr2, hk2⟩)
              exact stPost_mk rfl rfl ⟨i0', i1, fun h => (by first | rfl | exact i2 h), fun _ => rfl, fun h => (n4 h).elim, hr2, iK.trans hk2⟩
            · intro D x w' hD ⟨i0', i1, i2, i3, i4, iR, iK⟩ hw hcl
              have h3 := hw 3 rfl
              have d3 := i3 h3
              clear hw
              refine wpList_one rfl (.tmp 52) 22 25 rfl (by exact d3) (one_hash _ hqs _) ?_
              have hb : Below w'.heap.size w' (w'.alloc (.cells (hrow q.1) 25)) := Below.alloc (Below.refl _ _) (Nat.le_refl _) _
              exact ⟨rfl, rfl, i0', i1, i2, i3, fun _ => ⟨w'.heap.size, rfl, heap_push _ _ _⟩, iR.below hb iR.lt, iK.trans (Kept.of hb)⟩
          case refine_3 =>
            rintro w' x ⟨x0, x1, x2, x3, x4, hR, hk2⟩
            have hR : QAt b w' s an en := hR
            replace x0 := x0 rfl; replace x1 := x1 rfl; replace x2 := x2 rfl; replace x3 := x3 rfl
            obtain ⟨g4, x4, hg4⟩ := x4 rfl
            have hX := hk2.row5 hX hxb
            have hown2 := own_far hown2 (hk2.far (by omega))
            have hbw2 := Nat.le_trans hbw2 hk2.size
            have hKv := hKv.trans hk2
            have hnews : ∀ j u, q.cells[j]? = some u → w'.cell? ((⟨g4, 0, none⟩ : Addr).add j) = some u := fun j u hj => by
              rw [Addr.add_mid, Nat.zero_add, cell_heap hg4, ← hj, show hrow q.1 = q.cells.toArray from rfl, List.getElem?_toArray]
            simp only [x0, x1, x2, x3, x4, List.drop_succ_cons, List.drop_zero]
            clear x0 x1 x2 x3 x4 CN hk2
            have hM30 := HM.out
            refine wpList_append_own _ rfl (.tmp 50) (.tmp 53) 22 rfl base2 25 j0 (.agg #[.int .u8 0, .int .u8 0, .int .u8 0, .int .u8 0, .int .u8 0, .int .u8 0, .int .u8 0, .int .u8 0, .int .u8 0, .int .u8 0, .int .u8 0, .int .u8 0, .int .u8 0, .int .u8 0, .int .u8 0, .int .u8 0, .int .u8 0, .int .u8 0, .int .u8 0, .int .u8 0, .int .u8 0, .int .u8 0, .int .u8 0, .int .u8 0, .int .u8 0, .int .u8 0, .int .u8 0, .int .u8 0, .int .u8 0, .int .u8 0, .int .u8 0, .int .u8 0]) 32 32 Tryd.underlying22 hj hy0' hy1 hy2 rfl (by decide) _ _ _ rfl hown2 ⟨g4, 0, none⟩ 1 1 q.cells rfl (by rw [H32.cells_len]) hnews (Lib.byteCells_one q.1) (by unfold maxLen; omega) (by omega) hbw2 ?_
            intro v9 w10 hown9 hgr _
            have hb9 : Below base2 w' w10 := below_grown hown2 hgr hbw2
            clear hgr hnews
            simp only [Act.put, List.setIfInBounds_toArray, List.set_cons_succ, List.set_cons_zero]
            obtain ⟨a9, cap9, hv9, _⟩ := own_slice hown9
            subst hv9
            have hX9 := cells_of hX hb9 hxl2
            have hR9 := hR.below hb9 hbb2
            have qk := cell_heap hX9 3; have fk := frozen_heap hX9 3
            go_wp2
            go_roundw
            case rel =>
              refine ⟨j + 1, zs ++ [q], .slice a9 (j + 1) cap9, an, en, by omega, by simp [hzl9], HPN, HNX, row_put5 hX9, ?_, hR9.put8 hxb _, by rw [World.size_setCell]; exact Nat.le_trans hbw2 hb9.size, (hKv.grow hb9 (by omega)).setFar hwx, by go_num⟩
              · have := own_far (w' := w10.setCell ⟨gx, 3, none⟩ (.slice a9 (j + 1) cap9)) hown9 (fun j q1 q2 => row_oth' w10 gx 3 j _ (by omega))
                rw [List.flatMap_append, List.flatMap_cons, List.flatMap_nil, List.append_nil]
                exact this
            case measure => (simp [intOf]) <;> omega
        · by_cases hltj : j < M
          · have hfj : fj ≠ 0 := fun h => hgo ⟨hltj, h⟩
            have d2 : decide ((j : Int) < (M : Int)) = true := decide_eq_true (by omega)
            have d2n : decide (j < M) = true := decide_eq_true hltj
            have ee : (fj == 0) = false := beq_eq_false_iff_ne.2 hfj
            have hLh : (listP hashP M s b4 f4).2 = (bj, fj) ∧ (fj = 0 → (listP hashP M s b4 f4).1 = zs) := by
              exact ⟨HLJ.out.2 hfj, fun h => absurd h hfj⟩
            obtain ⟨pa, pcap, hpv, hprow, hpkc, hpcm, _⟩ := own_slice hown2
            subst hpv
            have hph := own_held hown2
            have hxh : (⟨key, val, idx, pa, j, pcap, zs⟩ : LeafV).held wr base := ⟨⟨hprow, hzl9, hpkc, hpcm, HKV.out.1, HKV.out.2⟩, hph.mono (by omega)⟩
            have HNEXT : Hid (Sofar leafP N (k + 1) s a2 e2 ((xs ++ [(⟨key, val, idx, pa, j, pcap, zs⟩ : LeafV)]).map LeafV.d) bj fj) := Lib.hid (by
              rw [List.map_append]
              exact Sofar.next leaf_stay HL.out hlt (an := 0) (by rw [HLF.out]; exact congrArg Prod.snd hLh.1) (by rw [HLF.out]; exact congrArg Prod.fst hLh.1) (fun q0 => by rw [HLF.out]; simp only [hLh.2 q0]; rfl))
            have hG := hKv.row5 hG hgb
            have hZ := hKv.row5 hZ hzb
            have hown := own_far hown (hKv.far (by omega))
            have hxs : ∀ x ∈ xs, x.held wr base := fun x hx => (hxs x hx).same (SameT.kept hKv (by omega))
            have hbw : base ≤ wr.heap.size := by have := hKv.size; omega
            have hK := hK.trans hKv
            have hN2 := HN.out
            clear hLh hKv hown2 hph hprow HLJ
            go_upto_region 14 with fail
            have qG := cell_heap hG 1
            go_step
            go_step
            go_step
            go_step
            go_step
            go_step
            go_step
            refine wpList_load_mid rfl 94 (.tmp 6) rfl gx 0 rfl _ _ (rangeAt_row5 hX) Tryd.underlying94 rfl (by kernel_rfl) ?_
            refine wpList_one (R := #[.string key, .string val, .int .i64 idx, .slice pa j pcap]) rfl (.tmp 58) 44 94 rfl (by rfl) (one_leaf _ rfl _) ?_
            have hb : Below wr.heap.size wr (wr.alloc (.cells #[.string key, .string val, .int .i64 idx, .slice pa j pcap] 94)) := Below.alloc (Below.refl _ _) (Nat.le_refl _) _
            have hg4 := heap_push wr #[.string key, .string val, .int .i64 idx, .slice pa j pcap] 94
            obtain ⟨W9, hW9⟩ : ∃ W, wr.alloc (.cells #[.string key, .string val, .int .i64 idx, .slice pa j pcap] 94) = W := ⟨_, rfl⟩
            rw [hW9] at hb hg4 ⊢
            obtain ⟨g5, hg5⟩ : ∃ g, wr.heap.size = g := ⟨_, rfl⟩
            have hown := own_kept9 hown hb
            have hxs : ∀ x ∈ xs, x.held W9 base := fun x hx => (hxs x hx).same (SameT.below hb)
            have hxh := hxh.same (SameT.below hb)
            have hG := cells_of hG hb (by omega)
            have hZ := cells_of hZ hb (by omega)
            have hR := hR.below hb hR.lt
            have hK := hK.trans (Kept.of hb)
            have hbw := Nat.le_trans hbw hb.size
            rw [hg5] at hg4
            clear hW9
            have hnews : ∀ i u, (⟨key, val, idx, pa, j, pcap, zs⟩ : LeafV).cells[i]? = some u → W9.cell? ((⟨g5, 0, none⟩ : Addr).add i) = some u := fun i u hi => by
              rw [Addr.add_mid, Nat.zero_add, cell_heap hg4, ← hi, show #[.string key, .string val, .int .i64 idx, .slice pa j pcap] = (⟨key, val, idx, pa, j, pcap, zs⟩ : LeafV).cells.toArray from rfl, List.getElem?_toArray]
            simp only [Act.put, List.setIfInBounds_toArray, List.set_cons_succ, List.set_cons_zero, hg5]
            refine wpList_append_own _ rfl (.tmp 57) (.tmp 59) 44 rfl base 94 i0 (.agg #[.string ⟨#[]⟩, .string ⟨#[]⟩, .int .i64 0, .slice none 0 0]) 4 64 Tryd.underlying44 hi hz0' hz1 hz2 rfl (by decide) _ _ _ rfl hown ⟨g5, 0, none⟩ 1 1 (⟨key, val, idx, pa, j, pcap, zs⟩ : LeafV).cells rfl (by rw [LeafV.cells_len]) hnews (fun u hu => by simp [LeafV.cells] at hu; rcases hu with rfl | rfl | rfl | rfl <;> rfl) (by unfold maxLen; omega) (by omega) hbw ?_
            intro v9 w10 hown9 hgr9 _
            have hb9 : Below base W9 w10 := below_grown hown hgr9 hbw
            have hsm : SameT 25 base W9 w10 := SameT.grown hown hgr9 (by decide)
            clear hgr9 hnews
            simp only [Act.put, List.setIfInBounds_toArray, List.set_cons_succ, List.set_cons_zero]
            obtain ⟨a9, cap9, hv9, _⟩ := own_slice hown9
            subst hv9
            have hG9 := cells_of hG hb9 hgl
            have hZ9 := cells_of hZ hb9 (by omega)
            have hR9 := hR.below hb9 (by omega)
            have hsm9 : SameT 25 base w10 (w10.setCell ⟨g, 1, none⟩ (.slice a9 (k + 1) cap9)) := SameT.put hgl
            have qk := cell_heap hG9 1; have fk := frozen_heap hG9 1
            go_wp2
            go_roundw
            case rel =>
              refine ⟨k + 1, xs ++ [(⟨key, val, idx, pa, j, pcap, zs⟩ : LeafV)], .slice a9 (k + 1) cap9, bj, fj, by omega, by simp [hxl], HPJ, HNEXT, row_put5 hG9, ?_, fun x hx => ?_, hR9.put8 hgb _, row_oth hZ9 hgz, by rw [World.size_setCell]; exact Nat.le_trans hbw hb9.size, (hK.grow hb9 (by omega)).setFar (by omega), by go_num⟩
              · have := own_far (w' := w10.setCell ⟨g, 1, none⟩ (.slice a9 (k + 1) cap9)) hown9 (fun j q1 q2 => row_oth' w10 g 1 j _ (by omega))
                rw [List.flatMap_append, List.flatMap_cons, List.flatMap_nil, List.append_nil]
                exact this
              · rcases List.mem_append.1 hx with q' | q'
                · exact ((hxs x q').same hsm).same hsm9
                · rw [List.mem_singleton.1 q']; exact (hxh.same hsm).same hsm9
            case measure => (simp [intOf]) <;> omega
          · have hjM : j = M := by omega
            have d2 : decide ((j : Int) < (M : Int)) = false := decide_eq_false (by omega)
            have d2n : decide (j < M) = false := decide_eq_false (by omega)
            have hLh : (listP hashP M s b4 f4).2 = (bj, fj) ∧ (fj = 0 → (listP hashP M s b4 f4).1 = zs) := by
              by_cases hfj : fj = 0
              · subst hfj
                have h9 := HLJ.out
                rw [hjM] at h9
                rw [h9.done]
                exact ⟨rfl, fun _ => rfl⟩
              · exact ⟨HLJ.out.2 hfj, fun h => absurd h hfj⟩
            obtain ⟨pa, pcap, hpv, hprow, hpkc, hpcm, _⟩ := own_slice hown2
            subst hpv
            have hph := own_held hown2
            have hxh : (⟨key, val, idx, pa, j, pcap, zs⟩ : LeafV).held wr base := ⟨⟨hprow, hzl9, hpkc, hpcm, HKV.out.1, HKV.out.2⟩, hph.mono (by omega)⟩
            have HNEXT : Hid (Sofar leafP N (k + 1) s a2 e2 ((xs ++ [(⟨key, val, idx, pa, j, pcap, zs⟩ : LeafV)]).map LeafV.d) bj fj) := Lib.hid (by
              rw [List.map_append]
              exact Sofar.next leaf_stay HL.out hlt (an := 0) (by rw [HLF.out]; exact congrArg Prod.snd hLh.1) (by rw [HLF.out]; exact congrArg Prod.fst hLh.1) (fun q0 => by rw [HLF.out]; simp only [hLh.2 q0]; rfl))
            have hG := hKv.row5 hG hgb
            have hZ := hKv.row5 hZ hzb
            have hown := own_far hown (hKv.far (by omega))
            have hxs : ∀ x ∈ xs, x.held wr base := fun x hx => (hxs x hx).same (SameT.kept hKv (by omega))
            have hbw : base ≤ wr.heap.size := by have := hKv.size; omega
            have hK := hK.trans hKv
            have hN2 := HN.out
            clear hLh hKv hown2 hph hprow HLJ
            go_upto_region 14 with fail
            have qG := cell_heap hG 1
            go_step
            go_step
            go_step
            go_step
            go_step
            go_step
            go_step
            refine wpList_load_mid rfl 94 (.tmp 6) rfl gx 0 rfl _ _ (rangeAt_row5 hX) Tryd.underlying94 rfl (by kernel_rfl) ?_
            refine wpList_one (R := #[.string key, .string val, .int .i64 idx, .slice pa j pcap]) rfl (.tmp 58) 44 94 rfl (by rfl) (one_leaf _ rfl _) ?_
            have hb : Below wr.heap.size wr (wr.alloc (.cells #[.string key, .string val, .int .i64 idx, .slice pa j pcap] 94)) := Below.alloc (Below.refl _ _) (Nat.le_refl _) _
            have hg4 := heap_push wr #[.string key, .string val, .int .i64 idx, .slice pa j pcap] 94
            obtain ⟨W9, hW9⟩ : ∃ W, wr.alloc (.cells #[.string key, .string val, .int .i64 idx, .slice pa j pcap] 94) = W := ⟨_, rfl⟩
            rw [hW9] at hb hg4 ⊢
            obtain ⟨g5, hg5⟩ : ∃ g, wr.heap.size = g := ⟨_, rfl⟩
            have hown := own_kept9 hown hb
            have hxs : ∀ x ∈ xs, x.held W9 base := fun x hx => (hxs x hx).same (SameT.below hb)
            have hxh := hxh.same (SameT.below hb)
            have hG := cells_of hG hb (by omega)
            have hZ := cells_of hZ hb (by omega)
            have hR := hR.below hb hR.lt
            have hK := hK.trans (Kept.of hb)
            have hbw := Nat.le_trans hbw hb.size
            rw [hg5] at hg4
            clear hW9
            have hnews : ∀ i u, (⟨key, val, idx, pa, j, pcap, zs⟩ : LeafV).cells[i]? = some u → W9.cell? ((⟨g5, 0, none⟩ : Addr).add i) = some u := fun i u hi => by
              rw [Addr.add_mid, Nat.zero_add, cell_heap hg4, ← hi, show #[.string key, .string val, .int .i64 idx, .slice pa j pcap] = (⟨key, val, idx, pa, j, pcap, zs⟩ : LeafV).cells.toArray from rfl, List.getElem?_toArray]
            simp only [Act.put, List.setIfInBounds_toArray, List.set_cons_succ, List.set_cons_zero, hg5]
            refine wpList_append_own _ rfl (.tmp 57) (.tmp 59) 44 rfl base 94 i0 (.agg #[.string ⟨#[]⟩, .string ⟨#[]⟩, .int .i64 0, .slice none 0 0]) 4 64 Tryd.underlying44 hi hz0' hz1 hz2 rfl (by decide) _ _ _ rfl hown ⟨g5, 0, none⟩ 1 1 (⟨key, val, idx, pa, j, pcap, zs⟩ : LeafV).cells rfl (by rw [LeafV.cells_len]) hnews (fun u hu => by simp [LeafV.cells] at hu; rcases hu with rfl | rfl | rfl | rfl <;> rfl) (by unfold maxLen; omega) (by omega) hbw ?_
            intro v9 w10 hown9 hgr9 _
            have hb9 : Below base W9 w10 := below_grown hown hgr9 hbw
            have hsm : SameT 25 base W9 w10 := SameT.grown hown hgr9 (by decide)
            clear hgr9 hnews
            simp only [Act.put, List.setIfInBounds_toArray, List.set_cons_succ, List.set_cons_zero]
            obtain ⟨a9, cap9, hv9, _⟩ := own_slice hown9
            subst hv9
            have hG9 := cells_of hG hb9 hgl
            have hZ9 := cells_of hZ hb9 (by omega)
            have hR9 := hR.below hb9 (by omega)
            have hsm9 : SameT 25 base w10 (w10.setCell ⟨g, 1, none⟩ (.slice a9 (k + 1) cap9)) := SameT.put hgl
            have qk := cell_heap hG9 1; have fk := frozen_heap hG9 1
            go_wp2
            go_roundw
            case rel =>
              refine ⟨k + 1, xs ++ [(⟨key, val, idx, pa, j, pcap, zs⟩ : LeafV)], .slice a9 (k + 1) cap9, bj, fj, by omega, by simp [hxl], HPJ, HNEXT, row_put5 hG9, ?_, fun x hx => ?_, hR9.put8 hgb _, row_oth hZ9 hgz, by rw [World.size_setCell]; exact Nat.le_trans hbw hb9.size, (hK.grow hb9 (by omega)).setFar (by omega), by go_num⟩
              · have := own_far (w' := w10.setCell ⟨g, 1, none⟩ (.slice a9 (k + 1) cap9)) hown9 (fun j q1 q2 => row_oth' w10 g 1 j _ (by omega))
                rw [List.flatMap_append, List.flatMap_cons, List.flatMap_nil, List.append_nil]
                exact this
              · rcases List.mem_append.1 hx with q' | q'
                · exact ((hxs x q').same hsm).same hsm9
                · rw [List.mem_singleton.1 q']; exact (hxh.same hsm).same hsm9
            case measure => (simp [intOf]) <;> omega
    · obtain rfl : k = N := by omega
      have d1 : decide ((k : Int) < (k : Int)) = false := decide_eq_false (by omega)
      have d1n : decide (k < k) = false := decide_eq_false (by omega)
      obtain ⟨a, cap, hsv, hrow, hkc, hcm, hab⟩ := own_slice hown
      subst hsv
      have hheld : lvsHeld wo base a xs := ⟨hrow, own_held hown, hxs⟩
      have hfin : e5 = ek ∧ a5 = ak ∧ (ek = 0 → xs.map LeafV.d = xl) := by
        by_cases hek : ek = 0
        · subst hek
          have := HL.out.done
          rw [H5.out, Prod.mk.injEq, Prod.mk.injEq] at this
          exact ⟨this.2.2, this.2.1, fun _ => this.1.symm⟩
        · have := HL.out.2 hek
          rw [H5.out, Prod.mk.injEq] at this
          exact ⟨this.2, this.1, fun h => absurd h hek⟩
      obtain ⟨hfe, hfa, hfv⟩ := hfin
      have HFV := Lib.hid hfv
      have HFA := Lib.hid hfa
      clear HL H5 hown hfv hfa
      go_wp2_with (first | (refine wpList_load_mid rfl 46 (.tmp 3) rfl g 0 rfl _ _ (rangeAt_row5 hG) Tryd.underlying46 rfl (by kernel_rfl) ?_) | (refine wpList_storeRowTo (Z := #[.int .i64 ct, .slice a k cap]) rfl (.tmp 2) (.tmp 62) 46 rfl (by kernel_rfl) rfl (by rfl) hZ rfl (pf_one _ _ _ _) ?_))
      have hZ2 : (World.setRow _ w.heap.size #[.int .i64 ct, .slice a k cap]).heap[w.heap.size]? = some (.cells #[.int .i64 ct, .slice a k cap] 46 (0, 0)) := setRow_heap _ _ _ _ _ _ hZ
      have hrd := run_loadVar_mid (P := Tryd.prog) _ w.heap.size 0 46 (#[.int .i64 ct, .slice a k cap] : Array Value).toList _ (rangeAt_row5 hZ2) Tryd.underlying46 rfl (by kernel_rfl)
      refine bodyPost_ret (v := .agg #[.int .i64 ct, .slice a k cap]) ?_ rfl ?_
      · simp [results, Tryd.results52, asAddr]
        exact hrd
      refine ⟨ct, a, k, cap, xs, ak, rfl, (hheld.same (SameT.setRow (Nat.lt_trans hzl hgl)) (SameT.setRow (Nat.lt_trans hzl hgl))).mono (Nat.le_trans hwz (Nat.le_of_lt hgl)), hxl, hkc, hcm, ?_, HP.out, hK.setRow (Nat.le_refl _) _, ?_, fun h => ?_⟩
      · rw [HE.out.1, hfe]; exact hR.setRow8 hzb _
      · rw [HE.out.1, HFA.out]
      · have h5 : e5 = 0 := by rw [HE.out.1] at h; exact h
        have q1 := HFV.out (by rw [← hfe]; exact h5)
        rw [HE.out.2 h5, q1]
end Go.Proofs.YtfikbaoiialfeaaDoor
