/- Events as a codec; EventBack, walked. -/
import Derived.Test.YtekhmdjpkngglaaCodec
import Derived.Test.YtekhmdjpkngglaaEvD
import Derived.Test.YtekhmdjpkngglaaEvJ
import Derived.Test.YtekhmdjpkngglaaEvE
import Derived.Test.YtekhmdjpkngglaaEvOwn
import Derived.Test.YtekhmdjpkngglaaEvO
import Derived.Deep.MidRow
import Derived.Deep.Cut
import Derived.WalkKit
import Derived.ProofKit
import Derived.Handy
import Derived.Below
import Derived.BigQuiet
import Derived.Lib.Hide
import Derived.IntWalk
import Derived.Outline
import Derived.WalkLawsBesides
import Derived.WalkSpells
namespace Go.Proofs.Ytekhmdjpkngglaa
open Go.RowKit
attribute [local go_sem] strV
set_option linter.unusedVariables false
def nP (lo hi : Int) (s : ByteArray) (a e : Int) : Int × Int × Int := numG s a e lo hi
def tP (most : Int) (s : ByteArray) (a e : Int) : ByteArray × Int × Int := textG s a e most
theorem nP_codec {lo hi : Int} (h0 : 0 ≤ lo) (h1 : hi ≤ 72057594037927935) : Codec (nP lo hi) putL (fun n => lo ≤ n ∧ n ≤ hi) := num_codec lo hi h0 h1
theorem tP_codec {most : Int} (h1 : most ≤ 1000000) : Codec (tP most) textB (fun t => (t.size : Int) ≤ most) := text_codec most h1
def mapP {α β : Type} (f : α → β) (P : ByteArray → Int → Int → α × Int × Int) (s : ByteArray) (a e : Int) : β × Int × Int := (f (P s a e).1, (P s a e).2.1, (P s a e).2.2)
def endP : ByteArray → Int → Int → (ByteArray × Int) × Int × Int := seqP (tP 12) (fun _ => nP 0 999)
def endOk (p : ByteArray × Int) : Prop := (p.1.size : Int) ≤ 12 ∧ 0 ≤ p.2 ∧ p.2 ≤ 999
theorem end_codec : Codec endP (fun p => textB p.1 ++ putL p.2) endOk :=
  (tP_codec (by decide)).seq (fun _ _ => nP_codec (by decide) (by decide)) (fun _ _ _ _ he => (nP_codec (by decide) (by decide)).stay he)
abbrev PkT := (ByteArray × Int) × (ByteArray × Int) × Int × ByteArray × Int × Int
def pkP : ByteArray → Int → Int → PkT × Int × Int :=
  seqP endP fun _ => seqP endP fun _ => seqP (nP 1 1099511627776) fun _ => seqP (tP 200) fun _ => seqP (nP 0 1099511627776) fun _ => nP 0 1099511627776
def pkB (p : PkT) : List UInt8 := (textB p.1.1 ++ putL p.1.2) ++ ((textB p.2.1.1 ++ putL p.2.1.2) ++ (putL p.2.2.1 ++ (textB p.2.2.2.1 ++ (putL p.2.2.2.2.1 ++ putL p.2.2.2.2.2))))
def pkOk (p : PkT) : Prop := endOk p.1 ∧ endOk p.2.1 ∧ (1 ≤ p.2.2.1 ∧ p.2.2.1 ≤ 1099511627776) ∧ (p.2.2.2.1.size : Int) ≤ 200 ∧ (0 ≤ p.2.2.2.2.1 ∧ p.2.2.2.2.1 ≤ 1099511627776) ∧ 0 ≤ p.2.2.2.2.2 ∧ p.2.2.2.2.2 ≤ 1099511627776
theorem pk_codec : Codec pkP pkB pkOk := by
  have c6 := nP_codec (lo := 0) (hi := 1099511627776) (by decide) (by decide)
  have c5 := c6.seq (fun _ _ => c6) (fun _ _ _ _ he => c6.stay he)
  have c4 := (tP_codec (most := 200) (by decide)).seq (fun _ _ => c5) (fun _ _ _ _ he => c5.stay he)
  have c3 := (nP_codec (lo := 1) (hi := 1099511627776) (by decide) (by decide)).seq (fun _ _ => c4) (fun _ _ _ _ he => c4.stay he)
  have c2 := end_codec.seq (fun _ _ => c3) (fun _ _ _ _ he => c3.stay he)
  exact end_codec.seq (fun _ _ => c2) (fun _ _ _ _ he => c2.stay he)
theorem pkB_eq (p : PkT) : pkB p = pkBy p.1.1 p.1.2 p.2.1.1 p.2.1.2 p.2.2.1 p.2.2.2.1 p.2.2.2.2.1 p.2.2.2.2.2 := by
  unfold pkB pkBy endBy textB
  simp only [List.append_assoc]
theorem pkP_eq (s : ByteArray) (a e : Int) : pkP s a e = ((((pkG s a e).sp, (pkG s a e).sc), ((pkG s a e).dp, (pkG s a e).dc), (pkG s a e).sq, (pkG s a e).da, (pkG s a e).th, (pkG s a e).ta), (pkG s a e).a, (pkG s a e).e) := rfl
theorem endP_eq (s : ByteArray) (a e : Int) : endP s a e = (((endG s a e).1, (endG s a e).2.1), (endG s a e).2.2.1, (endG s a e).2.2.2) := rfl
def mkK (kd : Int) (p : PkT) : Ev := ⟨kd, p.1.1, p.1.2, p.2.1.1, p.2.1.2, p.2.2.1, p.2.2.2.1, p.2.2.2.2.1, p.2.2.2.2.2, ⟨#[]⟩, ⟨#[]⟩, 0, 0⟩
def mk3 (p : PkT × ByteArray) : Ev := ⟨3, p.1.1.1, p.1.1.2, p.1.2.1.1, p.1.2.1.2, p.1.2.2.1, p.1.2.2.2.1, p.1.2.2.2.2.1, p.1.2.2.2.2.2, p.2, ⟨#[]⟩, 0, 0⟩
def mk6 (p : ByteArray × Int) : Ev := ⟨6, ⟨#[]⟩, 0, ⟨#[]⟩, 0, 0, ⟨#[]⟩, 0, 0, ⟨#[]⟩, p.1, p.2, 0⟩
def mk7 (h : Int) : Ev := ⟨7, ⟨#[]⟩, 0, ⟨#[]⟩, 0, 0, ⟨#[]⟩, 0, 0, ⟨#[]⟩, ⟨#[]⟩, 0, h⟩
def mk0 (kd : Int) : Ev := ⟨kd, ⟨#[]⟩, 0, ⟨#[]⟩, 0, 0, ⟨#[]⟩, 0, 0, ⟨#[]⟩, ⟨#[]⟩, 0, 0⟩
def Ev.pk (e : Ev) : PkT := ((e.sp, e.sc), (e.dp, e.dc), e.sq, e.da, e.th, e.ta)
/-- How the fields of an event of a kind are read. -/
def bodyP (kd : Int) : ByteArray → Int → Int → Ev × Int × Int :=
  if kd = 3 then mapP mk3 (seqP pkP fun _ => tP 32)
  else if kd = 6 then mapP mk6 endP
  else if kd = 7 then mapP mk7 (nP 1 1099511627776)
  else if hasP kd = true then mapP (mkK kd) pkP
  else fun _ a e => (mk0 kd, a, e)
def bodyBy (kd : Int) (e : Ev) : List UInt8 :=
  if kd = 3 then pkB e.pk ++ textB e.ack
  else if kd = 6 then textB e.ep ++ putL e.ec
  else if kd = 7 then putL e.ht
  else if hasP kd = true then pkB e.pk
  else []
def bodyOk (kd : Int) (e : Ev) : Prop :=
  if kd = 3 then (pkOk e.pk ∧ (e.ack.size : Int) ≤ 32) ∧ mk3 (e.pk, e.ack) = e
  else if kd = 6 then endOk (e.ep, e.ec) ∧ mk6 (e.ep, e.ec) = e
  else if kd = 7 then (1 ≤ e.ht ∧ e.ht ≤ 1099511627776) ∧ mk7 e.ht = e
  else if hasP kd = true then pkOk e.pk ∧ mkK kd e.pk = e
  else e = mk0 kd
theorem body_codec (kd : Int) : Codec (bodyP kd) (bodyBy kd) (bodyOk kd) := by
  have c32 := tP_codec (most := 32) (by decide)
  have cpa := pk_codec.seq (fun _ _ => c32) (fun _ _ _ _ he => c32.stay he)
  unfold bodyP bodyBy bodyOk
  by_cases k3 : kd = 3
  · simp only [if_pos k3]
    exact cpa.map mk3 (fun e => (e.pk, e.ack)) (fun _ _ => rfl)
  simp only [if_neg k3]
  by_cases k6 : kd = 6
  · simp only [if_pos k6]
    exact end_codec.map mk6 (fun e => (e.ep, e.ec)) (fun _ _ => rfl)
  simp only [if_neg k6]
  by_cases k7 : kd = 7
  · simp only [if_pos k7]
    exact (nP_codec (lo := 1) (hi := 1099511627776) (by decide) (by decide)).map mk7 (fun e => e.ht) (fun _ _ => rfl)
  simp only [if_neg k7]
  by_cases hh : hasP kd = true
  · simp only [if_pos hh]
    exact pk_codec.map (mkK kd) (fun e => e.pk) (fun _ _ => rfl)
  simp only [if_neg hh]
  exact pure_codec (mk0 kd)
theorem bodyOk_kd {kd : Int} {e : Ev} (h : bodyOk kd e) : e.kd = kd := by
  unfold bodyOk at h
  split at h
  · rename_i k; rw [← h.2]; exact k.symm
  split at h
  · rename_i k; rw [← h.2]; exact k.symm
  split at h
  · rename_i k; rw [← h.2]; exact k.symm
  split at h
  · rw [← h.2]; rfl
  · rw [h]; rfl
def evP : ByteArray → Int → Int → Ev × Int × Int := mapP (fun p : Int × Ev => p.2) (seqP (nP 1 7) bodyP)
def evOk (e : Ev) : Prop := ((1 ≤ e.kd ∧ e.kd ≤ 7) ∧ bodyOk e.kd e) ∧ e = e
theorem ev_codec : Codec evP (fun e => putL e.kd ++ bodyBy e.kd e) evOk := by
  have c := (nP_codec (lo := 1) (hi := 7) (by decide) (by decide)).seq (fun x _ => body_codec x) (fun x _ _ _ he => (body_codec x).stay he)
  exact c.map (fun p => p.2) (fun e => (e.kd, e)) (fun x hx => by rw [bodyOk_kd hx.2])
theorem evP_eq (s : ByteArray) (a e : Int) : evP s a e = evG s a e := by
  obtain ⟨⟨kd, a1, e1⟩, h⟩ : ∃ t, numG s a e 1 7 = t := ⟨_, rfl⟩
  unfold evP mapP seqP evG nP
  simp only [h]
  unfold bodyP
  by_cases k3 : kd = 3
  · subst k3; simp only [if_pos trivial]; rfl
  by_cases k6 : kd = 6
  · subst k6; simp only [if_neg k3, if_pos trivial]; rfl
  by_cases k7 : kd = 7
  · subst k7; simp only [if_neg k3, if_neg k6, if_pos trivial]; rfl
  simp only [if_neg k3, if_neg k6, if_neg k7]
  by_cases hh : hasP kd = true
  · simp only [if_pos hh]; rfl
  · simp only [if_neg hh]; rfl
theorem decEv_eq (v : ByteArray) : decEv v = decP evP mayEv Ev.zero v := by
  unfold decEv decP
  rw [evP_eq]
theorem encE_eq (e : Ev) : encE e = putL e.kd ++ bodyBy e.kd e := by
  unfold encE bodyBy
  congr 1
  by_cases k3 : e.kd = 3
  · rw [if_pos k3, k3]; unfold Ev.pk; rw [pkB_eq]; simp [hasP, textB]
  by_cases k6 : e.kd = 6
  · rw [if_neg k3, if_pos k6, k6]; unfold endBy; simp [hasP, textB]
  by_cases k7 : e.kd = 7
  · rw [if_neg k3, if_neg k6, if_pos k7, k7]; simp [hasP]
  rw [if_neg k3, if_neg k6, if_neg k7, beq_eq_false_iff_ne.2 k3, beq_eq_false_iff_ne.2 k6, beq_eq_false_iff_ne.2 k7]
  cases hh : hasP e.kd
  · simp
  · rw [if_pos rfl]; unfold Ev.pk; rw [pkB_eq]; simp
theorem ok_of_may {e : Ev} (h : mayEv e = true) : evOk e := by
  obtain ⟨hp, hb⟩ := mayEv_parts h
  have hk := kd_of hb
  refine ⟨⟨hk, ?_⟩, rfl⟩
  obtain ⟨kd, sp, sc, dp, dc, sq, da, th, ta, ack, ep, ec, ht⟩ := e
  simp only at hk
  have hpk : mayK sp sc dp dc sq da th ta = true → pkOk ((sp, sc), (dp, dc), sq, da, th, ta) := fun hm => by
    have b := mayK_bounds hm
    exact ⟨⟨by simp only; omega, by simp only; omega, by simp only; omega⟩, ⟨by simp only; omega, by simp only; omega, by simp only; omega⟩, ⟨by simp only; omega, by simp only; omega⟩, by simp only; omega, ⟨by simp only; omega, by simp only; omega⟩, by simp only; omega, by simp only; omega⟩
  unfold bodyOk
  unfold bodyE at hb
  simp only at hb ⊢
  by_cases k3 : kd = 3
  · subst k3
    rw [if_neg (by decide), if_neg (by decide), if_pos rfl] at hb
    simp only [Bool.and_eq_true, decide_eq_true_eq] at hb
    rw [if_pos rfl]
    simp [plainE, hasP] at hp
    obtain ⟨rfl, rfl, rfl⟩ := hp
    exact ⟨⟨hpk hb.1.1, hb.2⟩, rfl⟩
  by_cases k6 : kd = 6
  · subst k6
    rw [if_pos rfl] at hb
    rw [if_neg k3, if_pos rfl]
    simp [plainE, hasP] at hp
    have b := mayE_bounds hb
    obtain ⟨rfl, rfl, rfl, rfl, rfl, rfl, rfl, rfl, rfl, rfl⟩ := hp
    exact ⟨⟨by simp only; omega, by simp only; omega, by simp only; omega⟩, rfl⟩
  by_cases k7 : kd = 7
  · subst k7
    rw [if_neg k6, if_pos rfl] at hb
    simp only [Bool.and_eq_true, decide_eq_true_eq] at hb
    rw [if_neg k3, if_neg k6, if_pos rfl]
    simp [plainE, hasP] at hp
    obtain ⟨rfl, rfl, rfl, rfl, rfl, rfl, rfl, rfl, rfl, rfl, rfl⟩ := hp
    exact ⟨hb, rfl⟩
  rw [if_neg k6, if_neg k7, if_neg k3, Bool.and_eq_true] at hb
  rw [if_neg k3, if_neg k6, if_neg k7, if_pos hb.1]
  have e3 : (kd == 3) = false := beq_eq_false_iff_ne.2 k3
  have e6 : (kd == 6) = false := beq_eq_false_iff_ne.2 k6
  have e7 : (kd == 7) = false := beq_eq_false_iff_ne.2 k7
  simp [plainE, hb.1, e3, e6, e7] at hp
  obtain ⟨rfl, rfl, rfl, rfl⟩ := hp
  exact ⟨hpk hb.2, rfl⟩
theorem decEv_enc {x : Ev} (hm : mayEv x = true) {v : ByteArray} (hv : v.data.toList = encE x) : decEv v = (x, 0) := by
  rw [decEv_eq]; exact ev_codec.dec_enc hm (ok_of_may hm) (by rw [hv, encE_eq])
theorem decEv_more {x : Ev} (hm : mayEv x = true) {v : ByteArray} {b : UInt8} {B : List UInt8} (hv : v.data.toList = encE x ++ (b :: B)) : decEv v = (Ev.zero, 3) := by
  rw [decEv_eq]; exact ev_codec.dec_more (ok_of_may hm) (by rw [hv, encE_eq])
theorem decEv_cut {x : Ev} (hm : mayEv x = true) {v : ByteArray} {k : Nat} (hv : v.data.toList = (encE x).take k) (hk : k < (encE x).length) : decEv v = (Ev.zero, 2) := by
  rw [encE_eq] at hv hk
  rw [decEv_eq]; exact ev_codec.dec_cut (ok_of_may hm) hv hk
theorem decEv_back {v : ByteArray} (h : (decEv v).2 = 0) : mayEv (decEv v).1 = true ∧ encE (decEv v).1 = v.data.toList := by
  rw [decEv_eq] at h ⊢
  obtain ⟨h1, _, h2⟩ := ev_codec.dec_back h
  exact ⟨h1, by rw [encE_eq]; exact h2⟩
theorem decEv_err {v : ByteArray} (h : (decEv v).2 ≠ 0) : (decEv v).1 = Ev.zero := by
  rw [decEv_eq] at h ⊢
  exact decP_err h
theorem encE_len {e : Ev} (h : mayEv e = true) : (encE e).length ≤ 1000 := by
  have ho := (ok_of_may h)
  obtain ⟨hp, hb⟩ := mayEv_parts h
  have hk := kd_of hb
  obtain ⟨kd, sp, sc, dp, dc, sq, da, th, ta, ack, ep, ec, ht⟩ := e
  have hpk : mayK sp sc dp dc sq da th ta = true → (pkBy sp sc dp dc sq da th ta).length ≤ 288 := fun hm => by
    have b := mayK_bounds hm
    exact pkBy_len sp sc dp dc sq da th ta (by omega) (by omega) (by omega)
  rw [encE_eq]
  unfold bodyBy
  unfold bodyE at hb
  simp only at hb hk ⊢
  have l0 := putL_len' kd
  rw [List.length_append]
  by_cases k3 : kd = 3
  · subst k3
    rw [if_neg (by decide), if_neg (by decide), if_pos rfl] at hb
    simp only [Bool.and_eq_true, decide_eq_true_eq] at hb
    rw [if_pos rfl, pkB_eq]
    have a := hpk hb.1.1
    have l1 := putL_len' (ack.size : Int)
    simp only [Ev.pk, textB, List.length_append, str_len]
    omega
  by_cases k6 : kd = 6
  · subst k6
    rw [if_pos rfl] at hb
    rw [if_neg k3, if_pos rfl]
    have b := mayE_bounds hb
    have l1 := putL_len' (ep.size : Int)
    have l2 := putL_len' ec
    simp only [textB, List.length_append, str_len]
    omega
  by_cases k7 : kd = 7
  · rw [if_neg k3, if_neg k6, if_pos k7]
    have l2 := putL_len' ht
    omega
  rw [if_neg k6, if_neg k7, if_neg k3, Bool.and_eq_true] at hb
  rw [if_neg k3, if_neg k6, if_neg k7, if_pos hb.1, pkB_eq]
  have a := hpk hb.2
  simp only [Ev.pk]
  omega
set_option maxRecDepth 100000 in
set_option maxHeartbeats 12800000 in
theorem walkEventBack (kd : Int) (sp : ByteArray) (sc : Int) (dp : ByteArray) (dc : Int) (sq : Int) (da : ByteArray) (th : Int) (ta : Int) (ack : ByteArray) (ep : ByteArray) (ec : Int) (ht : Int) (v : ByteArray) (cut : Int) (w : World) (s1 : sp.size ≤ maxLen) (s2 : dp.size ≤ maxLen) (s3 : ep.size ≤ maxLen) (hv : v.size ≤ maxLen) :
    Calls Try.prog 3 #[.agg #[.int .i64 kd, .string sp, .int .i64 sc, .string dp, .int .i64 dc, .int .i64 sq, .string da, .int .i64 th, .int .i64 ta, .string ack, .string ep, .int .i64 ec, .int .i64 ht], .string v, .int .i64 cut] w fun e w' => e = .returned (.bool true) ∧ Below w.heap.size w w' := by
  obtain ⟨lb, hlb⟩ : ∃ b, lightL [(⟨kd, sp, sc, dp, dc, sq, da, th, ta, ack, ep, ec, ht⟩ : Ev)] = b := ⟨_, rfl⟩
  have CLt := fun (W : World) (c : Nat) (h : W.heap[c]? = some (.cells ([(⟨kd, sp, sc, dp, dc, sq, da, th, ta, ack, ep, ec, ht⟩ : Ev)].flatMap Ev.cells).toArray 27 (0, 0))) => lightL_any (some ⟨c, 0, none⟩) 1 1 [⟨kd, sp, sc, dp, dc, sq, da, th, ta, ack, ep, ec, ht⟩] W (row_one_ev h) rfl
  simp only [hlb] at CLt
  have CM := fun W => mayEv_any kd sp sc dp dc sq da th ta ack ep ec ht W s1 s2 s3
  have CE := fun W => encodeEv_any kd sp sc dp dc sq da th ta ack ep ec ht W s1 s2 s3
  have hg0 : (w.alloc (.cells #[.int .i64 kd, .string sp, .int .i64 sc, .string dp, .int .i64 dc, .int .i64 sq, .string da, .int .i64 th, .int .i64 ta, .string ack, .string ep, .int .i64 ec, .int .i64 ht] 27)).heap[w.heap.size]? = some (.cells #[.int .i64 kd, .string sp, .int .i64 sc, .string dp, .int .i64 dc, .int .i64 sq, .string da, .int .i64 th, .int .i64 ta, .string ack, .string ep, .int .i64 ec, .int .i64 ht] 27 (0, 0)) := push_new _ _ _
  have hbA : Below w.heap.size w (w.alloc (.cells #[.int .i64 kd, .string sp, .int .i64 sc, .string dp, .int .i64 dc, .int .i64 sq, .string da, .int .i64 th, .int .i64 ta, .string ack, .string ep, .int .i64 ec, .int .i64 ht] 27)) := Below.alloc (Below.refl _ _) (Nat.le_refl _) _
  go_enter Try.func3, Try.ntmps3
  go_upto_region 3 with (go_at_call 8; refine (first9_any _).mono ?_; rintro e wa ⟨rfl, hba⟩; have hg := cells_of hg0 hba (by simp); have q0 := cell_heap hg 0; have q1 := cell_heap hg 1; have q2 := cell_heap hg 2; have q3 := cell_heap hg 3; have q4 := cell_heap hg 4; have q5 := cell_heap hg 5; have q6 := cell_heap hg 6; have q7 := cell_heap hg 7; have q8 := cell_heap hg 8; have q9 := cell_heap hg 9; have q10 := cell_heap hg 10; have q11 := cell_heap hg 11; have q12 := cell_heap hg 12)
  have hbel := hbA.trans (hba.mono hbA.size)
  have hgl := (Array.getElem?_eq_some_iff.1 hg).1
  clear hg0 hbA hba
  have C6 := CLt (wa.alloc (.cells #[.int .i64 kd, .string sp, .int .i64 sc, .string dp, .int .i64 dc, .int .i64 sq, .string da, .int .i64 th, .int .i64 ta, .string ack, .string ep, .int .i64 ec, .int .i64 ht] 27)) wa.heap.size (push_new _ _ _)
  have hb6a : Below wa.heap.size wa (wa.alloc (.cells #[.int .i64 kd, .string sp, .int .i64 sc, .string dp, .int .i64 dc, .int .i64 sq, .string da, .int .i64 th, .int .i64 ta, .string ack, .string ep, .int .i64 ec, .int .i64 ht] 27)) := Below.alloc (Below.refl _ _) (Nat.le_refl _) _
  clear CLt hlb
  cases lb
  · go_wp2_with (first | (go_at_call 9; refine C6.mono ?_; rintro e w6 ⟨rfl, hb6⟩; have hb := hb6a.trans (hb6.mono hb6a.size); have hg := cells_of hg hb hgl; have hgl := Nat.lt_of_lt_of_le hgl hb.size; have hbel := hbel.trans (hb.mono hbel.size); have q0 := cell_heap hg 0; have q1 := cell_heap hg 1; have q2 := cell_heap hg 2; have q3 := cell_heap hg 3; have q4 := cell_heap hg 4; have q5 := cell_heap hg 5; have q6 := cell_heap hg 6; have q7 := cell_heap hg 7; have q8 := cell_heap hg 8; have q9 := cell_heap hg 9; have q10 := cell_heap hg 10; have q11 := cell_heap hg 11; have q12 := cell_heap hg 12) | (go_at_call 8; refine (first9_any _).mono ?_; rintro e wz ⟨rfl, hbz⟩; have hbel := hbel.trans (hbz.mono hbel.size)))
    go_ret
    exact ⟨rfl, hbel⟩
  by_cases hv2 : 1200 < v.size
  · have dv : decide ((1200 : Int) < (v.size : Int)) = true := decide_eq_true (by omega)
    go_wp2_with (first | (go_at_call 9; refine C6.mono ?_; rintro e w6 ⟨rfl, hb6⟩; have hb := hb6a.trans (hb6.mono hb6a.size); have hg := cells_of hg hb hgl; have hgl := Nat.lt_of_lt_of_le hgl hb.size; have hbel := hbel.trans (hb.mono hbel.size); have q0 := cell_heap hg 0; have q1 := cell_heap hg 1; have q2 := cell_heap hg 2; have q3 := cell_heap hg 3; have q4 := cell_heap hg 4; have q5 := cell_heap hg 5; have q6 := cell_heap hg 6; have q7 := cell_heap hg 7; have q8 := cell_heap hg 8; have q9 := cell_heap hg 9; have q10 := cell_heap hg 10; have q11 := cell_heap hg 11; have q12 := cell_heap hg 12) | (go_at_call 8; refine (first9_any _).mono ?_; rintro e wz ⟨rfl, hbz⟩; have hbel := hbel.trans (hbz.mono hbel.size)))
    go_ret
    exact ⟨rfl, hbel⟩
  have dv : decide ((1200 : Int) < (v.size : Int)) = false := decide_eq_false (by omega)
  go_upto_region 5 with (go_at_call 9; refine C6.mono ?_; rintro e w6 ⟨rfl, hb6⟩; have hb := hb6a.trans (hb6.mono hb6a.size); have hg := cells_of hg hb hgl; have hgl := Nat.lt_of_lt_of_le hgl hb.size; have hbel := hbel.trans (hb.mono hbel.size); have q0 := cell_heap hg 0; have q1 := cell_heap hg 1; have q2 := cell_heap hg 2; have q3 := cell_heap hg 3; have q4 := cell_heap hg 4; have q5 := cell_heap hg 5; have q6 := cell_heap hg 6; have q7 := cell_heap hg 7; have q8 := cell_heap hg 8; have q9 := cell_heap hg 9; have q10 := cell_heap hg 10; have q11 := cell_heap hg 11; have q12 := cell_heap hg 12)
  clear C6 hb6a dv
  have CD3 := fun W => decodeEv_any v W (by omega)
  obtain ⟨⟨⟨kd2, sp2, sc2, dp2, dc2, sq2, da2, th2, ta2, ack2, ep2, ec2, ht2⟩, f⟩, hx⟩ : ∃ t, decEv v = t := ⟨_, rfl⟩
  simp only [hx] at CD3
  cases hM : mayEv ⟨kd, sp, sc, dp, dc, sq, da, th, ta, ack, ep, ec, ht⟩
  · simp only [hM] at CM
    have henc : encEv ⟨kd, sp, sc, dp, dc, sq, da, th, ta, ack, ep, ec, ht⟩ = .tuple #[.string ⟨#[]⟩, .int .i64 1] := by unfold encEv; rw [hM]; rfl
    simp only [henc] at CE
    clear henc hM
    by_cases hf : f = 0
    · subst hf
      have hb2 := decEv_back (v := v) (by rw [hx])
      rw [hx] at hb2
      simp only at hb2
      obtain ⟨hMx, hEx⟩ := hb2
      have hsz := evG_size v 0 0
      have hxs : sp2.size ≤ maxLen ∧ dp2.size ≤ maxLen ∧ ep2.size ≤ maxLen := by
        have hxx : (decEv v).1 = ⟨kd2, sp2, sc2, dp2, dc2, sq2, da2, th2, ta2, ack2, ep2, ec2, ht2⟩ := by rw [hx]
        unfold decEv at hxx
        simp only at hxx
        have hbig : v.size ≤ maxLen := hv
        have key : ∀ y : Ev, y = ⟨kd2, sp2, sc2, dp2, dc2, sq2, da2, th2, ta2, ack2, ep2, ec2, ht2⟩ → (y.sp.size ≤ v.size ∧ y.dp.size ≤ v.size ∧ y.ep.size ≤ v.size) → sp2.size ≤ maxLen ∧ dp2.size ≤ maxLen ∧ ep2.size ≤ maxLen := fun y hy h => by
          subst hy; exact ⟨Nat.le_trans h.1 hbig, Nat.le_trans h.2.1 hbig, Nat.le_trans h.2.2 hbig⟩
        split at hxx
        · cases hmm : mayEv (evG v 0 0).1
          · rw [hmm] at hxx; exact key _ hxx ⟨Nat.zero_le _, Nat.zero_le _, Nat.zero_le _⟩
          · rw [hmm] at hxx; exact key _ hxx hsz
        · exact key _ hxx ⟨Nat.zero_le _, Nat.zero_le _, Nat.zero_le _⟩
      have CEx := fun W => encodeEv_any kd2 sp2 sc2 dp2 dc2 sq2 da2 th2 ta2 ack2 ep2 ec2 ht2 W hxs.1 hxs.2.1 hxs.2.2
      have CMx := fun W => mayEv_any kd2 sp2 sc2 dp2 dc2 sq2 da2 th2 ta2 ack2 ep2 ec2 ht2 W hxs.1 hxs.2.1 hxs.2.2
      have hencx : encEv ⟨kd2, sp2, sc2, dp2, dc2, sq2, da2, th2, ta2, ack2, ep2, ec2, ht2⟩ = .tuple #[.string v, .int .i64 0] := by
        unfold encEv; rw [hMx, hEx]; rfl
      simp only [hencx] at CEx
      simp only [hMx] at CMx
      simp only [Ev.row] at CD3
      clear hencx hMx hEx hx hsz hxs
      go_upto_region 6 with (go_at_call 10; refine (CE _).mono ?_; rintro e w5 ⟨rfl, hb⟩; have hg := cells_of hg hb hgl; have hgl := Nat.lt_of_lt_of_le hgl hb.size; have hbel := hbel.trans (hb.mono hbel.size); have q0 := cell_heap hg 0; have q1 := cell_heap hg 1; have q2 := cell_heap hg 2; have q3 := cell_heap hg 3; have q4 := cell_heap hg 4; have q5 := cell_heap hg 5; have q6 := cell_heap hg 6; have q7 := cell_heap hg 7; have q8 := cell_heap hg 8; have q9 := cell_heap hg 9; have q10 := cell_heap hg 10; have q11 := cell_heap hg 11; have q12 := cell_heap hg 12)
      go_upto_region 17 with (go_at_call 11; refine (CM _).mono ?_; rintro e w6b ⟨rfl, hb⟩; have hg := cells_of hg hb hgl; have hgl := Nat.lt_of_lt_of_le hgl hb.size; have hbel := hbel.trans (hb.mono hbel.size); have q0 := cell_heap hg 0; have q1 := cell_heap hg 1; have q2 := cell_heap hg 2; have q3 := cell_heap hg 3; have q4 := cell_heap hg 4; have q5 := cell_heap hg 5; have q6 := cell_heap hg 6; have q7 := cell_heap hg 7; have q8 := cell_heap hg 8; have q9 := cell_heap hg 9; have q10 := cell_heap hg 10; have q11 := cell_heap hg 11; have q12 := cell_heap hg 12)
      clear hg hgl q0 q1 q2 q3 q4 q5 q6 q7 q8 q9 q10 q11 q12
      go_upto_region 18 with (go_at_call 12; refine (CD3 _).mono ?_; rintro e w17 ⟨rfl, hb⟩; have hbel := hbel.trans (hb.mono hbel.size))
      refine wp_nameE _ (fun W18 hW => ?_)
      have hb := (show Below w17.heap.size w17 W18 by rw [hW]; exact Below.alloc (Below.refl _ _) (Nat.le_refl _) _)
      have hx3 : W18.heap[w17.heap.size]? = some (.cells #[.int .i64 kd2, .string sp2, .int .i64 sc2, .string dp2, .int .i64 dc2, .int .i64 sq2, .string da2, .int .i64 th2, .int .i64 ta2, .string ack2, .string ep2, .int .i64 ec2, .int .i64 ht2] 27 (0, 0)) := by
        rw [hW]; show (w17.heap.push _)[w17.heap.size]? = _; rw [Array.getElem?_push_size]
      have hbel := hbel.trans (hb.mono hbel.size)
      clear hW
      have r0 := cell_heap hx3 0
      have r1 := cell_heap hx3 1
      have r2 := cell_heap hx3 2
      have r3 := cell_heap hx3 3
      have r4 := cell_heap hx3 4
      have r5 := cell_heap hx3 5
      have r6 := cell_heap hx3 6
      have r7 := cell_heap hx3 7
      have r8 := cell_heap hx3 8
      have r9 := cell_heap hx3 9
      have r10 := cell_heap hx3 10
      have r11 := cell_heap hx3 11
      have r12 := cell_heap hx3 12
      have hxl := (Array.getElem?_eq_some_iff.1 hx3).1
      go_wp2_with (first | (go_at_call 10; refine (CEx _).mono ?_; rintro e w20 ⟨rfl, hb⟩; have hx3 := cells_of hx3 hb hxl; have hxl := Nat.lt_of_lt_of_le hxl hb.size; have r0 := cell_heap hx3 0; have r1 := cell_heap hx3 1; have r2 := cell_heap hx3 2; have r3 := cell_heap hx3 3; have r4 := cell_heap hx3 4; have r5 := cell_heap hx3 5; have r6 := cell_heap hx3 6; have r7 := cell_heap hx3 7; have r8 := cell_heap hx3 8; have r9 := cell_heap hx3 9; have r10 := cell_heap hx3 10; have r11 := cell_heap hx3 11; have r12 := cell_heap hx3 12; have hbel := hbel.trans (hb.mono hbel.size)) | (go_at_call 11; refine (CMx _).mono ?_; rintro e w21 ⟨rfl, hb⟩; have hx3 := cells_of hx3 hb hxl; have hxl := Nat.lt_of_lt_of_le hxl hb.size; have r0 := cell_heap hx3 0; have r1 := cell_heap hx3 1; have r2 := cell_heap hx3 2; have r3 := cell_heap hx3 3; have r4 := cell_heap hx3 4; have r5 := cell_heap hx3 5; have r6 := cell_heap hx3 6; have r7 := cell_heap hx3 7; have r8 := cell_heap hx3 8; have r9 := cell_heap hx3 9; have r10 := cell_heap hx3 10; have r11 := cell_heap hx3 11; have r12 := cell_heap hx3 12; have hbel := hbel.trans (hb.mono hbel.size)))
      go_ret
      exact ⟨rfl, hbel⟩
    · have hz := decEv_err (v := v) (by rw [hx]; exact hf)
      rw [hx] at hz
      simp only [Ev.zero, Ev.mk.injEq] at hz
      obtain ⟨rfl, rfl, rfl, rfl, rfl, rfl, rfl, rfl, rfl, rfl, rfl, rfl, rfl⟩ := hz
      simp only [Ev.row] at CD3
      have hf0 : (f == 0) = false := beq_eq_false_iff_ne.2 hf
      clear hx
      go_upto_region 6 with (go_at_call 10; refine (CE _).mono ?_; rintro e w5 ⟨rfl, hb⟩; have hg := cells_of hg hb hgl; have hgl := Nat.lt_of_lt_of_le hgl hb.size; have hbel := hbel.trans (hb.mono hbel.size); have q0 := cell_heap hg 0; have q1 := cell_heap hg 1; have q2 := cell_heap hg 2; have q3 := cell_heap hg 3; have q4 := cell_heap hg 4; have q5 := cell_heap hg 5; have q6 := cell_heap hg 6; have q7 := cell_heap hg 7; have q8 := cell_heap hg 8; have q9 := cell_heap hg 9; have q10 := cell_heap hg 10; have q11 := cell_heap hg 11; have q12 := cell_heap hg 12)
      go_upto_region 17 with (go_at_call 11; refine (CM _).mono ?_; rintro e w6b ⟨rfl, hb⟩; have hg := cells_of hg hb hgl; have hgl := Nat.lt_of_lt_of_le hgl hb.size; have hbel := hbel.trans (hb.mono hbel.size); have q0 := cell_heap hg 0; have q1 := cell_heap hg 1; have q2 := cell_heap hg 2; have q3 := cell_heap hg 3; have q4 := cell_heap hg 4; have q5 := cell_heap hg 5; have q6 := cell_heap hg 6; have q7 := cell_heap hg 7; have q8 := cell_heap hg 8; have q9 := cell_heap hg 9; have q10 := cell_heap hg 10; have q11 := cell_heap hg 11; have q12 := cell_heap hg 12)
      clear hg hgl q0 q1 q2 q3 q4 q5 q6 q7 q8 q9 q10 q11 q12
      go_upto_region 18 with (go_at_call 12; refine (CD3 _).mono ?_; rintro e w17 ⟨rfl, hb⟩; have hbel := hbel.trans (hb.mono hbel.size))
      refine wp_nameE _ (fun W18 hW => ?_)
      have hb := (show Below w17.heap.size w17 W18 by rw [hW]; exact Below.alloc (Below.refl _ _) (Nat.le_refl _) _)
      have hx3 : W18.heap[w17.heap.size]? = some (.cells #[.int .i64 0, .string ⟨#[]⟩, .int .i64 0, .string ⟨#[]⟩, .int .i64 0, .int .i64 0, .string ⟨#[]⟩, .int .i64 0, .int .i64 0, .string ⟨#[]⟩, .string ⟨#[]⟩, .int .i64 0, .int .i64 0] 27 (0, 0)) := by
        rw [hW]; show (w17.heap.push _)[w17.heap.size]? = _; rw [Array.getElem?_push_size]
      have hbel := hbel.trans (hb.mono hbel.size)
      clear hW
      have r0 := cell_heap hx3 0
      have r1 := cell_heap hx3 1
      have r2 := cell_heap hx3 2
      have r3 := cell_heap hx3 3
      have r4 := cell_heap hx3 4
      have r5 := cell_heap hx3 5
      have r6 := cell_heap hx3 6
      have r7 := cell_heap hx3 7
      have r8 := cell_heap hx3 8
      have r9 := cell_heap hx3 9
      have r10 := cell_heap hx3 10
      have r11 := cell_heap hx3 11
      have r12 := cell_heap hx3 12
      have hxl := (Array.getElem?_eq_some_iff.1 hx3).1
      go_wp2
      go_ret
      exact ⟨rfl, hbel⟩
  · simp only [hM] at CM
    obtain ⟨S, hS⟩ : ∃ S : ByteArray, (⟨(encE ⟨kd, sp, sc, dp, dc, sq, da, th, ta, ack, ep, ec, ht⟩).toArray⟩ : ByteArray) = S := ⟨_, rfl⟩
    have hSl : S.data.toList = encE ⟨kd, sp, sc, dp, dc, sq, da, th, ta, ack, ep, ec, ht⟩ := by rw [← hS]
    have hlen := encE_len hM
    have hSz : S.size ≤ 1000 := by rw [← str_len, hSl]; exact hlen
    have henc : encEv ⟨kd, sp, sc, dp, dc, sq, da, th, ta, ack, ep, ec, ht⟩ = .tuple #[.string S, .int .i64 0] := by unfold encEv; rw [hM, ← hS]; rfl
    simp only [henc] at CE
    have CD1 := fun W => decodeEv_any S W (by omega)
    have CD2 := fun W => decodeEv_any (S ++ ⟨#[97]⟩) W (by have h : (S ++ ⟨#[97]⟩ : ByteArray).size = S.size + 1 := (by rw [ByteArray.size_append]; rfl); omega)
    simp only [decEv_enc hM hSl] at CD1
    simp only [decEv_more hM (show (S ++ ⟨#[97]⟩ : ByteArray).data.toList = encE ⟨kd, sp, sc, dp, dc, sq, da, th, ta, ack, ep, ec, ht⟩ ++ (97 :: []) by rw [← hSl]; simp)] at CD2
    simp only [Ev.row, Ev.zero] at CD1 CD2
    have hCut : ∀ c : Nat, c < S.size → decEv (S.extract 0 c) = (Ev.zero, 2) := fun c hc => decEv_cut hM (k := c) (by rw [← hSl]; simp) (by rw [← hSl, str_len]; exact hc)
    have hEQ := fun W => run_equal_ev kd kd sp sp sc sc dp dp dc dc sq sq da da th th ta ta ack ack ep ep ec ec ht ht W
    have hEB : evB ⟨kd, sp, sc, dp, dc, sq, da, th, ta, ack, ep, ec, ht⟩ ⟨kd, sp, sc, dp, dc, sq, da, th, ta, ack, ep, ec, ht⟩ = true := (evB_iff _ _).2 rfl
    simp only [hEB] at hEQ
    have hcat : ¬ 9223372036854775807 < S.size + 1 := by omega
    have h64 : decide (1000 < (S.size : Int)) = false := decide_eq_false (by omega)
    clear hS hSl henc hlen hM hEB
    by_cases hf : f = 0
    · subst hf
      have hb2 := decEv_back (v := v) (by rw [hx])
      rw [hx] at hb2
      simp only at hb2
      obtain ⟨hMx, hEx⟩ := hb2
      have hsz := evG_size v 0 0
      have hxs : sp2.size ≤ maxLen ∧ dp2.size ≤ maxLen ∧ ep2.size ≤ maxLen := by
        have hxx : (decEv v).1 = ⟨kd2, sp2, sc2, dp2, dc2, sq2, da2, th2, ta2, ack2, ep2, ec2, ht2⟩ := by rw [hx]
        unfold decEv at hxx
        simp only at hxx
        have hbig : v.size ≤ maxLen := hv
        have key : ∀ y : Ev, y = ⟨kd2, sp2, sc2, dp2, dc2, sq2, da2, th2, ta2, ack2, ep2, ec2, ht2⟩ → (y.sp.size ≤ v.size ∧ y.dp.size ≤ v.size ∧ y.ep.size ≤ v.size) → sp2.size ≤ maxLen ∧ dp2.size ≤ maxLen ∧ ep2.size ≤ maxLen := fun y hy h => by
          subst hy; exact ⟨Nat.le_trans h.1 hbig, Nat.le_trans h.2.1 hbig, Nat.le_trans h.2.2 hbig⟩
        split at hxx
        · cases hmm : mayEv (evG v 0 0).1
          · rw [hmm] at hxx; exact key _ hxx ⟨Nat.zero_le _, Nat.zero_le _, Nat.zero_le _⟩
          · rw [hmm] at hxx; exact key _ hxx hsz
        · exact key _ hxx ⟨Nat.zero_le _, Nat.zero_le _, Nat.zero_le _⟩
      have CEx := fun W => encodeEv_any kd2 sp2 sc2 dp2 dc2 sq2 da2 th2 ta2 ack2 ep2 ec2 ht2 W hxs.1 hxs.2.1 hxs.2.2
      have CMx := fun W => mayEv_any kd2 sp2 sc2 dp2 dc2 sq2 da2 th2 ta2 ack2 ep2 ec2 ht2 W hxs.1 hxs.2.1 hxs.2.2
      have hencx : encEv ⟨kd2, sp2, sc2, dp2, dc2, sq2, da2, th2, ta2, ack2, ep2, ec2, ht2⟩ = .tuple #[.string v, .int .i64 0] := by
        unfold encEv; rw [hMx, hEx]; rfl
      simp only [hencx] at CEx
      simp only [hMx] at CMx
      simp only [Ev.row] at CD3
      clear hencx hMx hEx hx hsz hxs
      go_upto_region 6 with (go_at_call 10; refine (CE _).mono ?_; rintro e w5 ⟨rfl, hb⟩; have hg := cells_of hg hb hgl; have hgl := Nat.lt_of_lt_of_le hgl hb.size; have hbel := hbel.trans (hb.mono hbel.size); have q0 := cell_heap hg 0; have q1 := cell_heap hg 1; have q2 := cell_heap hg 2; have q3 := cell_heap hg 3; have q4 := cell_heap hg 4; have q5 := cell_heap hg 5; have q6 := cell_heap hg 6; have q7 := cell_heap hg 7; have q8 := cell_heap hg 8; have q9 := cell_heap hg 9; have q10 := cell_heap hg 10; have q11 := cell_heap hg 11; have q12 := cell_heap hg 12)
      go_upto_region 9 with (go_at_call 11; refine (CM _).mono ?_; rintro e w6b ⟨rfl, hb⟩; have hg := cells_of hg hb hgl; have hgl := Nat.lt_of_lt_of_le hgl hb.size; have hbel := hbel.trans (hb.mono hbel.size); have q0 := cell_heap hg 0; have q1 := cell_heap hg 1; have q2 := cell_heap hg 2; have q3 := cell_heap hg 3; have q4 := cell_heap hg 4; have q5 := cell_heap hg 5; have q6 := cell_heap hg 6; have q7 := cell_heap hg 7; have q8 := cell_heap hg 8; have q9 := cell_heap hg 9; have q10 := cell_heap hg 10; have q11 := cell_heap hg 11; have q12 := cell_heap hg 12)
      go_upto_region 10 with (go_at_call 12; refine (CD1 _).mono ?_; rintro e w9 ⟨rfl, hb⟩; have hg := cells_of hg hb hgl; have hgl := Nat.lt_of_lt_of_le hgl hb.size; have hbel := hbel.trans (hb.mono hbel.size); have q0 := cell_heap hg 0; have q1 := cell_heap hg 1; have q2 := cell_heap hg 2; have q3 := cell_heap hg 3; have q4 := cell_heap hg 4; have q5 := cell_heap hg 5; have q6 := cell_heap hg 6; have q7 := cell_heap hg 7; have q8 := cell_heap hg 8; have q9 := cell_heap hg 9; have q10 := cell_heap hg 10; have q11 := cell_heap hg 11; have q12 := cell_heap hg 12)
      refine wp_nameE _ (fun W10 hW => ?_)
      have hb := (show Below w9.heap.size w9 W10 by rw [hW]; exact Below.alloc (Below.refl _ _) (Nat.le_refl _) _)
      have hx1 : W10.heap[w9.heap.size]? = some (.cells #[.int .i64 kd, .string sp, .int .i64 sc, .string dp, .int .i64 dc, .int .i64 sq, .string da, .int .i64 th, .int .i64 ta, .string ack, .string ep, .int .i64 ec, .int .i64 ht] 27 (0, 0)) := by
        rw [hW]; show (w9.heap.push _)[w9.heap.size]? = _; rw [Array.getElem?_push_size]
      have hg := cells_of hg hb hgl
      have hgl := Nat.lt_of_lt_of_le hgl hb.size
      have hbel := hbel.trans (hb.mono hbel.size)
      have q0 := cell_heap hg 0
      have q1 := cell_heap hg 1
      have q2 := cell_heap hg 2
      have q3 := cell_heap hg 3
      have q4 := cell_heap hg 4
      have q5 := cell_heap hg 5
      have q6 := cell_heap hg 6
      have q7 := cell_heap hg 7
      have q8 := cell_heap hg 8
      have q9 := cell_heap hg 9
      have q10 := cell_heap hg 10
      have q11 := cell_heap hg 11
      have q12 := cell_heap hg 12
      clear hW
      go_upto_region 11 with (go_at_call 12; refine (CD2 _).mono ?_; rintro e w10 ⟨rfl, hb⟩; have hx1 := cells_of hx1 hb (Array.getElem?_eq_some_iff.1 hx1).1; have hg := cells_of hg hb hgl; have hgl := Nat.lt_of_lt_of_le hgl hb.size; have hbel := hbel.trans (hb.mono hbel.size); have q0 := cell_heap hg 0; have q1 := cell_heap hg 1; have q2 := cell_heap hg 2; have q3 := cell_heap hg 3; have q4 := cell_heap hg 4; have q5 := cell_heap hg 5; have q6 := cell_heap hg 6; have q7 := cell_heap hg 7; have q8 := cell_heap hg 8; have q9 := cell_heap hg 9; have q10 := cell_heap hg 10; have q11 := cell_heap hg 11; have q12 := cell_heap hg 12)
      refine wp_nameE _ (fun W11 hW => ?_)
      have hb := (show Below w10.heap.size w10 W11 by rw [hW]; exact Below.alloc (Below.refl _ _) (Nat.le_refl _) _)
      have hx2 : W11.heap[w10.heap.size]? = some (.cells #[.int .i64 0, .string ⟨#[]⟩, .int .i64 0, .string ⟨#[]⟩, .int .i64 0, .int .i64 0, .string ⟨#[]⟩, .int .i64 0, .int .i64 0, .string ⟨#[]⟩, .string ⟨#[]⟩, .int .i64 0, .int .i64 0] 27 (0, 0)) := by
        rw [hW]; show (w10.heap.push _)[w10.heap.size]? = _; rw [Array.getElem?_push_size]
      have hx1 := cells_of hx1 hb (Array.getElem?_eq_some_iff.1 hx1).1
      have hg := cells_of hg hb hgl
      have hgl := Nat.lt_of_lt_of_le hgl hb.size
      have hbel := hbel.trans (hb.mono hbel.size)
      have q0 := cell_heap hg 0
      have q1 := cell_heap hg 1
      have q2 := cell_heap hg 2
      have q3 := cell_heap hg 3
      have q4 := cell_heap hg 4
      have q5 := cell_heap hg 5
      have q6 := cell_heap hg 6
      have q7 := cell_heap hg 7
      have q8 := cell_heap hg 8
      have q9 := cell_heap hg 9
      have q10 := cell_heap hg 10
      have q11 := cell_heap hg 11
      have q12 := cell_heap hg 12
      clear hW
      have r0 := cell_heap hx1 0
      have r1 := cell_heap hx1 1
      have r2 := cell_heap hx1 2
      have r3 := cell_heap hx1 3
      have r4 := cell_heap hx1 4
      have r5 := cell_heap hx1 5
      have r6 := cell_heap hx1 6
      have r7 := cell_heap hx1 7
      have r8 := cell_heap hx1 8
      have r9 := cell_heap hx1 9
      have r10 := cell_heap hx1 10
      have r11 := cell_heap hx1 11
      have r12 := cell_heap hx1 12
      go_upto_region 13 with fail
      clear hx1 hx2 r0 r1 r2 r3 r4 r5 r6 r7 r8 r9 r10 r11 r12
      clear hg hgl q0 q1 q2 q3 q4 q5 q6 q7 q8 q9 q10 q11 q12
      by_cases hc0 : 0 ≤ cut
      · by_cases hc1 : cut < (S.size : Int)
        · obtain ⟨c, rfl⟩ : ∃ c : Nat, cut = c := ⟨cut.toNat, by omega⟩
          have d0 : decide ((0 : Int) ≤ (c : Int)) = true := decide_eq_true hc0
          have d1 : decide ((c : Int) < (S.size : Int)) = true := decide_eq_true hc1
          have hc2 : (c : Int) ≤ (S.size : Int) := by omega
          have hc3 : c ≤ S.size := by omega
          have CD4 := fun W => decodeEv_any (S.extract 0 c) W (by have : (S.extract 0 c).size ≤ S.size := (by simp; omega); omega)
          simp only [hCut c (by omega)] at CD4
          simp only [Ev.row, Ev.zero] at CD4
          go_upto_region 15 with (go_at_call 12; refine (CD4 _).mono ?_; rintro e w14 ⟨rfl, hb⟩; have hbel := hbel.trans (hb.mono hbel.size))
          refine wp_nameE _ (fun W15 hW => ?_)
          have hb := (show Below w14.heap.size w14 W15 by rw [hW]; exact Below.alloc (Below.refl _ _) (Nat.le_refl _) _)
          have hx4 : W15.heap[w14.heap.size]? = some (.cells #[.int .i64 0, .string ⟨#[]⟩, .int .i64 0, .string ⟨#[]⟩, .int .i64 0, .int .i64 0, .string ⟨#[]⟩, .int .i64 0, .int .i64 0, .string ⟨#[]⟩, .string ⟨#[]⟩, .int .i64 0, .int .i64 0] 27 (0, 0)) := by
            rw [hW]; show (w14.heap.push _)[w14.heap.size]? = _; rw [Array.getElem?_push_size]
          have hbel := hbel.trans (hb.mono hbel.size)
          clear hW
          clear hx4
          go_upto_region 17 with fail
          go_upto_region 18 with (go_at_call 12; refine (CD3 _).mono ?_; rintro e w17 ⟨rfl, hb⟩; have hbel := hbel.trans (hb.mono hbel.size))
          refine wp_nameE _ (fun W18 hW => ?_)
          have hb := (show Below w17.heap.size w17 W18 by rw [hW]; exact Below.alloc (Below.refl _ _) (Nat.le_refl _) _)
          have hx3 : W18.heap[w17.heap.size]? = some (.cells #[.int .i64 kd2, .string sp2, .int .i64 sc2, .string dp2, .int .i64 dc2, .int .i64 sq2, .string da2, .int .i64 th2, .int .i64 ta2, .string ack2, .string ep2, .int .i64 ec2, .int .i64 ht2] 27 (0, 0)) := by
            rw [hW]; show (w17.heap.push _)[w17.heap.size]? = _; rw [Array.getElem?_push_size]
          have hbel := hbel.trans (hb.mono hbel.size)
          clear hW
          have r0 := cell_heap hx3 0
          have r1 := cell_heap hx3 1
          have r2 := cell_heap hx3 2
          have r3 := cell_heap hx3 3
          have r4 := cell_heap hx3 4
          have r5 := cell_heap hx3 5
          have r6 := cell_heap hx3 6
          have r7 := cell_heap hx3 7
          have r8 := cell_heap hx3 8
          have r9 := cell_heap hx3 9
          have r10 := cell_heap hx3 10
          have r11 := cell_heap hx3 11
          have r12 := cell_heap hx3 12
          have hxl := (Array.getElem?_eq_some_iff.1 hx3).1
          go_wp2_with (first | (go_at_call 10; refine (CEx _).mono ?_; rintro e w20 ⟨rfl, hb⟩; have hx3 := cells_of hx3 hb hxl; have hxl := Nat.lt_of_lt_of_le hxl hb.size; have r0 := cell_heap hx3 0; have r1 := cell_heap hx3 1; have r2 := cell_heap hx3 2; have r3 := cell_heap hx3 3; have r4 := cell_heap hx3 4; have r5 := cell_heap hx3 5; have r6 := cell_heap hx3 6; have r7 := cell_heap hx3 7; have r8 := cell_heap hx3 8; have r9 := cell_heap hx3 9; have r10 := cell_heap hx3 10; have r11 := cell_heap hx3 11; have r12 := cell_heap hx3 12; have hbel := hbel.trans (hb.mono hbel.size)) | (go_at_call 11; refine (CMx _).mono ?_; rintro e w21 ⟨rfl, hb⟩; have hx3 := cells_of hx3 hb hxl; have hxl := Nat.lt_of_lt_of_le hxl hb.size; have r0 := cell_heap hx3 0; have r1 := cell_heap hx3 1; have r2 := cell_heap hx3 2; have r3 := cell_heap hx3 3; have r4 := cell_heap hx3 4; have r5 := cell_heap hx3 5; have r6 := cell_heap hx3 6; have r7 := cell_heap hx3 7; have r8 := cell_heap hx3 8; have r9 := cell_heap hx3 9; have r10 := cell_heap hx3 10; have r11 := cell_heap hx3 11; have r12 := cell_heap hx3 12; have hbel := hbel.trans (hb.mono hbel.size)))
          go_ret
          exact ⟨rfl, hbel⟩
        · have d0 : decide ((0 : Int) ≤ cut) = true := decide_eq_true hc0
          have d1 : decide (cut < (S.size : Int)) = false := decide_eq_false hc1
          go_upto_region 17 with fail
          go_upto_region 18 with (go_at_call 12; refine (CD3 _).mono ?_; rintro e w17 ⟨rfl, hb⟩; have hbel := hbel.trans (hb.mono hbel.size))
          refine wp_nameE _ (fun W18 hW => ?_)
          have hb := (show Below w17.heap.size w17 W18 by rw [hW]; exact Below.alloc (Below.refl _ _) (Nat.le_refl _) _)
          have hx3 : W18.heap[w17.heap.size]? = some (.cells #[.int .i64 kd2, .string sp2, .int .i64 sc2, .string dp2, .int .i64 dc2, .int .i64 sq2, .string da2, .int .i64 th2, .int .i64 ta2, .string ack2, .string ep2, .int .i64 ec2, .int .i64 ht2] 27 (0, 0)) := by
            rw [hW]; show (w17.heap.push _)[w17.heap.size]? = _; rw [Array.getElem?_push_size]
          have hbel := hbel.trans (hb.mono hbel.size)
          clear hW
          have r0 := cell_heap hx3 0
          have r1 := cell_heap hx3 1
          have r2 := cell_heap hx3 2
          have r3 := cell_heap hx3 3
          have r4 := cell_heap hx3 4
          have r5 := cell_heap hx3 5
          have r6 := cell_heap hx3 6
          have r7 := cell_heap hx3 7
          have r8 := cell_heap hx3 8
          have r9 := cell_heap hx3 9
          have r10 := cell_heap hx3 10
          have r11 := cell_heap hx3 11
          have r12 := cell_heap hx3 12
          have hxl := (Array.getElem?_eq_some_iff.1 hx3).1
          go_wp2_with (first | (go_at_call 10; refine (CEx _).mono ?_; rintro e w20 ⟨rfl, hb⟩; have hx3 := cells_of hx3 hb hxl; have hxl := Nat.lt_of_lt_of_le hxl hb.size; have r0 := cell_heap hx3 0; have r1 := cell_heap hx3 1; have r2 := cell_heap hx3 2; have r3 := cell_heap hx3 3; have r4 := cell_heap hx3 4; have r5 := cell_heap hx3 5; have r6 := cell_heap hx3 6; have r7 := cell_heap hx3 7; have r8 := cell_heap hx3 8; have r9 := cell_heap hx3 9; have r10 := cell_heap hx3 10; have r11 := cell_heap hx3 11; have r12 := cell_heap hx3 12; have hbel := hbel.trans (hb.mono hbel.size)) | (go_at_call 11; refine (CMx _).mono ?_; rintro e w21 ⟨rfl, hb⟩; have hx3 := cells_of hx3 hb hxl; have hxl := Nat.lt_of_lt_of_le hxl hb.size; have r0 := cell_heap hx3 0; have r1 := cell_heap hx3 1; have r2 := cell_heap hx3 2; have r3 := cell_heap hx3 3; have r4 := cell_heap hx3 4; have r5 := cell_heap hx3 5; have r6 := cell_heap hx3 6; have r7 := cell_heap hx3 7; have r8 := cell_heap hx3 8; have r9 := cell_heap hx3 9; have r10 := cell_heap hx3 10; have r11 := cell_heap hx3 11; have r12 := cell_heap hx3 12; have hbel := hbel.trans (hb.mono hbel.size)))
          go_ret
          exact ⟨rfl, hbel⟩
      · have d0 : decide ((0 : Int) ≤ cut) = false := decide_eq_false hc0
        go_upto_region 17 with fail
        go_upto_region 18 with (go_at_call 12; refine (CD3 _).mono ?_; rintro e w17 ⟨rfl, hb⟩; have hbel := hbel.trans (hb.mono hbel.size))
        refine wp_nameE _ (fun W18 hW => ?_)
        have hb := (show Below w17.heap.size w17 W18 by rw [hW]; exact Below.alloc (Below.refl _ _) (Nat.le_refl _) _)
        have hx3 : W18.heap[w17.heap.size]? = some (.cells #[.int .i64 kd2, .string sp2, .int .i64 sc2, .string dp2, .int .i64 dc2, .int .i64 sq2, .string da2, .int .i64 th2, .int .i64 ta2, .string ack2, .string ep2, .int .i64 ec2, .int .i64 ht2] 27 (0, 0)) := by
          rw [hW]; show (w17.heap.push _)[w17.heap.size]? = _; rw [Array.getElem?_push_size]
        have hbel := hbel.trans (hb.mono hbel.size)
        clear hW
        have r0 := cell_heap hx3 0
        have r1 := cell_heap hx3 1
        have r2 := cell_heap hx3 2
        have r3 := cell_heap hx3 3
        have r4 := cell_heap hx3 4
        have r5 := cell_heap hx3 5
        have r6 := cell_heap hx3 6
        have r7 := cell_heap hx3 7
        have r8 := cell_heap hx3 8
        have r9 := cell_heap hx3 9
        have r10 := cell_heap hx3 10
        have r11 := cell_heap hx3 11
        have r12 := cell_heap hx3 12
        have hxl := (Array.getElem?_eq_some_iff.1 hx3).1
        go_wp2_with (first | (go_at_call 10; refine (CEx _).mono ?_; rintro e w20 ⟨rfl, hb⟩; have hx3 := cells_of hx3 hb hxl; have hxl := Nat.lt_of_lt_of_le hxl hb.size; have r0 := cell_heap hx3 0; have r1 := cell_heap hx3 1; have r2 := cell_heap hx3 2; have r3 := cell_heap hx3 3; have r4 := cell_heap hx3 4; have r5 := cell_heap hx3 5; have r6 := cell_heap hx3 6; have r7 := cell_heap hx3 7; have r8 := cell_heap hx3 8; have r9 := cell_heap hx3 9; have r10 := cell_heap hx3 10; have r11 := cell_heap hx3 11; have r12 := cell_heap hx3 12; have hbel := hbel.trans (hb.mono hbel.size)) | (go_at_call 11; refine (CMx _).mono ?_; rintro e w21 ⟨rfl, hb⟩; have hx3 := cells_of hx3 hb hxl; have hxl := Nat.lt_of_lt_of_le hxl hb.size; have r0 := cell_heap hx3 0; have r1 := cell_heap hx3 1; have r2 := cell_heap hx3 2; have r3 := cell_heap hx3 3; have r4 := cell_heap hx3 4; have r5 := cell_heap hx3 5; have r6 := cell_heap hx3 6; have r7 := cell_heap hx3 7; have r8 := cell_heap hx3 8; have r9 := cell_heap hx3 9; have r10 := cell_heap hx3 10; have r11 := cell_heap hx3 11; have r12 := cell_heap hx3 12; have hbel := hbel.trans (hb.mono hbel.size)))
        go_ret
        exact ⟨rfl, hbel⟩
    · have hz := decEv_err (v := v) (by rw [hx]; exact hf)
      rw [hx] at hz
      simp only [Ev.zero, Ev.mk.injEq] at hz
      obtain ⟨rfl, rfl, rfl, rfl, rfl, rfl, rfl, rfl, rfl, rfl, rfl, rfl, rfl⟩ := hz
      simp only [Ev.row] at CD3
      have hf0 : (f == 0) = false := beq_eq_false_iff_ne.2 hf
      clear hx
      go_upto_region 6 with (go_at_call 10; refine (CE _).mono ?_; rintro e w5 ⟨rfl, hb⟩; have hg := cells_of hg hb hgl; have hgl := Nat.lt_of_lt_of_le hgl hb.size; have hbel := hbel.trans (hb.mono hbel.size); have q0 := cell_heap hg 0; have q1 := cell_heap hg 1; have q2 := cell_heap hg 2; have q3 := cell_heap hg 3; have q4 := cell_heap hg 4; have q5 := cell_heap hg 5; have q6 := cell_heap hg 6; have q7 := cell_heap hg 7; have q8 := cell_heap hg 8; have q9 := cell_heap hg 9; have q10 := cell_heap hg 10; have q11 := cell_heap hg 11; have q12 := cell_heap hg 12)
      go_upto_region 9 with (go_at_call 11; refine (CM _).mono ?_; rintro e w6b ⟨rfl, hb⟩; have hg := cells_of hg hb hgl; have hgl := Nat.lt_of_lt_of_le hgl hb.size; have hbel := hbel.trans (hb.mono hbel.size); have q0 := cell_heap hg 0; have q1 := cell_heap hg 1; have q2 := cell_heap hg 2; have q3 := cell_heap hg 3; have q4 := cell_heap hg 4; have q5 := cell_heap hg 5; have q6 := cell_heap hg 6; have q7 := cell_heap hg 7; have q8 := cell_heap hg 8; have q9 := cell_heap hg 9; have q10 := cell_heap hg 10; have q11 := cell_heap hg 11; have q12 := cell_heap hg 12)
      go_upto_region 10 with (go_at_call 12; refine (CD1 _).mono ?_; rintro e w9 ⟨rfl, hb⟩; have hg := cells_of hg hb hgl; have hgl := Nat.lt_of_lt_of_le hgl hb.size; have hbel := hbel.trans (hb.mono hbel.size); have q0 := cell_heap hg 0; have q1 := cell_heap hg 1; have q2 := cell_heap hg 2; have q3 := cell_heap hg 3; have q4 := cell_heap hg 4; have q5 := cell_heap hg 5; have q6 := cell_heap hg 6; have q7 := cell_heap hg 7; have q8 := cell_heap hg 8; have q9 := cell_heap hg 9; have q10 := cell_heap hg 10; have q11 := cell_heap hg 11; have q12 := cell_heap hg 12)
      refine wp_nameE _ (fun W10 hW => ?_)
      have hb := (show Below w9.heap.size w9 W10 by rw [hW]; exact Below.alloc (Below.refl _ _) (Nat.le_refl _) _)
      have hx1 : W10.heap[w9.heap.size]? = some (.cells #[.int .i64 kd, .string sp, .int .i64 sc, .string dp, .int .i64 dc, .int .i64 sq, .string da, .int .i64 th, .int .i64 ta, .string ack, .string ep, .int .i64 ec, .int .i64 ht] 27 (0, 0)) := by
        rw [hW]; show (w9.heap.push _)[w9.heap.size]? = _; rw [Array.getElem?_push_size]
      have hg := cells_of hg hb hgl
      have hgl := Nat.lt_of_lt_of_le hgl hb.size
      have hbel := hbel.trans (hb.mono hbel.size)
      have q0 := cell_heap hg 0
      have q1 := cell_heap hg 1
      have q2 := cell_heap hg 2
      have q3 := cell_heap hg 3
      have q4 := cell_heap hg 4
      have q5 := cell_heap hg 5
      have q6 := cell_heap hg 6
      have q7 := cell_heap hg 7
      have q8 := cell_heap hg 8
      have q9 := cell_heap hg 9
      have q10 := cell_heap hg 10
      have q11 := cell_heap hg 11
      have q12 := cell_heap hg 12
      clear hW
      go_upto_region 11 with (go_at_call 12; refine (CD2 _).mono ?_; rintro e w10 ⟨rfl, hb⟩; have hx1 := cells_of hx1 hb (Array.getElem?_eq_some_iff.1 hx1).1; have hg := cells_of hg hb hgl; have hgl := Nat.lt_of_lt_of_le hgl hb.size; have hbel := hbel.trans (hb.mono hbel.size); have q0 := cell_heap hg 0; have q1 := cell_heap hg 1; have q2 := cell_heap hg 2; have q3 := cell_heap hg 3; have q4 := cell_heap hg 4; have q5 := cell_heap hg 5; have q6 := cell_heap hg 6; have q7 := cell_heap hg 7; have q8 := cell_heap hg 8; have q9 := cell_heap hg 9; have q10 := cell_heap hg 10; have q11 := cell_heap hg 11; have q12 := cell_heap hg 12)
      refine wp_nameE _ (fun W11 hW => ?_)
      have hb := (show Below w10.heap.size w10 W11 by rw [hW]; exact Below.alloc (Below.refl _ _) (Nat.le_refl _) _)
      have hx2 : W11.heap[w10.heap.size]? = some (.cells #[.int .i64 0, .string ⟨#[]⟩, .int .i64 0, .string ⟨#[]⟩, .int .i64 0, .int .i64 0, .string ⟨#[]⟩, .int .i64 0, .int .i64 0, .string ⟨#[]⟩, .string ⟨#[]⟩, .int .i64 0, .int .i64 0] 27 (0, 0)) := by
        rw [hW]; show (w10.heap.push _)[w10.heap.size]? = _; rw [Array.getElem?_push_size]
      have hx1 := cells_of hx1 hb (Array.getElem?_eq_some_iff.1 hx1).1
      have hg := cells_of hg hb hgl
      have hgl := Nat.lt_of_lt_of_le hgl hb.size
      have hbel := hbel.trans (hb.mono hbel.size)
      have q0 := cell_heap hg 0
      have q1 := cell_heap hg 1
      have q2 := cell_heap hg 2
      have q3 := cell_heap hg 3
      have q4 := cell_heap hg 4
      have q5 := cell_heap hg 5
      have q6 := cell_heap hg 6
      have q7 := cell_heap hg 7
      have q8 := cell_heap hg 8
      have q9 := cell_heap hg 9
      have q10 := cell_heap hg 10
      have q11 := cell_heap hg 11
      have q12 := cell_heap hg 12
      clear hW
      have r0 := cell_heap hx1 0
      have r1 := cell_heap hx1 1
      have r2 := cell_heap hx1 2
      have r3 := cell_heap hx1 3
      have r4 := cell_heap hx1 4
      have r5 := cell_heap hx1 5
      have r6 := cell_heap hx1 6
      have r7 := cell_heap hx1 7
      have r8 := cell_heap hx1 8
      have r9 := cell_heap hx1 9
      have r10 := cell_heap hx1 10
      have r11 := cell_heap hx1 11
      have r12 := cell_heap hx1 12
      go_upto_region 13 with fail
      clear hx1 hx2 r0 r1 r2 r3 r4 r5 r6 r7 r8 r9 r10 r11 r12
      clear hg hgl q0 q1 q2 q3 q4 q5 q6 q7 q8 q9 q10 q11 q12
      by_cases hc0 : 0 ≤ cut
      · by_cases hc1 : cut < (S.size : Int)
        · obtain ⟨c, rfl⟩ : ∃ c : Nat, cut = c := ⟨cut.toNat, by omega⟩
          have d0 : decide ((0 : Int) ≤ (c : Int)) = true := decide_eq_true hc0
          have d1 : decide ((c : Int) < (S.size : Int)) = true := decide_eq_true hc1
          have hc2 : (c : Int) ≤ (S.size : Int) := by omega
          have hc3 : c ≤ S.size := by omega
          have CD4 := fun W => decodeEv_any (S.extract 0 c) W (by have : (S.extract 0 c).size ≤ S.size := (by simp; omega); omega)
          simp only [hCut c (by omega)] at CD4
          simp only [Ev.row, Ev.zero] at CD4
          go_upto_region 15 with (go_at_call 12; refine (CD4 _).mono ?_; rintro e w14 ⟨rfl, hb⟩; have hbel := hbel.trans (hb.mono hbel.size))
          refine wp_nameE _ (fun W15 hW => ?_)
          have hb := (show Below w14.heap.size w14 W15 by rw [hW]; exact Below.alloc (Below.refl _ _) (Nat.le_refl _) _)
          have hx4 : W15.heap[w14.heap.size]? = some (.cells #[.int .i64 0, .string ⟨#[]⟩, .int .i64 0, .string ⟨#[]⟩, .int .i64 0, .int .i64 0, .string ⟨#[]⟩, .int .i64 0, .int .i64 0, .string ⟨#[]⟩, .string ⟨#[]⟩, .int .i64 0, .int .i64 0] 27 (0, 0)) := by
            rw [hW]; show (w14.heap.push _)[w14.heap.size]? = _; rw [Array.getElem?_push_size]
          have hbel := hbel.trans (hb.mono hbel.size)
          clear hW
          clear hx4
          go_upto_region 17 with fail
          go_upto_region 18 with (go_at_call 12; refine (CD3 _).mono ?_; rintro e w17 ⟨rfl, hb⟩; have hbel := hbel.trans (hb.mono hbel.size))
          refine wp_nameE _ (fun W18 hW => ?_)
          have hb := (show Below w17.heap.size w17 W18 by rw [hW]; exact Below.alloc (Below.refl _ _) (Nat.le_refl _) _)
          have hx3 : W18.heap[w17.heap.size]? = some (.cells #[.int .i64 0, .string ⟨#[]⟩, .int .i64 0, .string ⟨#[]⟩, .int .i64 0, .int .i64 0, .string ⟨#[]⟩, .int .i64 0, .int .i64 0, .string ⟨#[]⟩, .string ⟨#[]⟩, .int .i64 0, .int .i64 0] 27 (0, 0)) := by
            rw [hW]; show (w17.heap.push _)[w17.heap.size]? = _; rw [Array.getElem?_push_size]
          have hbel := hbel.trans (hb.mono hbel.size)
          clear hW
          have r0 := cell_heap hx3 0
          have r1 := cell_heap hx3 1
          have r2 := cell_heap hx3 2
          have r3 := cell_heap hx3 3
          have r4 := cell_heap hx3 4
          have r5 := cell_heap hx3 5
          have r6 := cell_heap hx3 6
          have r7 := cell_heap hx3 7
          have r8 := cell_heap hx3 8
          have r9 := cell_heap hx3 9
          have r10 := cell_heap hx3 10
          have r11 := cell_heap hx3 11
          have r12 := cell_heap hx3 12
          have hxl := (Array.getElem?_eq_some_iff.1 hx3).1
          go_wp2
          go_ret
          exact ⟨rfl, hbel⟩
        · have d0 : decide ((0 : Int) ≤ cut) = true := decide_eq_true hc0
          have d1 : decide (cut < (S.size : Int)) = false := decide_eq_false hc1
          go_upto_region 17 with fail
          go_upto_region 18 with (go_at_call 12; refine (CD3 _).mono ?_; rintro e w17 ⟨rfl, hb⟩; have hbel := hbel.trans (hb.mono hbel.size))
          refine wp_nameE _ (fun W18 hW => ?_)
          have hb := (show Below w17.heap.size w17 W18 by rw [hW]; exact Below.alloc (Below.refl _ _) (Nat.le_refl _) _)
          have hx3 : W18.heap[w17.heap.size]? = some (.cells #[.int .i64 0, .string ⟨#[]⟩, .int .i64 0, .string ⟨#[]⟩, .int .i64 0, .int .i64 0, .string ⟨#[]⟩, .int .i64 0, .int .i64 0, .string ⟨#[]⟩, .string ⟨#[]⟩, .int .i64 0, .int .i64 0] 27 (0, 0)) := by
            rw [hW]; show (w17.heap.push _)[w17.heap.size]? = _; rw [Array.getElem?_push_size]
          have hbel := hbel.trans (hb.mono hbel.size)
          clear hW
          have r0 := cell_heap hx3 0
          have r1 := cell_heap hx3 1
          have r2 := cell_heap hx3 2
          have r3 := cell_heap hx3 3
          have r4 := cell_heap hx3 4
          have r5 := cell_heap hx3 5
          have r6 := cell_heap hx3 6
          have r7 := cell_heap hx3 7
          have r8 := cell_heap hx3 8
          have r9 := cell_heap hx3 9
          have r10 := cell_heap hx3 10
          have r11 := cell_heap hx3 11
          have r12 := cell_heap hx3 12
          have hxl := (Array.getElem?_eq_some_iff.1 hx3).1
          go_wp2
          go_ret
          exact ⟨rfl, hbel⟩
      · have d0 : decide ((0 : Int) ≤ cut) = false := decide_eq_false hc0
        go_upto_region 17 with fail
        go_upto_region 18 with (go_at_call 12; refine (CD3 _).mono ?_; rintro e w17 ⟨rfl, hb⟩; have hbel := hbel.trans (hb.mono hbel.size))
        refine wp_nameE _ (fun W18 hW => ?_)
        have hb := (show Below w17.heap.size w17 W18 by rw [hW]; exact Below.alloc (Below.refl _ _) (Nat.le_refl _) _)
        have hx3 : W18.heap[w17.heap.size]? = some (.cells #[.int .i64 0, .string ⟨#[]⟩, .int .i64 0, .string ⟨#[]⟩, .int .i64 0, .int .i64 0, .string ⟨#[]⟩, .int .i64 0, .int .i64 0, .string ⟨#[]⟩, .string ⟨#[]⟩, .int .i64 0, .int .i64 0] 27 (0, 0)) := by
          rw [hW]; show (w17.heap.push _)[w17.heap.size]? = _; rw [Array.getElem?_push_size]
        have hbel := hbel.trans (hb.mono hbel.size)
        clear hW
        have r0 := cell_heap hx3 0
        have r1 := cell_heap hx3 1
        have r2 := cell_heap hx3 2
        have r3 := cell_heap hx3 3
        have r4 := cell_heap hx3 4
        have r5 := cell_heap hx3 5
        have r6 := cell_heap hx3 6
        have r7 := cell_heap hx3 7
        have r8 := cell_heap hx3 8
        have r9 := cell_heap hx3 9
        have r10 := cell_heap hx3 10
        have r11 := cell_heap hx3 11
        have r12 := cell_heap hx3 12
        have hxl := (Array.getElem?_eq_some_iff.1 hx3).1
        go_wp2
        go_ret
        exact ⟨rfl, hbel⟩
end Go.Proofs.Ytekhmdjpkngglaa
