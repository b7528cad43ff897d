/- Events as a codec; EventBack, walked. -/
import Derived.Test.YtcbacchelabljaaCodec
import Derived.Test.YtcbacchelabljaaEvD
import Derived.Test.YtcbacchelabljaaEvE
import Derived.Test.YtcbacchelabljaaEvJ
import Derived.Deep.MidRow
import Derived.Deep.Cut
import Derived.WalkKit
import Derived.ProofKit
import Derived.Handy
import Derived.Below
import Derived.BigQuiet
import Derived.Lib.Hide
import Derived.IntWalk
import Derived.Outline
import Derived.WalkLawsBesides
import Derived.WalkSpells
namespace Go.Proofs.Ytcbacchelabljaa
open Go.RowKit
attribute [local go_sem] strV
set_option linter.unusedVariables false
def nP (lo hi : Int) (s : ByteArray) (a e : Int) : Int × Int × Int := numG s a e lo hi
def tP (most : Int) (s : ByteArray) (a e : Int) : ByteArray × Int × Int := textG s a e most
theorem nP_codec {lo hi : Int} (h0 : 0 ≤ lo) (h1 : hi ≤ 72057594037927935) : Codec (nP lo hi) putL (fun n => lo ≤ n ∧ n ≤ hi) := num_codec lo hi h0 h1
theorem tP_codec {most : Int} (h1 : most ≤ 1000000) : Codec (tP most) textB (fun t => (t.size : Int) ≤ most) := text_codec most h1
def mapP {α β : Type} (f : α → β) (P : ByteArray → Int → Int → α × Int × Int) (s : ByteArray) (a e : Int) : β × Int × Int := (f (P s a e).1, (P s a e).2.1, (P s a e).2.2)
def endP : ByteArray → Int → Int → (ByteArray × Int) × Int × Int := seqP (tP 12) (fun _ => nP 0 999)
def endOk (p : ByteArray × Int) : Prop := (p.1.size : Int) ≤ 12 ∧ 0 ≤ p.2 ∧ p.2 ≤ 999
theorem end_codec : Codec endP (fun p => textB p.1 ++ putL p.2) endOk :=
  (tP_codec (by decide)).seq (fun _ _ => nP_codec (by decide) (by decide)) (fun _ _ _ _ he => (nP_codec (by decide) (by decide)).stay he)
abbrev PkT := (ByteArray × Int) × (ByteArray × Int) × Int × ByteArray × Int × Int
def pkP : ByteArray → Int → Int → PkT × Int × Int :=
  seqP endP fun _ => seqP endP fun _ => seqP (nP 1 1099511627776) fun _ => seqP (tP 200) fun _ => seqP (nP 0 1099511627776) fun _ => nP 0 1099511627776
def pkB (p : PkT) : List UInt8 := (textB p.1.1 ++ putL p.1.2) ++ ((textB p.2.1.1 ++ putL p.2.1.2) ++ (putL p.2.2.1 ++ (textB p.2.2.2.1 ++ (putL p.2.2.2.2.1 ++ putL p.2.2.2.2.2))))
def pkOk (p : PkT) : Prop := endOk p.1 ∧ endOk p.2.1 ∧ (1 ≤ p.2.2.1 ∧ p.2.2.1 ≤ 1099511627776) ∧ (p.2.2.2.1.size : Int) ≤ 200 ∧ (0 ≤ p.2.2.2.2.1 ∧ p.2.2.2.2.1 ≤ 1099511627776) ∧ 0 ≤ p.2.2.2.2.2 ∧ p.2.2.2.2.2 ≤ 1099511627776
theorem pk_codec : Codec pkP pkB pkOk := by
  have c6 := nP_codec (lo := 0) (hi := 1099511627776) (by decide) (by decide)
  have c5 := c6.seq (fun _ _ => c6) (fun _ _ _ _ he => c6.stay he)
  have c4 := (tP_codec (most := 200) (by decide)).seq (fun _ _ => c5) (fun _ _ _ _ he => c5.stay he)
  have c3 := (nP_codec (lo := 1) (hi := 1099511627776) (by decide) (by decide)).seq (fun _ _ => c4) (fun _ _ _ _ he => c4.stay he)
  have c2 := end_codec.seq (fun _ _ => c3) (fun _ _ _ _ he => c3.stay he)
  exact end_codec.seq (fun _ _ => c2) (fun _ _ _ _ he => c2.stay he)
theorem pkB_eq (p : PkT) : pkB p = pkBy p.1.1 p.1.2 p.2.1.1 p.2.1.2 p.2.2.1 p.2.2.2.1 p.2.2.2.2.1 p.2.2.2.2.2 := by
  unfold pkB pkBy endBy textB
  simp only [List.append_assoc]
theorem pkP_eq (s : ByteArray) (a e : Int) : pkP s a e = ((((pkG s a e).sp, (pkG s a e).sc), ((pkG s a e).dp, (pkG s a e).dc), (pkG s a e).sq, (pkG s a e).da, (pkG s a e).th, (pkG s a e).ta), (pkG s a e).a, (pkG s a e).e) := rfl
theorem endP_eq (s : ByteArray) (a e : Int) : endP s a e = (((endG s a e).1, (endG s a e).2.1), (endG s a e).2.2.1, (endG s a e).2.2.2) := rfl
def mkK (kd : Int) (p : PkT) : Ev := ⟨kd, p.1.1, p.1.2, p.2.1.1, p.2.1.2, p.2.2.1, p.2.2.2.1, p.2.2.2.2.1, p.2.2.2.2.2, ⟨#[]⟩, ⟨#[]⟩, 0, 0⟩
def mk3 (p : PkT × ByteArray) : Ev := ⟨3, p.1.1.1, p.1.1.2, p.1.2.1.1, p.1.2.1.2, p.1.2.2.1, p.1.2.2.2.1, p.1.2.2.2.2.1, p.1.2.2.2.2.2, p.2, ⟨#[]⟩, 0, 0⟩
def mk6 (p : ByteArray × Int) : Ev := ⟨6, ⟨#[]⟩, 0, ⟨#[]⟩, 0, 0, ⟨#[]⟩, 0, 0, ⟨#[]⟩, p.1, p.2, 0⟩
def mk7 (h : Int) : Ev := ⟨7, ⟨#[]⟩, 0, ⟨#[]⟩, 0, 0, ⟨#[]⟩, 0, 0, ⟨#[]⟩, ⟨#[]⟩, 0, h⟩
def mk0 (kd : Int) : Ev := ⟨kd, ⟨#[]⟩, 0, ⟨#[]⟩, 0, 0, ⟨#[]⟩, 0, 0, ⟨#[]⟩, ⟨#[]⟩, 0, 0⟩
def Ev.pk (e : Ev) : PkT := ((e.sp, e.sc), (e.dp, e.dc), e.sq, e.da, e.th, e.ta)
/-- How the fields of an event of a kind are read. -/
def bodyP (kd : Int) : ByteArray → Int → Int → Ev × Int × Int :=
  if kd = 3 then mapP mk3 (seqP pkP fun _ => tP 32)
  else if kd = 6 then mapP mk6 endP
  else if kd = 7 then mapP mk7 (nP 1 1099511627776)
  else if hasP kd = true then mapP (mkK kd) pkP
  else fun _ a e => (mk0 kd, a, e)
def bodyBy (kd : Int) (e : Ev) : List UInt8 :=
  if kd = 3 then pkB e.pk ++ textB e.ack
  else if kd = 6 then textB e.ep ++ putL e.ec
  else if kd = 7 then putL e.ht
  else if hasP kd = true then pkB e.pk
  else []
def bodyOk (kd : Int) (e : Ev) : Prop :=
  if kd = 3 then (pkOk e.pk ∧ (e.ack.size : Int) ≤ 32) ∧ mk3 (e.pk, e.ack) = e
  else if kd = 6 then endOk (e.ep, e.ec) ∧ mk6 (e.ep, e.ec) = e
  else if kd = 7 then (1 ≤ e.ht ∧ e.ht ≤ 1099511627776) ∧ mk7 e.ht = e
  else if hasP kd = true then pkOk e.pk ∧ mkK kd e.pk = e
  else e = mk0 kd
theorem body_codec (kd : Int) : Codec (bodyP kd) (bodyBy kd) (bodyOk kd) := by
  have c32 := tP_codec (most := 32) (by decide)
  have cpa := pk_codec.seq (fun _ _ => c32) (fun _ _ _ _ he => c32.stay he)
  unfold bodyP bodyBy bodyOk
  by_cases k3 : kd = 3
  · simp only [if_pos k3]
    exact cpa.map mk3 (fun e => (e.pk, e.ack)) (fun _ _ => rfl)
  simp only [if_neg k3]
  by_cases k6 : kd = 6
  · simp only [if_pos k6]
    exact end_codec.map mk6 (fun e => (e.ep, e.ec)) (fun _ _ => rfl)
  simp only [if_neg k6]
  by_cases k7 : kd = 7
  · simp only [if_pos k7]
    exact (nP_codec (lo := 1) (hi := 1099511627776) (by decide) (by decide)).map mk7 (fun e => e.ht) (fun _ _ => rfl)
  simp only [if_neg k7]
  by_cases hh : hasP kd = true
  · simp only [if_pos hh]
    exact pk_codec.map (mkK kd) (fun e => e.pk) (fun _ _ => rfl)
  simp only [if_neg hh]
  exact pure_codec (mk0 kd)
theorem bodyOk_kd {kd : Int} {e : Ev} (h : bodyOk kd e) : e.kd = kd := by
  unfold bodyOk at h
  split at h
  · rename_i k; rw [← h.2]; exact k.symm
  split at h
  · rename_i k; rw [← h.2]; exact k.symm
  split at h
  · rename_i k; rw [← h.2]; exact k.symm
  split at h
  · rw [← h.2]; rfl
  · rw [h]; rfl
def evP : ByteArray → Int → Int → Ev × Int × Int := mapP (fun p : Int × Ev => p.2) (seqP (nP 1 7) bodyP)
def evOk (e : Ev) : Prop := ((1 ≤ e.kd ∧ e.kd ≤ 7) ∧ bodyOk e.kd e) ∧ e = e
theorem ev_codec : Codec evP (fun e => putL e.kd ++ bodyBy e.kd e) evOk := by
  have c := (nP_codec (lo := 1) (hi := 7) (by decide) (by decide)).seq (fun x _ => body_codec x) (fun x _ _ _ he => (body_codec x).stay he)
  exact c.map (fun p => p.2) (fun e => (e.kd, e)) (fun x hx => by rw [bodyOk_kd hx.2])
theorem evP_eq (s : ByteArray) (a e : Int) : evP s a e = evG s a e := by
  obtain ⟨⟨kd, a1, e1⟩, h⟩ : ∃ t, numG s a e 1 7 = t := ⟨_, rfl⟩
  unfold evP mapP seqP evG nP
  simp only [h]
  unfold bodyP
  by_cases k3 : kd = 3
  · subst k3; simp only [if_pos trivial]; rfl
  by_cases k6 : kd = 6
  · subst k6; simp only [if_neg k3, if_pos trivial]; rfl
  by_cases k7 : kd = 7
  · subst k7; simp only [if_neg k3, if_neg k6, if_pos trivial]; rfl
  simp only [if_neg k3, if_neg k6, if_neg k7]
  by_cases hh : hasP kd = true
  · simp only [if_pos hh]; rfl
  · simp only [if_neg hh]; rfl
theorem decEv_eq (v : ByteArray) : decEv v = decP evP mayEv Ev.zero v := by
  unfold decEv decP
  rw [evP_eq]
theorem encE_eq (e : Ev) : encE e = putL e.kd ++ bodyBy e.kd e := by
  unfold encE bodyBy
  congr 1
  by_cases k3 : e.kd = 3
  · rw [if_pos k3, k3]; unfold Ev.pk; rw [pkB_eq]; simp [hasP, textB]
  by_cases k6 : e.kd = 6
  · rw [if_neg k3, if_pos k6, k6]; unfold endBy; simp [hasP, textB]
  by_cases k7 : e.kd = 7
  · rw [if_neg k3, if_neg k6, if_pos k7, k7]; simp [hasP]
  rw [if_neg k3, if_neg k6, if_neg k7, beq_eq_false_iff_ne.2 k3, beq_eq_false_iff_ne.2 k6, beq_eq_false_iff_ne.2 k7]
  cases hh : hasP e.kd
  · simp
  · rw [if_pos rfl]; unfold Ev.pk; rw [pkB_eq]; simp
theorem ok_of_may {e : Ev} (h : mayEv e = true) : evOk e := by
  obtain ⟨hp, hb⟩ := mayEv_parts h
  have hk := kd_of hb
  refine ⟨⟨hk, ?_⟩, rfl⟩
  obtain ⟨kd, sp, sc, dp, dc, sq, da, th, ta, ack, ep, ec, ht⟩ := e
  simp only at hk
  have hpk : mayK sp sc dp dc sq da th ta = true → pkOk ((sp, sc), (dp, dc), sq, da, th, ta) := fun hm => by
    have b := mayK_bounds hm
    exact ⟨⟨by simp only; omega, by simp only; omega, by simp only; omega⟩, ⟨by simp only; omega, by simp only; omega, by simp only; omega⟩, ⟨by simp only; omega, by simp only; omega⟩, by simp only; omega, ⟨by simp only; omega, by simp only; omega⟩, by simp only; omega, by simp only; omega⟩
  unfold bodyOk
  unfold bodyE at hb
  simp only at hb ⊢
  by_cases k3 : kd = 3
  · subst k3
    rw [if_neg (by decide), if_neg (by decide), if_pos rfl] at hb
    simp only [Bool.and_eq_true, decide_eq_true_eq] at hb
    rw [if_pos rfl]
    simp [plainE, hasP] at hp
    obtain ⟨rfl, rfl, rfl⟩ := hp
    exact ⟨⟨hpk hb.1.1, hb.2⟩, rfl⟩
  by_cases k6 : kd = 6
  · subst k6
    rw [if_pos rfl] at hb
    rw [if_neg k3, if_pos rfl]
    simp [plainE, hasP] at hp
    have b := mayE_bounds hb
    obtain ⟨rfl, rfl, rfl, rfl, rfl, rfl, rfl, rfl, rfl, rfl⟩ := hp
    exact ⟨⟨by simp only; omega, by simp only; omega, by simp only; omega⟩, rfl⟩
  by_cases k7 : kd = 7
  · subst k7
    rw [if_neg k6, if_pos rfl] at hb
    simp only [Bool.and_eq_true, decide_eq_true_eq] at hb
    rw [if_neg k3, if_neg k6, if_pos rfl]
    simp [plainE, hasP] at hp
    obtain ⟨rfl, rfl, rfl, rfl, rfl, rfl, rfl, rfl, rfl, rfl, rfl⟩ := hp
    exact ⟨hb, rfl⟩
  rw [if_neg k6, if_neg k7, if_neg k3, Bool.and_eq_true] at hb
  rw [if_neg k3, if_neg k6, if_neg k7, if_pos hb.1]
  have e3 : (kd == 3) = false := beq_eq_false_iff_ne.2 k3
  have e6 : (kd == 6) = false := beq_eq_false_iff_ne.2 k6
  have e7 : (kd == 7) = false := beq_eq_false_iff_ne.2 k7
  simp [plainE, hb.1, e3, e6, e7] at hp
  obtain ⟨rfl, rfl, rfl, rfl⟩ := hp
  exact ⟨hpk hb.2, rfl⟩
theorem decEv_enc {x : Ev} (hm : mayEv x = true) {v : ByteArray} (hv : v.data.toList = encE x) : decEv v = (x, 0) := by
  rw [decEv_eq]; exact ev_codec.dec_enc hm (ok_of_may hm) (by rw [hv, encE_eq])
theorem decEv_more {x : Ev} (hm : mayEv x = true) {v : ByteArray} {b : UInt8} {B : List UInt8} (hv : v.data.toList = encE x ++ (b :: B)) : decEv v = (Ev.zero, 3) := by
  rw [decEv_eq]; exact ev_codec.dec_more (ok_of_may hm) (by rw [hv, encE_eq])
theorem decEv_cut {x : Ev} (hm : mayEv x = true) {v : ByteArray} {k : Nat} (hv : v.data.toList = (encE x).take k) (hk : k < (encE x).length) : decEv v = (Ev.zero, 2) := by
  rw [encE_eq] at hv hk
  rw [decEv_eq]; exact ev_codec.dec_cut (ok_of_may hm) hv hk
theorem decEv_back {v : ByteArray} (h : (decEv v).2 = 0) : mayEv (decEv v).1 = true ∧ encE (decEv v).1 = v.data.toList := by
  rw [decEv_eq] at h ⊢
  obtain ⟨h1, _, h2⟩ := ev_codec.dec_back h
  exact ⟨h1, by rw [encE_eq]; exact h2⟩
theorem decEv_err {v : ByteArray} (h : (decEv v).2 ≠ 0) : (decEv v).1 = Ev.zero := by
  rw [decEv_eq] at h ⊢
  exact decP_err h
theorem encE_len {e : Ev} (h : mayEv e = true) : (encE e).length ≤ 1000 := by
  have ho := (ok_of_may h)
  obtain ⟨hp, hb⟩ := mayEv_parts h
  have hk := kd_of hb
  obtain ⟨kd, sp, sc, dp, dc, sq, da, th, ta, ack, ep, ec, ht⟩ := e
  have hpk : mayK sp sc dp dc sq da th ta = true → (pkBy sp sc dp dc sq da th ta).length ≤ 288 := fun hm => by
    have b := mayK_bounds hm
    exact pkBy_len sp sc dp dc sq da th ta (by omega) (by omega) (by omega)
  rw [encE_eq]
  unfold bodyBy
  unfold bodyE at hb
  simp only at hb hk ⊢
  have l0 := putL_len' kd
  rw [List.length_append]
  by_cases k3 : kd = 3
  · subst k3
    rw [if_neg (by decide), if_neg (by decide), if_pos rfl] at hb
    simp only [Bool.and_eq_true, decide_eq_true_eq] at hb
    rw [if_pos rfl, pkB_eq]
    have a := hpk hb.1.1
    have l1 := putL_len' (ack.size : Int)
    simp only [Ev.pk, textB, List.length_append, str_len]
    omega
  by_cases k6 : kd = 6
  · subst k6
    rw [if_pos rfl] at hb
    rw [if_neg k3, if_pos rfl]
    have b := mayE_bounds hb
    have l1 := putL_len' (ep.size : Int)
    have l2 := putL_len' ec
    simp only [textB, List.length_append, str_len]
    omega
  by_cases k7 : kd = 7
  · rw [if_neg k3, if_neg k6, if_pos k7]
    have l2 := putL_len' ht
    omega
  rw [if_neg k6, if_neg k7, if_neg k3, Bool.and_eq_true] at hb
  rw [if_neg k3, if_neg k6, if_neg k7, if_pos hb.1, pkB_eq]
  have a := hpk hb.2
  simp only [Ev.pk]
  omega
end Go.Proofs.Ytcbacchelabljaa
