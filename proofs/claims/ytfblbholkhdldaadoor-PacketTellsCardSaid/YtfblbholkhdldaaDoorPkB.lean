/- Packets in bytes and out of bytes, and their commitments. -/
import Derived.Test.YtfblbholkhdldaaDoorCodec
import Derived.Test.YtfblbholkhdldaaDoorEvRP
import Derived.Test.YtfblbholkhdldaaDoorEvW
import Derived.Test.YtfblbholkhdldaaDoorPacketOv
import Derived.Test.YtfblbholkhdldaaDoorSha7
import Derived.Test.YtfblbholkhdldaaDoorPhiT
import Derived.Test.YtfblbholkhdldaaDoorLebEight2
import Derived.WalkKit
import Derived.ProofKit
import Derived.Handy
import Derived.Below
import Derived.Lib.Hide
import Derived.IntWalk
import Derived.Outline
import Derived.WalkLawsBesides
import Derived.WalkSpells
namespace Go.Proofs.YtfblbholkhdldaaDoor
open Go.RowKit
attribute [local go_sem] strV
set_option linter.unusedVariables false
theorem Pk.mayK_bounds {sp : ByteArray} {sc : Int} {dp : ByteArray} {dc sq : Int} {da : ByteArray} {th ta : Int} (h : mayK sp sc dp dc sq da th ta = true) :
    sp.size ≤ 12 ∧ dp.size ≤ 12 ∧ da.size ≤ 200 ∧ 0 ≤ sc ∧ sc ≤ 999 ∧ 0 ≤ dc ∧ dc ≤ 999 ∧ 1 ≤ sq ∧ sq ≤ 1099511627776 ∧ 0 ≤ th ∧ th ≤ 1099511627776 ∧ 0 ≤ ta ∧ ta ≤ 1099511627776 := by
  unfold mayK at h
  simp only [Bool.and_eq_true, decide_eq_true_eq] at h
  obtain ⟨⟨⟨⟨⟨⟨⟨⟨h1, h2⟩, h3⟩, h4⟩, h5⟩, h6⟩, h7⟩, h8⟩, h9⟩ := h
  have a := mayE_bounds h1
  have b := mayE_bounds h2
  omega
def nP (lo hi : Int) (s : ByteArray) (a e : Int) : Int × Int × Int := numG s a e lo hi
def tP (most : Int) (s : ByteArray) (a e : Int) : ByteArray × Int × Int := textG s a e most
theorem nP_codec {lo hi : Int} (h0 : 0 ≤ lo) (h1 : hi ≤ 72057594037927935) : Codec (nP lo hi) putL (fun n => lo ≤ n ∧ n ≤ hi) := num_codec lo hi h0 h1
theorem tP_codec {most : Int} (h1 : most ≤ 1000000) : Codec (tP most) textB (fun t => (t.size : Int) ≤ most) := text_codec most h1
def mapP {α β : Type} (f : α → β) (P : ByteArray → Int → Int → α × Int × Int) (s : ByteArray) (a e : Int) : β × Int × Int := (f (P s a e).1, (P s a e).2.1, (P s a e).2.2)
def endP : ByteArray → Int → Int → (ByteArray × Int) × Int × Int := seqP (tP 12) (fun _ => nP 0 999)
def endOk (p : ByteArray × Int) : Prop := (p.1.size : Int) ≤ 12 ∧ 0 ≤ p.2 ∧ p.2 ≤ 999
theorem end_codec : Codec endP (fun p => textB p.1 ++ putL p.2) endOk :=
  (tP_codec (by decide)).seq (fun _ _ => nP_codec (by decide) (by decide)) (fun _ _ _ _ he => (nP_codec (by decide) (by decide)).stay he)
abbrev PkT := (ByteArray × Int) × (ByteArray × Int) × Int × ByteArray × Int × Int
def pkP : ByteArray → Int → Int → PkT × Int × Int :=
  seqP endP fun _ => seqP endP fun _ => seqP (nP 1 1099511627776) fun _ => seqP (tP 200) fun _ => seqP (nP 0 1099511627776) fun _ => nP 0 1099511627776
def pkB (p : PkT) : List UInt8 := (textB p.1.1 ++ putL p.1.2) ++ ((textB p.2.1.1 ++ putL p.2.1.2) ++ (putL p.2.2.1 ++ (textB p.2.2.2.1 ++ (putL p.2.2.2.2.1 ++ putL p.2.2.2.2.2))))
def pkOk (p : PkT) : Prop := endOk p.1 ∧ endOk p.2.1 ∧ (1 ≤ p.2.2.1 ∧ p.2.2.1 ≤ 1099511627776) ∧ (p.2.2.2.1.size : Int) ≤ 200 ∧ (0 ≤ p.2.2.2.2.1 ∧ p.2.2.2.2.1 ≤ 1099511627776) ∧ 0 ≤ p.2.2.2.2.2 ∧ p.2.2.2.2.2 ≤ 1099511627776
theorem pk_codec : Codec pkP pkB pkOk := by
  have c6 := nP_codec (lo := 0) (hi := 1099511627776) (by decide) (by decide)
  have c5 := c6.seq (fun _ _ => c6) (fun _ _ _ _ he => c6.stay he)
  have c4 := (tP_codec (most := 200) (by decide)).seq (fun _ _ => c5) (fun _ _ _ _ he => c5.stay he)
  have c3 := (nP_codec (lo := 1) (hi := 1099511627776) (by decide) (by decide)).seq (fun _ _ => c4) (fun _ _ _ _ he => c4.stay he)
  have c2 := end_codec.seq (fun _ _ => c3) (fun _ _ _ _ he => c3.stay he)
  exact end_codec.seq (fun _ _ => c2) (fun _ _ _ _ he => c2.stay he)
theorem pkB_eq (p : PkT) : pkB p = pkBy p.1.1 p.1.2 p.2.1.1 p.2.1.2 p.2.2.1 p.2.2.2.1 p.2.2.2.2.1 p.2.2.2.2.2 := by
  unfold pkB pkBy endBy textB
  simp only [List.append_assoc]
theorem pkP_eq (s : ByteArray) (a e : Int) : pkP s a e = ((((pkG s a e).sp, (pkG s a e).sc), ((pkG s a e).dp, (pkG s a e).dc), (pkG s a e).sq, (pkG s a e).da, (pkG s a e).th, (pkG s a e).ta), (pkG s a e).a, (pkG s a e).e) := rfl
theorem endP_eq (s : ByteArray) (a e : Int) : endP s a e = (((endG s a e).1, (endG s a e).2.1), (endG s a e).2.2.1, (endG s a e).2.2.2) := rfl
def mayT (p : PkT) : Bool := mayK p.1.1 p.1.2 p.2.1.1 p.2.1.2 p.2.2.1 p.2.2.2.1 p.2.2.2.2.1 p.2.2.2.2.2
def PkT.zero : PkT := ((⟨#[]⟩, 0), (⟨#[]⟩, 0), 0, ⟨#[]⟩, 0, 0)
def PkT.row (p : PkT) : Array Value := #[.string p.1.1, .int .i64 p.1.2, .string p.2.1.1, .int .i64 p.2.1.2, .int .i64 p.2.2.1, .string p.2.2.2.1, .int .i64 p.2.2.2.2.1, .int .i64 p.2.2.2.2.2]
def decPk (v : ByteArray) : PkT × Int := decP pkP mayT PkT.zero v
def encPk (p : PkT) : Value := bif mayT p then .tuple #[.string ⟨(pkB p).toArray⟩, .int .i64 0] else .tuple #[.string ⟨#[]⟩, .int .i64 1]
theorem pkOk_of {p : PkT} (h : mayT p = true) : pkOk p := by
  have b := Pk.mayK_bounds h
  exact ⟨⟨by omega, by omega, by omega⟩, ⟨by omega, by omega, by omega⟩, ⟨by omega, by omega⟩, by omega, ⟨by omega, by omega⟩, by omega, by omega⟩
theorem decPk_enc {x : PkT} (hm : mayT x = true) {v : ByteArray} (hv : v.data.toList = pkB x) : decPk v = (x, 0) := pk_codec.dec_enc hm (pkOk_of hm) hv
theorem decPk_more {x : PkT} (hm : mayT x = true) {v : ByteArray} {b : UInt8} {B : List UInt8} (hv : v.data.toList = pkB x ++ (b :: B)) : decPk v = (PkT.zero, 3) := pk_codec.dec_more (pkOk_of hm) hv
theorem decPk_back {v : ByteArray} (h : (decPk v).2 = 0) : mayT (decPk v).1 = true ∧ pkB (decPk v).1 = v.data.toList := by
  obtain ⟨h1, _, h2⟩ := pk_codec.dec_back h
  exact ⟨h1, h2⟩
theorem pkB_len {x : PkT} (hm : mayT x = true) : (pkB x).length ≤ 288 := by
  rw [pkB_eq]
  have b := Pk.mayK_bounds hm
  exact pkBy_len _ _ _ _ _ _ _ _ (by omega) (by omega) (by omega)
set_option maxRecDepth 100000 in
set_option maxHeartbeats 6400000 in
theorem encodePk_any (sp : ByteArray) (sc : Int) (dp : ByteArray) (dc sq : Int) (da : ByteArray) (th ta : Int) (w : World) (h1 : sp.size ≤ maxLen) (h2 : dp.size ≤ maxLen) :
    Calls Tryd.prog 33 #[.agg #[.string sp, .int .i64 sc, .string dp, .int .i64 dc, .int .i64 sq, .string da, .int .i64 th, .int .i64 ta]] w fun e w' => e = .returned (encPk ((sp, sc), (dp, dc), sq, da, th, ta)) ∧ Below w.heap.size w w' := by
  have CM := fun W => mayPk_any sp sc dp dc sq da th ta W h1 h2
  cases hM : mayK sp sc dp dc sq da th ta
  · have hR : encPk ((sp, sc), (dp, dc), sq, da, th, ta) = .tuple #[.string ⟨#[]⟩, .int .i64 1] := by unfold encPk mayT; rw [hM]; rfl
    rw [hR]
    simp only [hM] at CM
    clear hR hM
    go_enter Tryd.func33, Tryd.ntmps33
    go_wp2_with (go_at_call 37; refine (CM _).mono ?_; rintro e w1 ⟨rfl, hb1⟩; obtain ⟨hx1, _⟩ := bcell hb1; have hba : Below w.heap.size w w1 := by (repeat (first | assumption | exact Below.refl _ _ | refine bch ?_ (by assumption) | refine Below.alloc ?_ (by simp) _)))
    go_returns
    exact ⟨rfl, hba⟩
  simp only [hM] at CM
  obtain ⟨y1, y2, y3, y4, y5, y6, y7, y8, y9, y10, y11, y12, y13⟩ := Pk.mayK_bounds hM
  obtain ⟨scN, rfl⟩ : ∃ x : Nat, sc = x := ⟨sc.toNat, by omega⟩
  obtain ⟨dcN, rfl⟩ : ∃ x : Nat, dc = x := ⟨dc.toNat, by omega⟩
  obtain ⟨sqN, rfl⟩ : ∃ x : Nat, sq = x := ⟨sq.toNat, by omega⟩
  obtain ⟨thN, rfl⟩ : ∃ x : Nat, th = x := ⟨th.toNat, by omega⟩
  obtain ⟨taN, rfl⟩ : ∃ x : Nat, ta = x := ⟨ta.toNat, by omega⟩
  have hR : encPk ((sp, (scN : Int)), (dp, (dcN : Int)), (sqN : Int), da, (thN : Int), (taN : Int)) = .tuple #[.string ⟨(pkBy sp scN dp dcN sqN da thN taN).toArray⟩, .int .i64 0] := by
    unfold encPk mayT; rw [pkB_eq]; simp only [hM]; rfl
  rw [hR]
  clear hR hM
  have hg0 := heap_push w #[.string sp, .int .i64 (scN : Int), .string dp, .int .i64 (dcN : Int), .int .i64 (sqN : Int), .string da, .int .i64 (thN : Int), .int .i64 (taN : Int)] 45
  have hbA : Below w.heap.size w (w.alloc (.cells #[.string sp, .int .i64 (scN : Int), .string dp, .int .i64 (dcN : Int), .int .i64 (sqN : Int), .string da, .int .i64 (thN : Int), .int .i64 (taN : Int)] 45)) := Below.alloc (Below.refl _ _) (Nat.le_refl _) _
  have hsz : (w.alloc (.cells #[.string sp, .int .i64 (scN : Int), .string dp, .int .i64 (dcN : Int), .int .i64 (sqN : Int), .string da, .int .i64 (thN : Int), .int .i64 (taN : Int)] 45)).heap.size = w.heap.size + 1 := by simp
  go_enter Tryd.func33, Tryd.ntmps33
  go_upto_region 3 with (go_at_call 37; refine (CM _).mono ?_; rintro e w1 ⟨rfl, hb1⟩; rw [hsz] at hb1; have hg := cells_of hg0 hb1 (by omega); have hwB : w.heap.size ≤ w1.heap.size := (by have := hb1.size; omega); have hgB : w.heap.size < w1.heap.size := (Array.getElem?_eq_some_iff.1 hg).1; have q0 := cell_heap hg 0; have q1 := cell_heap hg 1; have q2 := cell_heap hg 2; have q3 := cell_heap hg 3; have q4 := cell_heap hg 4; have q5 := cell_heap hg 5; have q6 := cell_heap hg 6; have q7 := cell_heap hg 7; have hba : Below w.heap.size w w1 := hbA.trans (hb1.mono (by omega)))
  clear hg0 hbA hb1 hsz
  go_upto_region 4 with (go_at_call 65; refine (wnew_any w1.heap.size _ (Nat.le_refl _)).mono ?_; rintro e w2 ⟨rfl, hW, hb2⟩; have hbel := hba.trans (hb2.mono hba.size); have hBw := hb2.size; have hg := cells_of hg hb2 hgB; have q0 := cell_heap hg 0; have q1 := cell_heap hg 1; have q2 := cell_heap hg 2; have q3 := cell_heap hg 3; have q4 := cell_heap hg 4; have q5 := cell_heap hg 5; have q6 := cell_heap hg 6; have q7 := cell_heap hg 7)
  go_upto_region 5 with (go_at_call 66; refine (pkWrite_any w1.heap.size _ _ _ sp scN dp dcN sqN da thN taN hW hBw (by omega) (by omega) (by omega) (by omega) (by omega) (by omega) (by omega) (by omega) ?_).mono ?_; (first | exact Nat.zero_le _ | omega | (simp only [List.nil_append]; omega) | (simp only [List.nil_append, List.length_append]; omega)); rintro e w4 ⟨rfl, hW, hb4, _⟩; have hg := cells_of hg hb4 hgB; have q0 := cell_heap hg 0; have q1 := cell_heap hg 1; have q2 := cell_heap hg 2; have q3 := cell_heap hg 3; have q4 := cell_heap hg 4; have q5 := cell_heap hg 5; have q6 := cell_heap hg 6; have q7 := cell_heap hg 7; have hBw := Nat.le_trans hBw hb4.size; have hbel := hbel.trans (hb4.mono hwB))
  go_wp2_with (go_at_call 67; refine (wbytes_rd w1.heap.size _ _ _ hW.rd hBw).mono ?_; rintro e w9 ⟨rfl, hW9, hb9⟩; have hbel := hbel.trans (hb9.mono hwB))
  go_returns
  exact ⟨by simp, hbel⟩
theorem pkG_size (v : ByteArray) (a e : Int) : (pkG v a e).sp.size ≤ v.size ∧ (pkG v a e).dp.size ≤ v.size := by
  unfold pkG endG; exact ⟨textG_size _ _ _ _, textG_size _ _ _ _⟩
set_option maxRecDepth 100000 in
set_option maxHeartbeats 6400000 in
theorem decodePk_any (v : ByteArray) (w : World) (hv : v.size ≤ 1000000000) :
    Calls Tryd.prog 35 #[.string v] w fun e w' => e = .returned (.tuple #[.agg (decPk v).1.row, .int .i64 (decPk v).2]) ∧ Below w.heap.size w w' := by
  have hsz := pkG_size v 0 0
  have CR := fun b W h => pkRead_any b W v 0 0 h hv
  obtain ⟨⟨sp, sc, dp, dc, sq, da, th, ta, a5, e5⟩, h1⟩ : ∃ t, pkG v 0 0 = t := ⟨_, rfl⟩
  obtain ⟨E9, h9⟩ : ∃ t, endF v a5 e5 = t := ⟨_, rfl⟩
  have hD : decPk v = if E9 = 0 then (bif mayK sp sc dp dc sq da th ta then (((sp, sc), (dp, dc), sq, da, th, ta), 0) else (PkT.zero, 1)) else (PkT.zero, E9) := by
    unfold decPk decP
    rw [pkP_eq]
    simp only [h1, h9]
    rfl
  have C9 := fun b W h => rend_any b W v a5 e5 h
  simp only [h1] at CR
  simp only [h9] at C9
  rw [h1] at hsz
  simp only at hsz
  obtain ⟨z1, z2⟩ := hsz
  have CM := fun W => mayPk_any sp sc dp dc sq da th ta W (by unfold maxLen; omega) (by unfold maxLen; omega)
  have HD := Lib.hid hD
  clear hD h1 h9 z1 z2
  go_enter Tryd.func35, Tryd.ntmps35
  go_upto_region 2 with (go_at_call 69; refine (rof_any v _).mono ?_; rintro e wb ⟨rfl, hR, hbb⟩)
  have hz0 := heap_push w #[.string ⟨#[]⟩, .int .i64 0, .string ⟨#[]⟩, .int .i64 0, .int .i64 0, .string ⟨#[]⟩, .int .i64 0, .int .i64 0] 45
  have hbs : (w.alloc (.cells #[.string ⟨#[]⟩, .int .i64 0, .string ⟨#[]⟩, .int .i64 0, .int .i64 0, .string ⟨#[]⟩, .int .i64 0, .int .i64 0] 45)).heap.size = w.heap.size + 1 := by simp
  rw [hbs] at hR hbb
  have hZ := cells_of hz0 hbb (by omega)
  have hbel : Below w.heap.size w wb := (Below.alloc (Below.refl _ _) (Nat.le_refl _) _).trans (hbb.mono (by omega))
  clear hz0 hbb
  have hzb : w.heap.size ≠ w.heap.size + 1 := by omega
  go_upto_region 3 with (go_at_call 70; refine (CR _ _ hR).mono ?_; rintro e w1 ⟨rfl, hR, hk⟩; have hZ := hk.row5 hZ hzb; have hbel := hbel.trans (hk.below (Nat.le_succ _) hbel.size))
  refine wp_nameE _ (fun W8 hW8 => ?_)
  have hba : Below w1.heap.size w1 W8 := by rw [hW8]; exact Below.alloc (Below.refl _ _) (Nat.le_refl _) _
  have hG : W8.heap[w1.heap.size]? = some (.cells #[.string sp, .int .i64 sc, .string dp, .int .i64 dc, .int .i64 sq, .string da, .int .i64 th, .int .i64 ta] 45 (0, 0)) := by
    rw [hW8]; show (w1.heap.push _)[w1.heap.size]? = _; rw [Array.getElem?_push_size]
  have hZ := cells_of hZ hba (Array.getElem?_eq_some_iff.1 hZ).1
  have hR := hR.below hba hR.lt
  have hbel := hbel.trans (hba.mono hbel.size)
  clear hW8 hba hbs CR
  have q0 := cell_heap hG 0; have q1 := cell_heap hG 1; have q2 := cell_heap hG 2; have q3 := cell_heap hG 3; have q4 := cell_heap hG 4; have q5 := cell_heap hG 5; have q6 := cell_heap hG 6; have q7 := cell_heap hG 7
  have hgl : w1.heap.size < W8.heap.size := (Array.getElem?_eq_some_iff.1 hG).1
  have hzl : w.heap.size < W8.heap.size := (Array.getElem?_eq_some_iff.1 hZ).1
  by_cases hE : E9 = 0
  · subst hE
    cases hM : mayK sp sc dp dc sq da th ta
    · simp only [hM] at CM
      go_upto_region 7 with (first | (go_at_call 71; refine (C9 _ _ hR).mono ?_; rintro e w9 ⟨rfl, hb9⟩; have hG := cells_of hG hb9 hgl; have hZ := cells_of hZ hb9 hzl; have hbel := hbel.trans (hb9.mono hbel.size); have q0 := cell_heap hG 0; have q1 := cell_heap hG 1; have q2 := cell_heap hG 2; have q3 := cell_heap hG 3; have q4 := cell_heap hG 4; have q5 := cell_heap hG 5; have q6 := cell_heap hG 6; have q7 := cell_heap hG 7) | (go_at_call 37; refine (CM _).mono ?_; rintro e w10 ⟨rfl, hb10⟩; have hG := cells_of hG hb10 (Nat.lt_of_lt_of_le hgl hb9.size); have hZ := cells_of hZ hb10 (Nat.lt_of_lt_of_le hzl hb9.size); have hbel := hbel.trans (hb10.mono hbel.size); have q0 := cell_heap hG 0; have q1 := cell_heap hG 1; have q2 := cell_heap hG 2; have q3 := cell_heap hG 3; have q4 := cell_heap hG 4; have q5 := cell_heap hG 5; have q6 := cell_heap hG 6; have q7 := cell_heap hG 7))
      go_wp2_with (refine wpList_storeRowTo rfl (.tmp 2) (.tmp 20) 45 rfl (by kernel_rfl) rfl rfl hZ rfl (Pk.row_one8 _ _ _ _ _ _ _ _ ) ?_)
      have hZ : (World.setRow _ w.heap.size #[.string ⟨#[]⟩, .int .i64 0, .string ⟨#[]⟩, .int .i64 0, .int .i64 0, .string ⟨#[]⟩, .int .i64 0, .int .i64 0]).heap[w.heap.size]? = some (.cells #[.string ⟨#[]⟩, .int .i64 0, .string ⟨#[]⟩, .int .i64 0, .int .i64 0, .string ⟨#[]⟩, .int .i64 0, .int .i64 0] 45 (0, 0)) := setRow_heap _ _ _ _ _ _ hZ
      have hrd := run_loadVar_mid (P := Tryd.prog) _ w.heap.size 0 45 (#[.string ⟨#[]⟩, .int .i64 0, .string ⟨#[]⟩, .int .i64 0, .int .i64 0, .string ⟨#[]⟩, .int .i64 0, .int .i64 0] : Array Value).toList _ (rangeAt_row5 hZ) Tryd.underlying45 rfl (by kernel_rfl)
      refine bodyPost_ret (v := .tuple #[.agg #[.string ⟨#[]⟩, .int .i64 0, .string ⟨#[]⟩, .int .i64 0, .int .i64 0, .string ⟨#[]⟩, .int .i64 0, .int .i64 0], .int .i64 1]) ?_ rfl ?_
      · simp [results, Tryd.results35, asAddr, hrd]
        try rfl
      exact ⟨by rw [HD.out]; rw [if_pos trivial, hM]; rfl, below_setRow hbel (Nat.le_refl _) _⟩
    · simp only [hM] at CM
      go_upto_region 8 with (first | (go_at_call 71; refine (C9 _ _ hR).mono ?_; rintro e w9 ⟨rfl, hb9⟩; have hG := cells_of hG hb9 hgl; have hZ := cells_of hZ hb9 hzl; have hbel := hbel.trans (hb9.mono hbel.size); have q0 := cell_heap hG 0; have q1 := cell_heap hG 1; have q2 := cell_heap hG 2; have q3 := cell_heap hG 3; have q4 := cell_heap hG 4; have q5 := cell_heap hG 5; have q6 := cell_heap hG 6; have q7 := cell_heap hG 7) | (go_at_call 37; refine (CM _).mono ?_; rintro e w10 ⟨rfl, hb10⟩; have hG := cells_of hG hb10 (Nat.lt_of_lt_of_le hgl hb9.size); have hZ := cells_of hZ hb10 (Nat.lt_of_lt_of_le hzl hb9.size); have hbel := hbel.trans (hb10.mono hbel.size); have q0 := cell_heap hG 0; have q1 := cell_heap hG 1; have q2 := cell_heap hG 2; have q3 := cell_heap hG 3; have q4 := cell_heap hG 4; have q5 := cell_heap hG 5; have q6 := cell_heap hG 6; have q7 := cell_heap hG 7))
      go_wp2_with (refine wpList_storeRowTo rfl (.tmp 2) (.tmp 21) 45 rfl (by kernel_rfl) rfl rfl hZ rfl (Pk.row_one8 _ _ _ _ _ _ _ _ ) ?_)
      have hZ : (World.setRow _ w.heap.size #[.string sp, .int .i64 sc, .string dp, .int .i64 dc, .int .i64 sq, .string da, .int .i64 th, .int .i64 ta]).heap[w.heap.size]? = some (.cells #[.string sp, .int .i64 sc, .string dp, .int .i64 dc, .int .i64 sq, .string da, .int .i64 th, .int .i64 ta] 45 (0, 0)) := setRow_heap _ _ _ _ _ _ hZ
      have hrd := run_loadVar_mid (P := Tryd.prog) _ w.heap.size 0 45 (#[.string sp, .int .i64 sc, .string dp, .int .i64 dc, .int .i64 sq, .string da, .int .i64 th, .int .i64 ta] : Array Value).toList _ (rangeAt_row5 hZ) Tryd.underlying45 rfl (by kernel_rfl)
      refine bodyPost_ret (v := .tuple #[.agg #[.string sp, .int .i64 sc, .string dp, .int .i64 dc, .int .i64 sq, .string da, .int .i64 th, .int .i64 ta], .int .i64 0]) ?_ rfl ?_
      · simp [results, Tryd.results35, asAddr, hrd]
        try rfl
      exact ⟨by rw [HD.out]; rw [if_pos trivial, hM]; rfl, below_setRow hbel (Nat.le_refl _) _⟩
  · have hE0 : (E9 == 0) = false := beq_eq_false_iff_ne.2 hE
    go_upto_region 5 with (first | (go_at_call 71; refine (C9 _ _ hR).mono ?_; rintro e w9 ⟨rfl, hb9⟩; have hG := cells_of hG hb9 hgl; have hZ := cells_of hZ hb9 hzl; have hbel := hbel.trans (hb9.mono hbel.size); have q0 := cell_heap hG 0; have q1 := cell_heap hG 1; have q2 := cell_heap hG 2; have q3 := cell_heap hG 3; have q4 := cell_heap hG 4; have q5 := cell_heap hG 5; have q6 := cell_heap hG 6; have q7 := cell_heap hG 7))
    go_wp2_with (refine wpList_storeRowTo rfl (.tmp 2) (.tmp 15) 45 rfl (by kernel_rfl) rfl rfl hZ rfl (Pk.row_one8 _ _ _ _ _ _ _ _ ) ?_)
    have hZ : (World.setRow _ w.heap.size #[.string ⟨#[]⟩, .int .i64 0, .string ⟨#[]⟩, .int .i64 0, .int .i64 0, .string ⟨#[]⟩, .int .i64 0, .int .i64 0]).heap[w.heap.size]? = some (.cells #[.string ⟨#[]⟩, .int .i64 0, .string ⟨#[]⟩, .int .i64 0, .int .i64 0, .string ⟨#[]⟩, .int .i64 0, .int .i64 0] 45 (0, 0)) := setRow_heap _ _ _ _ _ _ hZ
    have hrd := run_loadVar_mid (P := Tryd.prog) _ w.heap.size 0 45 (#[.string ⟨#[]⟩, .int .i64 0, .string ⟨#[]⟩, .int .i64 0, .int .i64 0, .string ⟨#[]⟩, .int .i64 0, .int .i64 0] : Array Value).toList _ (rangeAt_row5 hZ) Tryd.underlying45 rfl (by kernel_rfl)
    refine bodyPost_ret (v := .tuple #[.agg #[.string ⟨#[]⟩, .int .i64 0, .string ⟨#[]⟩, .int .i64 0, .int .i64 0, .string ⟨#[]⟩, .int .i64 0, .int .i64 0], .int .i64 E9]) ?_ rfl ?_
    · simp [results, Tryd.results35, asAddr, hrd]
      try rfl
    exact ⟨by rw [HD.out]; rw [if_neg hE]; rfl, below_setRow hbel (Nat.le_refl _) _⟩
theorem flat_one (s : ByteArray) : flat [s] = s.data.toList := by simp [flat]
theorem RowAt.lit3 {w : World} {cs : Array Value} {e : TypeId} {g : Nat} {vs : List Value} (hg : g = w.heap.size) (h : cs.toList = vs) : RowAt (w.alloc (.cells cs e)) (some ⟨g, 0, none⟩) vs := by
  subst hg h
  refine .inr ⟨_, _, rfl, by simp, fun j hj => ?_⟩
  rw [Nat.zero_add, World.cell?_alloc_at _ _ _ _ rfl]; simp
theorem eightL_le (v : Int) : (eightL v).length ≤ 8 := by
  unfold eightL
  split
  · rw [be_length]; omega
  · simp
/-- A packet's commitment. -/
def comF (da : ByteArray) (th ta : Int) : List UInt8 := shaF (flat [⟨(eightL th).toArray⟩, ⟨(eightL ta).toArray⟩, ⟨(shaF da.data.toList).toArray⟩])
theorem comF_len (da : ByteArray) (th ta : Int) : (comF da th ta).length = 32 := shaF_len _
theorem com_len (da : ByteArray) (th ta : Int) : (flat [⟨(eightL th).toArray⟩, ⟨(eightL ta).toArray⟩, ⟨(shaF da.data.toList).toArray⟩]).length ≤ 1000000000000 := by
  have a := eightL_le th
  have b := eightL_le ta
  have c := shaF_len da.data.toList
  simp only [flat, List.flatMap_cons, List.flatMap_nil, List.append_nil, List.length_append]
  omega
set_option maxRecDepth 100000 in
set_option maxHeartbeats 6400000 in
theorem commit_any (sp : ByteArray) (sc : Int) (dp : ByteArray) (dc sq : Int) (da : ByteArray) (th ta : Int) (w : World) (hW : SW w) (hM : mayK sp sc dp dc sq da th ta = true) :
    Calls Tryd.prog 30 #[.agg #[.string sp, .int .i64 sc, .string dp, .int .i64 dc, .int .i64 sq, .string da, .int .i64 th, .int .i64 ta]] w fun e w' => e = .returned (.agg (hrow (comF da th ta))) ∧ Below w.heap.size w w' := by
  have hbd := Pk.mayK_bounds hM
  have CM := fun W => mayPk_any sp sc dp dc sq da th ta W (by unfold maxLen; omega) (by unfold maxLen; omega)
  simp only [hM] at CM
  have hda : da.size ≤ 200 := hbd.2.2.1
  clear hbd hM
  have g0 : ((w.alloc (.cells #[.string sp, .int .i64 sc, .string dp, .int .i64 dc, .int .i64 sq, .string da, .int .i64 th, .int .i64 ta] 45)).alloc (.cells #[Value.int .u8 0, Value.int .u8 0, Value.int .u8 0, Value.int .u8 0, Value.int .u8 0, Value.int .u8 0, Value.int .u8 0, Value.int .u8 0, Value.int .u8 0, Value.int .u8 0, Value.int .u8 0, Value.int .u8 0, Value.int .u8 0, Value.int .u8 0, Value.int .u8 0, Value.int .u8 0, Value.int .u8 0, Value.int .u8 0, Value.int .u8 0, Value.int .u8 0, Value.int .u8 0, Value.int .u8 0, Value.int .u8 0, Value.int .u8 0, Value.int .u8 0, Value.int .u8 0, Value.int .u8 0, Value.int .u8 0, Value.int .u8 0, Value.int .u8 0, Value.int .u8 0, Value.int .u8 0] 26)).heap[w.heap.size]? = some (.cells #[.string sp, .int .i64 sc, .string dp, .int .i64 dc, .int .i64 sq, .string da, .int .i64 th, .int .i64 ta] 45 (0, 0)) := by
    show ((w.heap.push _).push _)[w.heap.size]? = _
    rw [Array.getElem?_push_lt (by simp), ← Array.getElem?_eq_getElem (by simp), Array.getElem?_push_size]
  have g1 : ((w.alloc (.cells #[.string sp, .int .i64 sc, .string dp, .int .i64 dc, .int .i64 sq, .string da, .int .i64 th, .int .i64 ta] 45)).alloc (.cells #[Value.int .u8 0, Value.int .u8 0, Value.int .u8 0, Value.int .u8 0, Value.int .u8 0, Value.int .u8 0, Value.int .u8 0, Value.int .u8 0, Value.int .u8 0, Value.int .u8 0, Value.int .u8 0, Value.int .u8 0, Value.int .u8 0, Value.int .u8 0, Value.int .u8 0, Value.int .u8 0, Value.int .u8 0, Value.int .u8 0, Value.int .u8 0, Value.int .u8 0, Value.int .u8 0, Value.int .u8 0, Value.int .u8 0, Value.int .u8 0, Value.int .u8 0, Value.int .u8 0, Value.int .u8 0, Value.int .u8 0, Value.int .u8 0, Value.int .u8 0, Value.int .u8 0, Value.int .u8 0] 26)).heap[w.heap.size + 1]? = some (.cells #[Value.int .u8 0, Value.int .u8 0, Value.int .u8 0, Value.int .u8 0, Value.int .u8 0, Value.int .u8 0, Value.int .u8 0, Value.int .u8 0, Value.int .u8 0, Value.int .u8 0, Value.int .u8 0, Value.int .u8 0, Value.int .u8 0, Value.int .u8 0, Value.int .u8 0, Value.int .u8 0, Value.int .u8 0, Value.int .u8 0, Value.int .u8 0, Value.int .u8 0, Value.int .u8 0, Value.int .u8 0, Value.int .u8 0, Value.int .u8 0, Value.int .u8 0, Value.int .u8 0, Value.int .u8 0, Value.int .u8 0, Value.int .u8 0, Value.int .u8 0, Value.int .u8 0, Value.int .u8 0] 26 (0, 0)) := by
    show ((w.heap.push _).push _)[w.heap.size + 1]? = _
    rw [show w.heap.size + 1 = (w.heap.push (Obj.cells #[.string sp, .int .i64 sc, .string dp, .int .i64 dc, .int .i64 sq, .string da, .int .i64 th, .int .i64 ta] 45 (0, 0))).size by simp, Array.getElem?_push_size]
  have hbA : Below w.heap.size w ((w.alloc (.cells #[.string sp, .int .i64 sc, .string dp, .int .i64 dc, .int .i64 sq, .string da, .int .i64 th, .int .i64 ta] 45)).alloc (.cells #[Value.int .u8 0, Value.int .u8 0, Value.int .u8 0, Value.int .u8 0, Value.int .u8 0, Value.int .u8 0, Value.int .u8 0, Value.int .u8 0, Value.int .u8 0, Value.int .u8 0, Value.int .u8 0, Value.int .u8 0, Value.int .u8 0, Value.int .u8 0, Value.int .u8 0, Value.int .u8 0, Value.int .u8 0, Value.int .u8 0, Value.int .u8 0, Value.int .u8 0, Value.int .u8 0, Value.int .u8 0, Value.int .u8 0, Value.int .u8 0, Value.int .u8 0, Value.int .u8 0, Value.int .u8 0, Value.int .u8 0, Value.int .u8 0, Value.int .u8 0, Value.int .u8 0, Value.int .u8 0] 26)) := Below.alloc (Below.alloc (Below.refl _ _) (Nat.le_refl _) _) (by simp) _
  go_enter Tryd.func30, Tryd.ntmps30
  go_upto_region 1 with fail
  refine wp_nameE _ (fun W1 hX => ?_)
  have hg : W1.heap[w.heap.size]? = some (.cells #[.string sp, .int .i64 sc, .string dp, .int .i64 dc, .int .i64 sq, .string da, .int .i64 th, .int .i64 ta] 45 (0, 0)) := by rw [hX]; exact g0
  have y0 : W1.heap[w.heap.size + 1]? = some (.cells #[Value.int .u8 0, Value.int .u8 0, Value.int .u8 0, Value.int .u8 0, Value.int .u8 0, Value.int .u8 0, Value.int .u8 0, Value.int .u8 0, Value.int .u8 0, Value.int .u8 0, Value.int .u8 0, Value.int .u8 0, Value.int .u8 0, Value.int .u8 0, Value.int .u8 0, Value.int .u8 0, Value.int .u8 0, Value.int .u8 0, Value.int .u8 0, Value.int .u8 0, Value.int .u8 0, Value.int .u8 0, Value.int .u8 0, Value.int .u8 0, Value.int .u8 0, Value.int .u8 0, Value.int .u8 0, Value.int .u8 0, Value.int .u8 0, Value.int .u8 0, Value.int .u8 0, Value.int .u8 0] 26 (0, 0)) := by rw [hX]; exact g1
  have hbel : Below w.heap.size w W1 := by rw [hX]; exact hbA
  have hW := hW.below hbel
  clear hX g0 g1 hbA
  have q0 := cell_heap hg 0; have q1 := cell_heap hg 1; have q2 := cell_heap hg 2; have q3 := cell_heap hg 3; have q4 := cell_heap hg 4; have q5 := cell_heap hg 5; have q6 := cell_heap hg 6; have q7 := cell_heap hg 7
  have hyl : w.heap.size + 1 < W1.heap.size := (Array.getElem?_eq_some_iff.1 y0).1
  go_upto_region 3 with (go_at_call 37; refine (CM _).mono ?_; rintro e w2 ⟨rfl, hb2⟩)
  have hg := cells_of hg hb2 (by omega)
  have y0 := cells_of y0 hb2 hyl
  have hbel := hbel.trans (hb2.mono hbel.size)
  have hW := hW.below hb2
  have hgl : w.heap.size < w2.heap.size := (Array.getElem?_eq_some_iff.1 hg).1
  have hyl : w.heap.size + 1 < w2.heap.size := (Array.getElem?_eq_some_iff.1 y0).1
  clear hb2 CM
  refine wp_region_facts_tail 13 rfl [Fact.eq (.pointer (some ⟨w.heap.size, 6, none⟩)), Fact.eq (.int .i64 th), Fact.eq (.string ⟨(eightL th).toArray⟩), Fact.eq (.pointer (some ⟨w.heap.size, 7, none⟩)), Fact.eq (.int .i64 ta), Fact.eq (.string ⟨(eightL ta).toArray⟩), Fact.eq (.pointer (some ⟨w.heap.size, 5, none⟩)), Fact.eq (.string da), Fact.row (1) ([.string da]), Fact.eq (.agg (hrow (shaF da.data.toList))), Fact.eq (.string ⟨(shaF da.data.toList).toArray⟩), Fact.row (3) ([.string ⟨(eightL th).toArray⟩, .string ⟨(eightL ta).toArray⟩, .string ⟨(shaF da.data.toList).toArray⟩]), Fact.eq (.agg (hrow (comF da th ta)))] (by kernel_rfl) (by kernel_rfl) (by kernel_rfl) (by kernel_rfl) (by kernel_rfl) (fun x => by simp only [List.take_succ_cons, List.take_zero, fillFrom, Act.put, List.setIfInBounds_toArray, List.set_cons_succ, List.set_cons_zero]; rfl) ?_ ?_
  · refine ⟨?_, ?_, ?_, ?_, ?_, ?_, ?_, ?_, ?_, ?_, ?_, ?_, ?_, trivial⟩
    · intro x w' hbw hd
      clear hd
      go_wp2_with fail
      exact frPost_mk rfl (by repeat (first | assumption | exact Below.refl _ _ | refine bch ?_ (by assumption) | refine Below.alloc ?_ (by simp) _)) rfl
    · intro x w' hbw hd
      have d0 : x 0 = .pointer (some ⟨w.heap.size, 6, none⟩) := hd 0 rfl
      clear hd
      have hgc := cells_of hg hbw hgl
      have q0 := cell_heap hgc 0; have q1 := cell_heap hgc 1; have q2 := cell_heap hgc 2; have q3 := cell_heap hgc 3; have q4 := cell_heap hgc 4; have q5 := cell_heap hgc 5; have q6 := cell_heap hgc 6; have q7 := cell_heap hgc 7
      go_wp2_with fail
      exact frPost_mk rfl (by repeat (first | assumption | exact Below.refl _ _ | refine bch ?_ (by assumption) | refine Below.alloc ?_ (by simp) _)) rfl
    · intro x w' hbw hd
      have d1 : x 1 = .int .i64 th := hd 1 rfl
      clear hd
      go_wp2_with (first | (go_at_call 63; refine (eight_any th _).mono ?_; rintro e wx ⟨rfl, hbx⟩))
      exact frPost_mk rfl (by repeat (first | assumption | exact Below.refl _ _ | refine bch ?_ (by assumption) | refine Below.alloc ?_ (by simp) _)) rfl
    · intro x w' hbw hd
      clear hd
      go_wp2_with fail
      exact frPost_mk rfl (by repeat (first | assumption | exact Below.refl _ _ | refine bch ?_ (by assumption) | refine Below.alloc ?_ (by simp) _)) rfl
    · intro x w' hbw hd
      have d3 : x 3 = .pointer (some ⟨w.heap.size, 7, none⟩) := hd 3 rfl
      clear hd
      have hgc := cells_of hg hbw hgl
      have q0 := cell_heap hgc 0; have q1 := cell_heap hgc 1; have q2 := cell_heap hgc 2; have q3 := cell_heap hgc 3; have q4 := cell_heap hgc 4; have q5 := cell_heap hgc 5; have q6 := cell_heap hgc 6; have q7 := cell_heap hgc 7
      go_wp2_with fail
      exact frPost_mk rfl (by repeat (first | assumption | exact Below.refl _ _ | refine bch ?_ (by assumption) | refine Below.alloc ?_ (by simp) _)) rfl
    · intro x w' hbw hd
      have d4 : x 4 = .int .i64 ta := hd 4 rfl
      clear hd
      go_wp2_with (first | (go_at_call 63; refine (eight_any ta _).mono ?_; rintro e wx ⟨rfl, hbx⟩))
      exact frPost_mk rfl (by repeat (first | assumption | exact Below.refl _ _ | refine bch ?_ (by assumption) | refine Below.alloc ?_ (by simp) _)) rfl
    · intro x w' hbw hd
      clear hd
      go_wp2_with fail
      exact frPost_mk rfl (by repeat (first | assumption | exact Below.refl _ _ | refine bch ?_ (by assumption) | refine Below.alloc ?_ (by simp) _)) rfl
    · intro x w' hbw hd
      have d6 : x 6 = .pointer (some ⟨w.heap.size, 5, none⟩) := hd 6 rfl
      clear hd
      have hgc := cells_of hg hbw hgl
      have q0 := cell_heap hgc 0; have q1 := cell_heap hgc 1; have q2 := cell_heap hgc 2; have q3 := cell_heap hgc 3; have q4 := cell_heap hgc 4; have q5 := cell_heap hgc 5; have q6 := cell_heap hgc 6; have q7 := cell_heap hgc 7
      go_wp2_with fail
      exact frPost_mk rfl (by repeat (first | assumption | exact Below.refl _ _ | refine bch ?_ (by assumption) | refine Below.alloc ?_ (by simp) _)) rfl
    · intro x w' hbw hd
      have d7 : x 7 = .string da := hd 7 rfl
      clear hd
      go_wp2_with fail
      exact frPost_mk rfl (by repeat (first | assumption | exact Below.refl _ _ | refine bch ?_ (by assumption) | refine Below.alloc ?_ (by simp) _)) ⟨_, _, rfl, RowAt.lit3 rfl rfl⟩
    · intro x w' hbw hd
      obtain ⟨a8, cap8, d8, r8⟩ := (show (Fact.row (1) ([.string da])).holds (x 8) w' from hd 8 rfl)
      clear hd
      have CC := sum_any a8 1 cap8 [da] w' (show RowAt w' a8 (([da] : List ByteArray).flatMap sval) from r8) rfl (hW.below hbw) (by rw [flat_one]; rw [str_len]; omega) (by unfold maxLen; omega)
      rw [flat_one] at CC
      go_wp2_with (first | (go_at_call 17; refine CC.mono ?_; rintro e wx ⟨rfl, hbx⟩))
      exact frPost_mk rfl (by repeat (first | assumption | exact Below.refl _ _ | refine bch ?_ (by assumption) | refine Below.alloc ?_ (by simp) _)) rfl
    · intro x w' hbw hd
      have d9 : x 9 = .agg (hrow (shaF da.data.toList)) := hd 9 rfl
      clear hd
      have CC := shaText_any (shaF da.data.toList) w' (shaF_len _)
      go_wp2_with (first | (go_at_call 20; refine CC.mono ?_; rintro e wx ⟨rfl, hbx⟩))
      exact frPost_mk rfl (by repeat (first | assumption | exact Below.refl _ _ | refine bch ?_ (by assumption) | refine Below.alloc ?_ (by simp) _)) rfl
    · intro x w' hbw hd
      have d2 : x 2 = .string ⟨(eightL th).toArray⟩ := hd 2 rfl
      have d5 : x 5 = .string ⟨(eightL ta).toArray⟩ := hd 5 rfl
      have d10 : x 10 = .string ⟨(shaF da.data.toList).toArray⟩ := hd 10 rfl
      clear hd
      go_wp2_with fail
      exact frPost_mk rfl (by repeat (first | assumption | exact Below.refl _ _ | refine bch ?_ (by assumption) | refine Below.alloc ?_ (by simp) _)) ⟨_, _, rfl, RowAt.lit3 rfl rfl⟩
    · intro x w' hbw hd
      obtain ⟨a11, cap11, d11, r11⟩ := (show (Fact.row (3) ([.string ⟨(eightL th).toArray⟩, .string ⟨(eightL ta).toArray⟩, .string ⟨(shaF da.data.toList).toArray⟩])).holds (x 11) w' from hd 11 rfl)
      clear hd
      have CC := sum_any a11 3 cap11 [⟨(eightL th).toArray⟩, ⟨(eightL ta).toArray⟩, ⟨(shaF da.data.toList).toArray⟩] w' (show RowAt w' a11 (([⟨(eightL th).toArray⟩, ⟨(eightL ta).toArray⟩, ⟨(shaF da.data.toList).toArray⟩] : List ByteArray).flatMap sval) from r11) rfl (hW.below hbw) (com_len da th ta) (by unfold maxLen; omega)
      go_wp2_with (first | (go_at_call 17; refine CC.mono ?_; rintro e wx ⟨rfl, hbx⟩))
      exact frPost_mk rfl (by repeat (first | assumption | exact Below.refl _ _ | refine bch ?_ (by assumption) | refine Below.alloc ?_ (by simp) _)) rfl
  · intro x w' hbw hall
    have hf : x 12 = .agg (hrow (comF da th ta)) := hall 12 (by decide)
    clear hall
    simp only [hf, List.drop_succ_cons, List.drop_zero]
    have hl := comF_len da th ta
    have hsz : (hrow (comF da th ta)).size = 32 := by rw [hrow_size]; exact hl
    have hone := hrow_one (comF da th ta)
    have y0 := cells_of y0 hbw hyl
    have hbel := hbel.trans (hbw.mono hbel.size)
    go_wp2_with (refine wpList_storeRowTo rfl (.tmp 2) (.tmp 19) 26 rfl (by rw [hsz]; kernel_rfl) rfl rfl y0 (by rw [hsz]; rfl) hone ?_)
    refine bodyPost_ret (v := .agg (hrow (comF da th ta))) ?_ rfl ?_
    · simp [results, Tryd.results30, Act.put, asAddr]
      exact run_loadVar_row _ _ 26 26 _ (0, 0) _ (setRow_heap _ _ _ _ _ _ y0) Tryd.underlying26 rfl (by rw [hsz]; kernel_rfl)
    exact ⟨rfl, below_setRow hbel (by omega) _⟩
end Go.Proofs.YtfblbholkhdldaaDoor
