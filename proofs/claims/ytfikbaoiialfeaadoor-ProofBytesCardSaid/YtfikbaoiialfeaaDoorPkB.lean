/- Packets in bytes and out of bytes, and their commitments. -/
import Derived.Test.YtfikbaoiialfeaaDoorCodec
import Derived.Test.YtfikbaoiialfeaaDoorGV
import Derived.Test.YtfikbaoiialfeaaDoorGS
import Derived.Test.YtfikbaoiialfeaaDoorGG
import Derived.Test.YtfikbaoiialfeaaDoorLebEight2
import Derived.WalkKit
import Derived.ProofKit
import Derived.Handy
import Derived.Below
import Derived.Lib.Hide
import Derived.IntWalk
import Derived.Outline
import Derived.WalkLawsBesides
import Derived.WalkSpells
namespace Go.Proofs.YtfikbaoiialfeaaDoor
open Go.RowKit
attribute [local go_sem] strV
set_option linter.unusedVariables false
theorem Pk.mayK_bounds {sp : ByteArray} {sc : Int} {dp : ByteArray} {dc sq : Int} {da : ByteArray} {th ta : Int} (h : mayK sp sc dp dc sq da th ta = true) :
    sp.size ≤ 12 ∧ dp.size ≤ 12 ∧ da.size ≤ 200 ∧ 0 ≤ sc ∧ sc ≤ 999 ∧ 0 ≤ dc ∧ dc ≤ 999 ∧ 1 ≤ sq ∧ sq ≤ 1099511627776 ∧ 0 ≤ th ∧ th ≤ 1099511627776 ∧ 0 ≤ ta ∧ ta ≤ 1099511627776 := by
  unfold mayK at h
  simp only [Bool.and_eq_true, decide_eq_true_eq] at h
  obtain ⟨⟨⟨⟨⟨⟨⟨⟨h1, h2⟩, h3⟩, h4⟩, h5⟩, h6⟩, h7⟩, h8⟩, h9⟩ := h
  have a := mayE_bounds h1
  have b := mayE_bounds h2
  omega
def nP (lo hi : Int) (s : ByteArray) (a e : Int) : Int × Int × Int := numG s a e lo hi
def tP (most : Int) (s : ByteArray) (a e : Int) : ByteArray × Int × Int := textG s a e most
theorem nP_codec {lo hi : Int} (h0 : 0 ≤ lo) (h1 : hi ≤ 72057594037927935) : Codec (nP lo hi) putL (fun n => lo ≤ n ∧ n ≤ hi) := num_codec lo hi h0 h1
theorem tP_codec {most : Int} (h1 : most ≤ 1000000) : Codec (tP most) textB (fun t => (t.size : Int) ≤ most) := text_codec most h1
def mapP {α β : Type} (f : α → β) (P : ByteArray → Int → Int → α × Int × Int) (s : ByteArray) (a e : Int) : β × Int × Int := (f (P s a e).1, (P s a e).2.1, (P s a e).2.2)
def endP : ByteArray → Int → Int → (ByteArray × Int) × Int × Int := seqP (tP 12) (fun _ => nP 0 999)
def endOk (p : ByteArray × Int) : Prop := (p.1.size : Int) ≤ 12 ∧ 0 ≤ p.2 ∧ p.2 ≤ 999
theorem end_codec : Codec endP (fun p => textB p.1 ++ putL p.2) endOk :=
  (tP_codec (by decide)).seq (fun _ _ => nP_codec (by decide) (by decide)) (fun _ _ _ _ he => (nP_codec (by decide) (by decide)).stay he)
abbrev PkT := (ByteArray × Int) × (ByteArray × Int) × Int × ByteArray × Int × Int
def pkP : ByteArray → Int → Int → PkT × Int × Int :=
  seqP endP fun _ => seqP endP fun _ => seqP (nP 1 1099511627776) fun _ => seqP (tP 200) fun _ => seqP (nP 0 1099511627776) fun _ => nP 0 1099511627776
def pkB (p : PkT) : List UInt8 := (textB p.1.1 ++ putL p.1.2) ++ ((textB p.2.1.1 ++ putL p.2.1.2) ++ (putL p.2.2.1 ++ (textB p.2.2.2.1 ++ (putL p.2.2.2.2.1 ++ putL p.2.2.2.2.2))))
def pkOk (p : PkT) : Prop := endOk p.1 ∧ endOk p.2.1 ∧ (1 ≤ p.2.2.1 ∧ p.2.2.1 ≤ 1099511627776) ∧ (p.2.2.2.1.size : Int) ≤ 200 ∧ (0 ≤ p.2.2.2.2.1 ∧ p.2.2.2.2.1 ≤ 1099511627776) ∧ 0 ≤ p.2.2.2.2.2 ∧ p.2.2.2.2.2 ≤ 1099511627776
theorem pk_codec : Codec pkP pkB pkOk := by
  have c6 := nP_codec (lo := 0) (hi := 1099511627776) (by decide) (by decide)
  have c5 := c6.seq (fun _ _ => c6) (fun _ _ _ _ he => c6.stay he)
  have c4 := (tP_codec (most := 200) (by decide)).seq (fun _ _ => c5) (fun _ _ _ _ he => c5.stay he)
  have c3 := (nP_codec (lo := 1) (hi := 1099511627776) (by decide) (by decide)).seq (fun _ _ => c4) (fun _ _ _ _ he => c4.stay he)
  have c2 := end_codec.seq (fun _ _ => c3) (fun _ _ _ _ he => c3.stay he)
  exact end_codec.seq (fun _ _ => c2) (fun _ _ _ _ he => c2.stay he)
theorem pkB_eq (p : PkT) : pkB p = pkBy p.1.1 p.1.2 p.2.1.1 p.2.1.2 p.2.2.1 p.2.2.2.1 p.2.2.2.2.1 p.2.2.2.2.2 := by
  unfold pkB pkBy endBy textB
  simp only [List.append_assoc]
theorem pkP_eq (s : ByteArray) (a e : Int) : pkP s a e = ((((pkG s a e).sp, (pkG s a e).sc), ((pkG s a e).dp, (pkG s a e).dc), (pkG s a e).sq, (pkG s a e).da, (pkG s a e).th, (pkG s a e).ta), (pkG s a e).a, (pkG s a e).e) := rfl
theorem endP_eq (s : ByteArray) (a e : Int) : endP s a e = (((endG s a e).1, (endG s a e).2.1), (endG s a e).2.2.1, (endG s a e).2.2.2) := rfl
def mayT (p : PkT) : Bool := mayK p.1.1 p.1.2 p.2.1.1 p.2.1.2 p.2.2.1 p.2.2.2.1 p.2.2.2.2.1 p.2.2.2.2.2
def PkT.zero : PkT := ((⟨#[]⟩, 0), (⟨#[]⟩, 0), 0, ⟨#[]⟩, 0, 0)
def PkT.row (p : PkT) : Array Value := #[.string p.1.1, .int .i64 p.1.2, .string p.2.1.1, .int .i64 p.2.1.2, .int .i64 p.2.2.1, .string p.2.2.2.1, .int .i64 p.2.2.2.2.1, .int .i64 p.2.2.2.2.2]
def decPk (v : ByteArray) : PkT × Int := decP pkP mayT PkT.zero v
def encPk (p : PkT) : Value := bif mayT p then .tuple #[.string ⟨(pkB p).toArray⟩, .int .i64 0] else .tuple #[.string ⟨#[]⟩, .int .i64 1]
theorem pkOk_of {p : PkT} (h : mayT p = true) : pkOk p := by
  have b := Pk.mayK_bounds h
  exact ⟨⟨by omega, by omega, by omega⟩, ⟨by omega, by omega, by omega⟩, ⟨by omega, by omega⟩, by omega, ⟨by omega, by omega⟩, by omega, by omega⟩
theorem decPk_enc {x : PkT} (hm : mayT x = true) {v : ByteArray} (hv : v.data.toList = pkB x) : decPk v = (x, 0) := pk_codec.dec_enc hm (pkOk_of hm) hv
theorem decPk_more {x : PkT} (hm : mayT x = true) {v : ByteArray} {b : UInt8} {B : List UInt8} (hv : v.data.toList = pkB x ++ (b :: B)) : decPk v = (PkT.zero, 3) := pk_codec.dec_more (pkOk_of hm) hv
theorem decPk_back {v : ByteArray} (h : (decPk v).2 = 0) : mayT (decPk v).1 = true ∧ pkB (decPk v).1 = v.data.toList := by
  obtain ⟨h1, _, h2⟩ := pk_codec.dec_back h
  exact ⟨h1, h2⟩
theorem pkB_len {x : PkT} (hm : mayT x = true) : (pkB x).length ≤ 288 := by
  rw [pkB_eq]
  have b := Pk.mayK_bounds hm
  exact pkBy_len _ _ _ _ _ _ _ _ (by omega) (by omega) (by omega)
theorem pkG_size (v : ByteArray) (a e : Int) : (pkG v a e).sp.size ≤ v.size ∧ (pkG v a e).dp.size ≤ v.size := by
  unfold pkG endG; exact ⟨textG_size _ _ _ _, textG_size _ _ _ _⟩
theorem flat_one (s : ByteArray) : flat [s] = s.data.toList := by simp [flat]
theorem RowAt.lit3 {w : World} {cs : Array Value} {e : TypeId} {g : Nat} {vs : List Value} (hg : g = w.heap.size) (h : cs.toList = vs) : RowAt (w.alloc (.cells cs e)) (some ⟨g, 0, none⟩) vs := by
  subst hg h
  refine .inr ⟨_, _, rfl, by simp, fun j hj => ?_⟩
  rw [Nat.zero_add, World.cell?_alloc_at _ _ _ _ rfl]; simp
theorem eightL_le (v : Int) : (eightL v).length ≤ 8 := by
  unfold eightL
  split
  · rw [be_length]; omega
  · simp
/-- A packet's commitment. -/
def comF (da : ByteArray) (th ta : Int) : List UInt8 := shaF (flat [⟨(eightL th).toArray⟩, ⟨(eightL ta).toArray⟩, ⟨(shaF da.data.toList).toArray⟩])
theorem comF_len (da : ByteArray) (th ta : Int) : (comF da th ta).length = 32 := shaF_len _
theorem com_len (da : ByteArray) (th ta : Int) : (flat [⟨(eightL th).toArray⟩, ⟨(eightL ta).toArray⟩, ⟨(shaF da.data.toList).toArray⟩]).length ≤ 1000000000000 := by
  have a := eightL_le th
  have b := eightL_le ta
  have c := shaF_len da.data.toList
  simp only [flat, List.flatMap_cons, List.flatMap_nil, List.append_nil, List.length_append]
  omega
end Go.Proofs.YtfikbaoiialfeaaDoor
