/- Blocks: what may be, their bytes, a codec. -/
import Derived.Test.YtcbacchelabljaaItems
import Derived.Test.YtcbacchelabljaaCount
import Derived.Test.YtcbacchelabljaaEvBk
namespace Go.Proofs.Ytcbacchelabljaa
open Go.RowKit
set_option linter.unusedVariables false
theorem nameP_size {s : ByteArray} (h : nameP s.data.toList = true) : s.size ≤ 12 := by
  unfold nameP at h
  simp only [Bool.and_eq_true, decide_eq_true_eq] at h
  rw [str_len] at h
  omega
structure Blk where
  ch : ByteArray
  ht : Int
  tm : Int
  evs : List Ev
def Blk.zero : Blk := ⟨⟨#[]⟩, 0, 0, []⟩
/-- May it be? (of a list that has at most 2^30 events) -/
def hdBlk (ch : ByteArray) (ht tm : Int) : Bool := nameP ch.data.toList && decide (1 ≤ ht) && decide (ht ≤ 1099511627776) && decide (0 ≤ tm) && decide (tm ≤ 1099511627776)
def mayBlk (b : Blk) : Bool := hdBlk b.ch b.ht b.tm && decide (b.evs.length ≤ 1073741824) && b.evs.all mayEv
def itemE (e : Ev) : List UInt8 := textB ⟨(encE e).toArray⟩
def encBlk (b : Blk) : List UInt8 := textB b.ch ++ (putL b.ht ++ (putL b.tm ++ (putL (b.evs.length : Int) ++ b.evs.flatMap itemE)))
def evItem : ByteArray → Int → Int → Ev × Int × Int := itemP decEv Ev.zero 1000
theorem evItem_codec : Codec evItem itemE (fun e => mayEv e = true) :=
  item_codec (by decide) (fun x v h hv => decEv_enc h hv) (fun v h => decEv_back h) (fun x h => by have := encE_len h; omega)
def evsP (n : Int) : ByteArray → Int → Int → List Ev × Int × Int := listP evItem n.toNat
abbrev BlT := ByteArray × Int × Int × Int × List Ev
def blP : ByteArray → Int → Int → BlT × Int × Int :=
  seqP (tP 12) fun _ => seqP (nP 1 1099511627776) fun _ => seqP (nP 0 1099511627776) fun _ => seqP (fun s a e => countG s a e 1073741824) evsP
def mkBlk (p : BlT) : Blk := ⟨p.1, p.2.1, p.2.2.1, p.2.2.2.2⟩
def blkP : ByteArray → Int → Int → Blk × Int × Int := mapP mkBlk blP
def okBlk (b : Blk) : Prop := (b.ch.size : Int) ≤ 12 ∧ (1 ≤ b.ht ∧ b.ht ≤ 1099511627776) ∧ (0 ≤ b.tm ∧ b.tm ≤ 1099511627776) ∧ (b.evs.length : Int) ≤ 1073741824 ∧ ∀ e ∈ b.evs, mayEv e = true
theorem blk_codec : Codec blkP encBlk okBlk := by
  have cE : ∀ n : Int, Codec (evsP n) (fun l => l.flatMap itemE) (fun l => l.length = n.toNat ∧ ∀ x ∈ l, mayEv x = true) := fun n => list_codec evItem_codec n.toNat
  have sE : ∀ (n : Int) s a e, e ≠ 0 → (evsP n s a e).2.2 = e := fun n s a e he => (cE n).stay he
  have c4 := (count_codec 1073741824 (by decide)).seq (fun n _ => cE n) sE
  have c3 := (nP_codec (lo := 0) (hi := 1099511627776) (by decide) (by decide)).seq (fun _ _ => c4) (fun _ _ _ _ he => c4.stay he)
  have c2 := (nP_codec (lo := 1) (hi := 1099511627776) (by decide) (by decide)).seq (fun _ _ => c3) (fun _ _ _ _ he => c3.stay he)
  have c1 := (tP_codec (most := 12) (by decide)).seq (fun _ _ => c2) (fun _ _ _ _ he => c2.stay he)
  have c := c1.map mkBlk (fun b => (b.ch, b.ht, b.tm, (b.evs.length : Int), b.evs)) (fun x hx => by
    obtain ⟨x1, x2, x3, x4, x5⟩ := x
    obtain ⟨_, _, _, ⟨h4, _⟩, h5, _⟩ := hx
    simp only at h4 h5
    show (x1, x2, x3, (x5.length : Int), x5) = _
    rw [h5]
    congr 3
    congr 1
    omega)
  refine c.as (fun b h => ?_) (fun b h => ?_)
  · obtain ⟨h1, h2, h3, h4, h5⟩ := h
    exact ⟨⟨⟨h1, h2, h3, ⟨by simp only; omega, h4⟩, by simp, h5⟩, rfl⟩, rfl⟩
  · obtain ⟨⟨h1, h2, h3, ⟨_, h4⟩, _, h5⟩, _⟩ := h
    exact ⟨h1, h2, h3, h4, h5⟩
def decBlk (v : ByteArray) : Blk × Int := decP blkP mayBlk Blk.zero v
theorem okBlk_of {b : Blk} (h : mayBlk b = true) : okBlk b := by
  unfold mayBlk hdBlk at h
  simp only [Bool.and_eq_true, decide_eq_true_eq, List.all_eq_true] at h
  obtain ⟨⟨⟨⟨⟨⟨h0, h1⟩, h2⟩, h3⟩, h4⟩, h5⟩, h6⟩ := h
  exact ⟨by have := nameP_size h0; omega, ⟨h1, h2⟩, ⟨h3, h4⟩, by omega, h6⟩
theorem decBlk_enc {b : Blk} (h : mayBlk b = true) {v : ByteArray} (hv : v.data.toList = encBlk b) : decBlk v = (b, 0) := blk_codec.dec_enc h (okBlk_of h) hv
theorem decBlk_more {b : Blk} (h : mayBlk b = true) {v : ByteArray} {x : UInt8} {X : List UInt8} (hv : v.data.toList = encBlk b ++ (x :: X)) : decBlk v = (Blk.zero, 3) := blk_codec.dec_more (okBlk_of h) hv
theorem decBlk_cut {b : Blk} (h : mayBlk b = true) {v : ByteArray} {k : Nat} (hv : v.data.toList = (encBlk b).take k) (hk : k < (encBlk b).length) : decBlk v = (Blk.zero, 2) := blk_codec.dec_cut (okBlk_of h) hv hk
theorem decBlk_back {v : ByteArray} (h : (decBlk v).2 = 0) : mayBlk (decBlk v).1 = true ∧ encBlk (decBlk v).1 = v.data.toList := by
  obtain ⟨h1, _, h2⟩ := blk_codec.dec_back h
  exact ⟨h1, h2⟩
end Go.Proofs.Ytcbacchelabljaa
