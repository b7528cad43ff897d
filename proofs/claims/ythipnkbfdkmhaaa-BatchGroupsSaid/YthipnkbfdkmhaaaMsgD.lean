/- Messages out of bytes, as lists: a codec. -/
import Derived.Test.YthipnkbfdkmhaaaItems
import Derived.Test.YthipnkbfdkmhaaaCount
import Derived.Test.YthipnkbfdkmhaaaMsg6
import Derived.Test.YthipnkbfdkmhaaaEvRP
namespace Go.Proofs.Ythipnkbfdkmhaaa
open Go.RowKit
set_option linter.unusedVariables false
def nP (lo hi : Int) (s : ByteArray) (a e : Int) : Int × Int × Int := numG s a e lo hi
def tP (most : Int) (s : ByteArray) (a e : Int) : ByteArray × Int × Int := textG s a e most
def cP (most : Int) (s : ByteArray) (a e : Int) : Int × Int × Int := countG s a e most
theorem nP_codec {lo hi : Int} (h0 : 0 ≤ lo) (h1 : hi ≤ 72057594037927935) : Codec (nP lo hi) putL (fun n => lo ≤ n ∧ n ≤ hi) := num_codec lo hi h0 h1
theorem tP_codec {most : Int} (h1 : most ≤ 1000000) : Codec (tP most) textB (fun t => (t.size : Int) ≤ most) := text_codec most h1
theorem cP_codec {most : Int} (h1 : most ≤ 72057594037927935) : Codec (cP most) putL (fun n => 0 ≤ n ∧ n ≤ most) := count_codec most h1
def mapP {α β : Type} (f : α → β) (P : ByteArray → Int → Int → α × Int × Int) (s : ByteArray) (a e : Int) : β × Int × Int := (f (P s a e).1, (P s a e).2.1, (P s a e).2.2)
/-- On an error the value is z. -/
def fixP {α : Type} (P : ByteArray → Int → Int → α × Int × Int) (z : α) (s : ByteArray) (a e : Int) : α × Int × Int := (if (P s a e).2.2 = 0 then (P s a e).1 else z, (P s a e).2.1, (P s a e).2.2)
theorem Codec.fix {α : Type} {P : ByteArray → Int → Int → α × Int × Int} {enc : α → List UInt8} {ok : α → Prop} (h : Codec P enc ok) (z : α) : Codec (fixP P z) enc ok := by
  refine ⟨fun {s A B x} hx hs => ?_, fun {s A x k} hx hs hk => ?_, fun {s a e} he => ?_, fun {s i a' x} hi' hh => ?_⟩
  · unfold fixP; rw [h.good hx hs]; rfl
  · exact h.cut hx hs hk
  · exact h.stay he
  · obtain ⟨⟨x1, a1, e1⟩, hx⟩ : ∃ t, P s i 0 = t := ⟨_, rfl⟩
    unfold fixP at hh
    simp only [hx, Prod.mk.injEq] at hh
    obtain ⟨q1, rfl, rfl⟩ := hh
    rw [if_pos rfl] at q1
    subst q1
    exact h.back hi' hx
def hashP (s : ByteArray) (a e : Int) : H32 × Int × Int :=
  if e = 0 then (if h : 0 ≤ a ∧ 32 ≤ (s.size : Int) - a then (⟨hashL s a, hashL_len s a h.1 h.2⟩, a + 32, 0) else (zeroM, a, 2)) else (zeroM, a, e)
theorem zrow_eq : zrow = hrow zeroM.1 := rfl
theorem hashP_G {s : ByteArray} {a e : Int} (h0 : 0 ≤ a) : hashG s a e = (hrow (hashP s a e).1.1, (hashP s a e).2.1, (hashP s a e).2.2) := by
  unfold hashG hashP
  by_cases he : e = 0
  · rw [if_pos he, if_pos he]
    by_cases h : (s.size : Int) - a < 32
    · rw [if_pos h, dif_neg (by omega), zrow_eq]
    · rw [if_neg h, dif_pos ⟨h0, by omega⟩]
  · rw [if_neg he, if_neg he, zrow_eq]
theorem hash_codec : Codec hashP (fun q => q.1) (fun _ => True) := by
  refine ⟨fun {s A B x} hx hs => ?_, fun {s A x k} hx hs hk => ?_, fun {s a e} he => ?_, fun {s i a' x} hi' hh => ?_⟩
  · have hsz : s.size = A.length + 32 + B.length := by rw [← str_len, hs, List.length_append, List.length_append, x.2]
    have hL : hashL s (A.length : Nat) = x.1 := by
      unfold hashL
      rw [hs, Int.toNat_natCast, List.append_assoc, List.drop_left, List.take_left' x.2]
    unfold hashP
    rw [if_pos rfl, dif_pos ⟨by omega, by omega⟩, x.2]
    refine Prod.ext (Subtype.ext hL) ?_
    simp
  · simp only [x.2] at hk
    have hsz : s.size = A.length + k := by rw [← str_len, hs, List.length_append, List.length_take, x.2]; omega
    unfold hashP
    rw [if_pos rfl, dif_neg (by omega)]
  · unfold hashP; rw [if_neg he]
  · unfold hashP at hh
    rw [if_pos rfl] at hh
    by_cases h : 0 ≤ (i : Int) ∧ 32 ≤ (s.size : Int) - (i : Int)
    · rw [dif_pos h] at hh
      simp only [Prod.mk.injEq] at hh
      obtain ⟨rfl, rfl, _⟩ := hh
      exact ⟨trivial, 32, by omega, by omega, rfl⟩
    · rw [dif_neg h] at hh
      simp at hh
abbrev LfT := ByteArray × ByteArray × Int × Int × List H32
def lfP : ByteArray → Int → Int → LfT × Int × Int :=
  seqP (tP 160) fun _ => seqP (tP 64) fun _ => seqP (nP 0 1073741824) fun _ => seqP (cP 30) fun n => listP hashP n.toNat
def mkLf (p : LfT) : LeafD := ⟨p.1, p.2.1, p.2.2.1, p.2.2.2.2⟩
def leafP : ByteArray → Int → Int → LeafD × Int × Int := mapP mkLf lfP
def leafDB (x : LeafD) : List UInt8 := textB x.key ++ (textB x.val ++ (putL x.idx ++ (putL (x.path.length : Int) ++ x.path.flatMap (·.1))))
def okLeaf (x : LeafD) : Prop := (x.key.size : Int) ≤ 160 ∧ (x.val.size : Int) ≤ 64 ∧ (0 ≤ x.idx ∧ x.idx ≤ 1073741824) ∧ (x.path.length : Int) ≤ 30
theorem leaf_codec : Codec leafP leafDB okLeaf := by
  have cE : ∀ n : Int, Codec (listP hashP n.toNat) (fun l => l.flatMap (·.1)) (fun l => l.length = n.toNat ∧ ∀ x ∈ l, True) := fun n => list_codec hash_codec n.toNat
  have sE : ∀ (n : Int) s a e, e ≠ 0 → (listP hashP n.toNat s a e).2.2 = e := fun n s a e he => (cE n).stay he
  have c4 := (cP_codec (most := 30) (by decide)).seq (fun n _ => cE n) sE
  have c3 := (nP_codec (lo := 0) (hi := 1073741824) (by decide) (by decide)).seq (fun _ _ => c4) (fun _ _ _ _ he => c4.stay he)
  have c2 := (tP_codec (most := 64) (by decide)).seq (fun _ _ => c3) (fun _ _ _ _ he => c3.stay he)
  have c1 := (tP_codec (most := 160) (by decide)).seq (fun _ _ => c2) (fun _ _ _ _ he => c2.stay he)
  have c := c1.map mkLf (fun b => (b.key, b.val, b.idx, (b.path.length : Int), b.path)) (fun x hx => by
    obtain ⟨x1, x2, x3, x4, x5⟩ := x
    obtain ⟨_, _, _, ⟨h4, _⟩, h5, _⟩ := hx
    simp only at h4 h5
    show (x1, x2, x3, (x5.length : Int), x5) = _
    rw [h5]
    congr 3
    congr 1
    omega)
  refine c.as (fun b h => ?_) (fun b h => ?_)
  · obtain ⟨h1, h2, h3, h4⟩ := h
    exact ⟨⟨⟨h1, h2, h3, ⟨by simp only; omega, h4⟩, by simp, fun _ _ => trivial⟩, rfl⟩, rfl⟩
  · obtain ⟨⟨h1, h2, h3, ⟨_, h4⟩, _, _⟩, _⟩ := h
    exact ⟨h1, h2, h3, h4⟩
structure PfD where
  ct : Int
  xs : List LeafD
abbrev PfT := Int × Int × List LeafD
def pfP0 : ByteArray → Int → Int → PfT × Int × Int := seqP (nP 0 1073741824) fun _ => seqP (cP 2) fun n => listP leafP n.toNat
def mkPf (p : PfT) : PfD := ⟨p.1, p.2.2⟩
def pfP : ByteArray → Int → Int → PfD × Int × Int := fixP (mapP mkPf pfP0) ⟨0, []⟩
def pfDB (p : PfD) : List UInt8 := putL p.ct ++ (putL (p.xs.length : Int) ++ p.xs.flatMap leafDB)
def okPf (p : PfD) : Prop := (0 ≤ p.ct ∧ p.ct ≤ 1073741824) ∧ (p.xs.length : Int) ≤ 2 ∧ ∀ x ∈ p.xs, okLeaf x
theorem pf_codec : Codec pfP pfDB okPf := by
  have cE : ∀ n : Int, Codec (listP leafP n.toNat) (fun l => l.flatMap leafDB) (fun l => l.length = n.toNat ∧ ∀ x ∈ l, okLeaf x) := fun n => list_codec leaf_codec n.toNat
  have sE : ∀ (n : Int) s a e, e ≠ 0 → (listP leafP n.toNat s a e).2.2 = e := fun n s a e he => (cE n).stay he
  have c4 := (cP_codec (most := 2) (by decide)).seq (fun n _ => cE n) sE
  have c3 := (nP_codec (lo := 0) (hi := 1073741824) (by decide) (by decide)).seq (fun _ _ => c4) (fun _ _ _ _ he => c4.stay he)
  have c := c3.map mkPf (fun b => (b.ct, (b.xs.length : Int), b.xs)) (fun x hx => by
    obtain ⟨x1, x4, x5⟩ := x
    obtain ⟨_, ⟨h4, _⟩, h5, _⟩ := hx
    simp only at h4 h5
    show (x1, (x5.length : Int), x5) = _
    rw [h5]
    congr 2
    omega)
  refine Codec.fix (c.as (fun b h => ?_) (fun b h => ?_)) _
  · obtain ⟨h1, h2, h3⟩ := h
    exact ⟨⟨⟨h1, ⟨by simp only; omega, h2⟩, by simp, h3⟩, rfl⟩, rfl⟩
  · obtain ⟨⟨h1, ⟨_, h4⟩, _, h5⟩, _⟩ := h
    exact ⟨h1, h4, h5⟩
def endP : ByteArray → Int → Int → (ByteArray × Int) × Int × Int := seqP (tP 12) (fun _ => nP 0 999)
def endOk (p : ByteArray × Int) : Prop := (p.1.size : Int) ≤ 12 ∧ 0 ≤ p.2 ∧ p.2 ≤ 999
theorem end_codec : Codec endP (fun p => textB p.1 ++ putL p.2) endOk :=
  (tP_codec (by decide)).seq (fun _ _ => nP_codec (by decide) (by decide)) (fun _ _ _ _ he => (nP_codec (by decide) (by decide)).stay he)
abbrev PkT := (ByteArray × Int) × (ByteArray × Int) × Int × ByteArray × Int × Int
def pkP : ByteArray → Int → Int → PkT × Int × Int :=
  seqP endP fun _ => seqP endP fun _ => seqP (nP 1 1099511627776) fun _ => seqP (tP 200) fun _ => seqP (nP 0 1099511627776) fun _ => nP 0 1099511627776
def pkB (p : PkT) : List UInt8 := (textB p.1.1 ++ putL p.1.2) ++ ((textB p.2.1.1 ++ putL p.2.1.2) ++ (putL p.2.2.1 ++ (textB p.2.2.2.1 ++ (putL p.2.2.2.2.1 ++ putL p.2.2.2.2.2))))
def pkOk (p : PkT) : Prop := endOk p.1 ∧ endOk p.2.1 ∧ (1 ≤ p.2.2.1 ∧ p.2.2.1 ≤ 1099511627776) ∧ (p.2.2.2.1.size : Int) ≤ 200 ∧ (0 ≤ p.2.2.2.2.1 ∧ p.2.2.2.2.1 ≤ 1099511627776) ∧ 0 ≤ p.2.2.2.2.2 ∧ p.2.2.2.2.2 ≤ 1099511627776
theorem pk_codec : Codec pkP pkB pkOk := by
  have c6 := nP_codec (lo := 0) (hi := 1099511627776) (by decide) (by decide)
  have c5 := c6.seq (fun _ _ => c6) (fun _ _ _ _ he => c6.stay he)
  have c4 := (tP_codec (most := 200) (by decide)).seq (fun _ _ => c5) (fun _ _ _ _ he => c5.stay he)
  have c3 := (nP_codec (lo := 1) (hi := 1099511627776) (by decide) (by decide)).seq (fun _ _ => c4) (fun _ _ _ _ he => c4.stay he)
  have c2 := end_codec.seq (fun _ _ => c3) (fun _ _ _ _ he => c3.stay he)
  exact end_codec.seq (fun _ _ => c2) (fun _ _ _ _ he => c2.stay he)
theorem pkB_eq (p : PkT) : pkB p = pkBy p.1.1 p.1.2 p.2.1.1 p.2.1.2 p.2.2.1 p.2.2.2.1 p.2.2.2.2.1 p.2.2.2.2.2 := by
  unfold pkB pkBy endBy textB
  simp only [List.append_assoc]
theorem pkP_eq (s : ByteArray) (a e : Int) : pkP s a e = ((((pkG s a e).sp, (pkG s a e).sc), ((pkG s a e).dp, (pkG s a e).dc), (pkG s a e).sq, (pkG s a e).da, (pkG s a e).th, (pkG s a e).ta), (pkG s a e).a, (pkG s a e).e) := rfl
/-- A message without addresses. -/
structure MsgD where
  kd : Int
  hh : Int
  ht : Int
  rt : H32
  pk : PkT
  ack : ByteArray
  nx : Int
  he : Int
  p : PfD
  c : PfD
def PkT.zero : PkT := ((⟨#[]⟩, 0), (⟨#[]⟩, 0), 0, ⟨#[]⟩, 0, 0)
def PfD.zero : PfD := ⟨0, []⟩
def MsgD.zero (kd : Int) : MsgD := ⟨kd, 0, 0, zeroM, PkT.zero, ⟨#[]⟩, 0, 0, PfD.zero, PfD.zero⟩
def MsgV.d (m : MsgV) : MsgD := ⟨m.kd, m.hh, m.ht, m.rt, ((m.sp, m.sc), (m.dp, m.dc), m.sq, m.da, m.th, m.ta), m.ack, m.nx, m.he, ⟨m.pct, m.pxs.map LeafV.d⟩, ⟨m.cct, m.cxs.map LeafV.d⟩⟩
def LeafD.v (x : LeafD) : LeafV := ⟨x.key, x.val, x.idx, none, x.path.length, x.path.length, x.path⟩
theorem LeafD.v_d (x : LeafD) : x.v.d = x := rfl
def MsgD.v (m : MsgD) : MsgV := ⟨m.kd, m.hh, m.ht, m.rt, m.pk.1.1, m.pk.1.2, m.pk.2.1.1, m.pk.2.1.2, m.pk.2.2.1, m.pk.2.2.2.1, m.pk.2.2.2.2.1, m.pk.2.2.2.2.2, m.ack, m.nx, m.he, m.p.ct, none, m.p.xs.length, m.p.xs.length, m.p.xs.map LeafD.v, m.c.ct, none, m.c.xs.length, m.c.xs.length, m.c.xs.map LeafD.v⟩
theorem map_vd (l : List LeafD) : (l.map LeafD.v).map LeafV.d = l := by
  rw [List.map_map]
  exact (List.map_congr_left (fun x _ => LeafD.v_d x)).trans (List.map_id l)
theorem MsgD.v_d (m : MsgD) : m.v.d = m := by
  obtain ⟨kd, hh, ht, rt, pk, ack, nx, he, ⟨pct, pxs⟩, ⟨cct, cxs⟩⟩ := m
  unfold MsgD.v MsgV.d
  simp only [map_vd]
theorem pkB8_iff (sp sp2 : ByteArray) (sc sc2 : Int) (dp dp2 : ByteArray) (dc dc2 : Int) (sq sq2 : Int) (da da2 : ByteArray) (th th2 : Int) (ta ta2 : Int) : pkB8 sp sp2 sc sc2 dp dp2 dc dc2 sq sq2 da da2 th th2 ta ta2 = true ↔ (((sp, sc), (dp, dc), sq, da, th, ta) : PkT) = ((sp2, sc2), (dp2, dc2), sq2, da2, th2, ta2) := by
  unfold pkB8
  simp only [Bool.and_eq_true, ba_eq, beq_iff_eq (α := Int), Prod.mk.injEq, and_assoc]
theorem msgB_iff (m n : MsgV) : msgB m n = true ↔ m.d = n.d := by
  unfold msgB hdB pfB MsgV.d
  simp only [Bool.and_eq_true, pkB8_iff, lvsB_iff, ba_eq, beq_iff_eq (α := Int), MsgD.mk.injEq, PfD.mk.injEq, and_assoc]
  rw [beq_iff_eq, Subtype.ext_iff]
theorem mayLeaf_d {ct : Int} {x y : LeafV} (h : x.d = y.d) : mayLeafB ct x = mayLeafB ct y := by
  unfold LeafV.d at h
  simp only [LeafD.mk.injEq] at h
  obtain ⟨h1, h2, h3, h4⟩ := h
  unfold mayLeafB
  rw [h1, h2, h3, h4]
theorem all_d {ct : Int} : ∀ {l m : List LeafV}, l.map LeafV.d = m.map LeafV.d → l.all (mayLeafB ct) = m.all (mayLeafB ct)
  | [], [], _ => rfl
  | [], _ :: _, h => by simp at h
  | _ :: _, [], h => by simp at h
  | x :: l, y :: m, h => by
    rw [List.map_cons, List.map_cons, List.cons.injEq] at h
    rw [List.all_cons, List.all_cons, mayLeaf_d h.1, all_d h.2]
theorem mayPf_d {c1 c2 : Int} {l m : List LeafV} (hc : c1 = c2) (h : l.map LeafV.d = m.map LeafV.d) : mayPfB c1 l = mayPfB c2 m := by
  subst hc
  have hl : l.length = m.length := by have := congrArg List.length h; simpa using this
  unfold mayPfB
  rw [all_d h, hl]
theorem plain_d {m n : MsgV} (h : m.d = n.d) : m.plain.d = n.plain.d := by
  obtain ⟨kd, hh, ht, rt, sp, sc, dp, dc, sq, da, th, ta, ack, nx, he, pct, pa, pn, pc, pxs, cct, ca, cn, cc, cxs⟩ := m
  obtain ⟨kd2, hh2, ht2, rt2, sp2, sc2, dp2, dc2, sq2, da2, th2, ta2, ack2, nx2, he2, pct2, pa2, pn2, pc2, pxs2, cct2, ca2, cn2, cc2, cxs2⟩ := n
  unfold MsgV.d at h
  simp only [MsgD.mk.injEq, PfD.mk.injEq, Prod.mk.injEq] at h
  obtain ⟨rfl, rfl, rfl, rfl, ⟨⟨rfl, rfl⟩, ⟨rfl, rfl⟩, rfl, rfl, rfl, rfl⟩, rfl, rfl, rfl, ⟨rfl, h1⟩, ⟨rfl, h2⟩⟩ := h
  unfold MsgV.plain MsgV.d
  by_cases k1 : kd = 1
  · simp only [if_pos k1]
  simp only [if_neg k1]
  by_cases k2 : 2 ≤ kd ∧ kd ≤ 5
  · simp only [if_pos k2, h1]
    by_cases k5 : kd = 5
    · simp only [if_pos k5, h2]
    · simp only [if_neg k5]
  · simp only [if_neg k2]
theorem may_d {m n : MsgV} (h : m.d = n.d) : mayMsgB m = mayMsgB n := by
  have hp : msgB m m.plain = msgB n n.plain := by
    rw [Bool.eq_iff_iff, msgB_iff, msgB_iff, h, plain_d h]
  have hr : restB m = restB n := by
    have h' := h
    unfold MsgV.d at h'
    simp only [MsgD.mk.injEq, PfD.mk.injEq, Prod.mk.injEq] at h'
    obtain ⟨h0, h1, h2, h3, ⟨⟨h4, h5⟩, ⟨h6, h7⟩, h8, h9, h10, h11⟩, h12, h13, h14, ⟨h15, h16⟩, ⟨h17, h18⟩⟩ := h'
    unfold restB
    rw [h0, h1, h2, h4, h5, h6, h7, h8, h9, h10, h11, h12, h13, h14, mayPf_d h15 h16, mayPf_d h17 h18]
  have hk : m.kd = n.kd := congrArg MsgD.kd h
  unfold mayMsgB
  rw [hp, hr, hk]
def mayD (m : MsgD) : Bool := mayMsgB m.v
theorem may_eq (m : MsgV) : mayMsgB m = mayD m.d := may_d (by rw [MsgD.v_d])
def mk1 (p : Int × Int × H32) : MsgD := ⟨1, p.1, p.2.1, p.2.2, PkT.zero, ⟨#[]⟩, 0, 0, PfD.zero, PfD.zero⟩
def mkE (kd : Int) (p : PkT × Int × PfD) : MsgD := ⟨kd, 0, 0, zeroM, p.1, ⟨#[]⟩, 0, p.2.1, p.2.2, PfD.zero⟩
def mk3 (p : PkT × ByteArray × Int × PfD) : MsgD := ⟨3, 0, 0, zeroM, p.1, p.2.1, 0, p.2.2.1, p.2.2.2, PfD.zero⟩
def mk4 (p : PkT × Int × Int × PfD) : MsgD := ⟨4, 0, 0, zeroM, p.1, ⟨#[]⟩, p.2.1, p.2.2.1, p.2.2.2, PfD.zero⟩
def mk5 (p : PkT × Int × Int × PfD × PfD) : MsgD := ⟨5, 0, 0, zeroM, p.1, ⟨#[]⟩, p.2.1, p.2.2.1, p.2.2.2.1, p.2.2.2.2⟩
/-- How the fields of a message of a kind are read. -/
def bodyP (kd : Int) : ByteArray → Int → Int → MsgD × Int × Int :=
  if kd = 1 then mapP mk1 (seqP (nP 1 1099511627776) fun _ => seqP (nP 0 1099511627776) fun _ => hashP)
  else if kd = 3 then mapP mk3 (seqP pkP fun _ => seqP (tP 32) fun _ => seqP (nP 1 1099511627776) fun _ => pfP)
  else if kd = 4 then mapP mk4 (seqP pkP fun _ => seqP (nP 0 1099511627777) fun _ => seqP (nP 1 1099511627776) fun _ => pfP)
  else if kd = 5 then mapP mk5 (seqP pkP fun _ => seqP (nP 0 1099511627777) fun _ => seqP (nP 1 1099511627776) fun _ => seqP pfP fun _ => pfP)
  else mapP (mkE kd) (seqP pkP fun _ => seqP (nP 1 1099511627776) fun _ => pfP)
def bodyBy (kd : Int) (m : MsgD) : List UInt8 :=
  if kd = 1 then putL m.hh ++ (putL m.ht ++ m.rt.1)
  else if kd = 3 then pkB m.pk ++ (textB m.ack ++ (putL m.he ++ pfDB m.p))
  else if kd = 4 then pkB m.pk ++ (putL m.nx ++ (putL m.he ++ pfDB m.p))
  else if kd = 5 then pkB m.pk ++ (putL m.nx ++ (putL m.he ++ (pfDB m.p ++ pfDB m.c)))
  else pkB m.pk ++ (putL m.he ++ pfDB m.p)
def okH (h : Int) : Prop := 1 ≤ h ∧ h ≤ 1099511627776
def bodyOk (kd : Int) (m : MsgD) : Prop :=
  if kd = 1 then (okH m.hh ∧ (0 ≤ m.ht ∧ m.ht ≤ 1099511627776) ∧ True) ∧ mk1 (m.hh, m.ht, m.rt) = m
  else if kd = 3 then (pkOk m.pk ∧ (m.ack.size : Int) ≤ 32 ∧ okH m.he ∧ okPf m.p) ∧ mk3 (m.pk, m.ack, m.he, m.p) = m
  else if kd = 4 then (pkOk m.pk ∧ (0 ≤ m.nx ∧ m.nx ≤ 1099511627777) ∧ okH m.he ∧ okPf m.p) ∧ mk4 (m.pk, m.nx, m.he, m.p) = m
  else if kd = 5 then (pkOk m.pk ∧ (0 ≤ m.nx ∧ m.nx ≤ 1099511627777) ∧ okH m.he ∧ okPf m.p ∧ okPf m.c) ∧ mk5 (m.pk, m.nx, m.he, m.p, m.c) = m
  else (pkOk m.pk ∧ okH m.he ∧ okPf m.p) ∧ mkE kd (m.pk, m.he, m.p) = m
theorem body_codec (kd : Int) : Codec (bodyP kd) (bodyBy kd) (bodyOk kd) := by
  have cH := nP_codec (lo := 1) (hi := 1099511627776) (by decide) (by decide)
  have cT := nP_codec (lo := 0) (hi := 1099511627776) (by decide) (by decide)
  have cN := nP_codec (lo := 0) (hi := 1099511627777) (by decide) (by decide)
  have cA := tP_codec (most := 32) (by decide)
  have cHP := cH.seq (fun _ _ => pf_codec) (fun _ _ _ _ he => pf_codec.stay he)
  have c1 := cT.seq (fun _ _ => hash_codec) (fun _ _ _ _ he => hash_codec.stay he)
  have c1 := cH.seq (fun _ _ => c1) (fun _ _ _ _ he => c1.stay he)
  have c2 := pk_codec.seq (fun _ _ => cHP) (fun _ _ _ _ he => cHP.stay he)
  have c3 := cA.seq (fun _ _ => cHP) (fun _ _ _ _ he => cHP.stay he)
  have c3 := pk_codec.seq (fun _ _ => c3) (fun _ _ _ _ he => c3.stay he)
  have c4 := cN.seq (fun _ _ => cHP) (fun _ _ _ _ he => cHP.stay he)
  have c4 := pk_codec.seq (fun _ _ => c4) (fun _ _ _ _ he => c4.stay he)
  have cPP := pf_codec.seq (fun _ _ => pf_codec) (fun _ _ _ _ he => pf_codec.stay he)
  have cHPP := cH.seq (fun _ _ => cPP) (fun _ _ _ _ he => cPP.stay he)
  have c5 := cN.seq (fun _ _ => cHPP) (fun _ _ _ _ he => cHPP.stay he)
  have c5 := pk_codec.seq (fun _ _ => c5) (fun _ _ _ _ he => c5.stay he)
  unfold bodyP bodyBy bodyOk okH
  by_cases k1 : kd = 1
  · simp only [if_pos k1]
    exact c1.map mk1 (fun m => (m.hh, m.ht, m.rt)) (fun _ _ => rfl)
  simp only [if_neg k1]
  by_cases k3 : kd = 3
  · simp only [if_pos k3]
    exact c3.map mk3 (fun m => (m.pk, m.ack, m.he, m.p)) (fun _ _ => rfl)
  simp only [if_neg k3]
  by_cases k4 : kd = 4
  · simp only [if_pos k4]
    exact c4.map mk4 (fun m => (m.pk, m.nx, m.he, m.p)) (fun _ _ => rfl)
  simp only [if_neg k4]
  by_cases k5 : kd = 5
  · simp only [if_pos k5]
    exact c5.map mk5 (fun m => (m.pk, m.nx, m.he, m.p, m.c)) (fun _ _ => rfl)
  simp only [if_neg k5]
  exact c2.map (mkE kd) (fun m => (m.pk, m.he, m.p)) (fun _ _ => rfl)
theorem bodyOk_kd {kd : Int} {m : MsgD} (h : bodyOk kd m) : m.kd = kd := by
  unfold bodyOk at h
  split at h
  · rename_i k; rw [← h.2]; exact k.symm
  split at h
  · rename_i k; rw [← h.2]; exact k.symm
  split at h
  · rename_i k; rw [← h.2]; exact k.symm
  split at h
  · rename_i k; rw [← h.2]; exact k.symm
  · rw [← h.2]; rfl
def msgP : ByteArray → Int → Int → MsgD × Int × Int := mapP (fun p : Int × MsgD => p.2) (seqP (nP 1 5) bodyP)
def okMsg (m : MsgD) : Prop := ((1 ≤ m.kd ∧ m.kd ≤ 5) ∧ bodyOk m.kd m) ∧ m = m
def msgDB (m : MsgD) : List UInt8 := putL m.kd ++ bodyBy m.kd m
theorem msg_codec : Codec msgP msgDB okMsg := by
  have c := (nP_codec (lo := 1) (hi := 5) (by decide) (by decide)).seq (fun x _ => body_codec x) (fun x _ _ _ he => (body_codec x).stay he)
  exact c.map (fun p => p.2) (fun e => (e.kd, e)) (fun x hx => by rw [bodyOk_kd hx.2])
theorem leafBy_d (x : LeafV) : leafBy x = leafDB x.d := by
  unfold leafBy leafDB textB LeafV.d
  simp only [List.append_assoc]
theorem flat_d : ∀ l : List LeafV, l.flatMap leafBy = (l.map LeafV.d).flatMap leafDB
  | [] => rfl
  | x :: l => by rw [List.flatMap_cons, List.map_cons, List.flatMap_cons, leafBy_d, flat_d l]
theorem pfBy_d (ct : Int) (l : List LeafV) : pfBy ct l = pfDB ⟨ct, l.map LeafV.d⟩ := by
  unfold pfBy pfDB
  simp only [List.length_map, flat_d, List.append_assoc]
theorem msgBy_d {m : MsgV} (h1 : 1 ≤ m.kd) (h5 : m.kd ≤ 5) : msgBy m = msgDB m.d := by
  unfold msgBy msgDB bodyBy
  rw [show m.d.kd = m.kd from rfl]
  by_cases k1 : m.kd = 1
  · rw [if_pos k1, if_pos k1, k1]; rfl
  rw [if_neg k1, if_neg k1]
  by_cases k2 : m.kd = 2
  · rw [if_pos k2, if_neg (by omega), if_neg (by omega), if_neg (by omega), k2, pfBy_d]; unfold MsgV.d; rw [pkB_eq]
  rw [if_neg k2]
  by_cases k3 : m.kd = 3
  · rw [if_pos k3, if_pos k3, k3, pfBy_d]; unfold MsgV.d; rw [pkB_eq]; unfold textB; simp only [List.append_assoc]
  rw [if_neg k3, if_neg k3]
  by_cases k4 : m.kd = 4
  · rw [if_pos k4, if_pos k4, k4, pfBy_d]; unfold MsgV.d; rw [pkB_eq]
  rw [if_neg k4, if_neg k4, if_pos (by omega), show m.kd = 5 by omega, pfBy_d, pfBy_d]; unfold MsgV.d; rw [pkB_eq]
theorem okPf_of {ct : Int} {xs : List LeafD} (h : mayPfB ct (xs.map LeafD.v) = true) : okPf ⟨ct, xs⟩ := by
  obtain ⟨h1, h2, h3, h4⟩ := mayPfB_parts h
  refine ⟨⟨h1, h2⟩, by simp only; rw [List.length_map] at h3; omega, fun x hx => ?_⟩
  obtain ⟨a1, a2, a3, a4, a5⟩ := h4 x.v (List.mem_map_of_mem hx)
  have b1 : x.key.size ≤ 160 := a1
  have b2 : x.val.size ≤ 64 := a2
  have b3 : 0 ≤ x.idx := a3
  have b4 : x.idx < ct := a4
  have b5 : x.path.length ≤ 30 := a5
  exact ⟨by omega, by omega, ⟨b3, by omega⟩, by omega⟩
theorem okMsg_of {m : MsgD} (h : mayD m = true) : okMsg m := by
  have h' : mayMsgB m.v = true := h
  obtain ⟨k1, k5, hr⟩ := may_kd h'
  have hp : m.v.d = m.v.plain.d := by
    unfold mayMsgB at h'
    simp only [Bool.and_eq_true] at h'
    exact (msgB_iff _ _).1 h'.1.2
  rw [MsgD.v_d] at hp
  have k1' : 1 ≤ m.kd := k1
  have k5' : m.kd ≤ 5 := k5
  refine ⟨⟨⟨k1', k5'⟩, ?_⟩, rfl⟩
  unfold bodyOk
  by_cases e1 : m.kd = 1
  · rw [if_pos e1]
    obtain ⟨a1, a2, a3, a4⟩ := rest_1 (m := m.v) e1 hr
    refine ⟨⟨⟨a1, a2⟩, ⟨a3, a4⟩, trivial⟩, ?_⟩
    rw [hp]
    unfold MsgV.plain
    rw [if_pos (show m.v.kd = 1 from e1)]
    unfold mk1 MsgV.zero MsgV.d
    simp only [List.map_nil, show m.v.kd = 1 from e1]
    rfl
  obtain ⟨r1, r2, r3, r4, r5, r6, r7, r8⟩ := rest_2 (m := m.v) e1 hr
  have b := mayK_boundsM r2
  have hpk : pkOk m.pk := by
    obtain ⟨kd, hh, ht, rt, ⟨⟨sp, sc⟩, ⟨dp, dc⟩, sq, da, th, ta⟩, ack, nx, he, p, c⟩ := m
    simp only [MsgD.v] at b
    exact ⟨⟨by simp only; omega, by simp only; omega, by simp only; omega⟩, ⟨by simp only; omega, by simp only; omega, by simp only; omega⟩, ⟨by simp only; omega, by simp only; omega⟩, by simp only; omega, ⟨by simp only; omega, by simp only; omega⟩, by simp only; omega, by simp only; omega⟩
  have h1 : okH m.he := ⟨r3, r4⟩
  have h2 : okPf m.p := okPf_of (ct := m.p.ct) (xs := m.p.xs) r7
  have h3 : okPf m.c := okPf_of (ct := m.c.ct) (xs := m.c.xs) r8
  unfold MsgV.plain at hp
  rw [if_neg (show ¬ m.v.kd = 1 from e1), if_pos (show 2 ≤ m.v.kd ∧ m.v.kd ≤ 5 from ⟨by have : m.v.kd = m.kd := rfl; omega, k5⟩)] at hp
  rw [if_neg e1]
  obtain ⟨kd, hh, ht, rt, pk, ack, nx, he, ⟨pct, pxs⟩, ⟨cct, cxs⟩⟩ := m
  simp only [MsgD.v, MsgV.d, map_vd, MsgD.mk.injEq, PfD.mk.injEq] at hp e1 k1' k5' r1 r5 r6 ⊢
  obtain ⟨_, rfl, rfl, rfl, _, q1, q2, _, _, q3, q4⟩ := hp
  by_cases e3 : kd = 3
  · subst e3
    simp at q2 q3 q4
    subst q2 q3 q4
    rw [if_pos rfl]
    exact ⟨⟨hpk, by have := r1 rfl; omega, h1, h2⟩, rfl⟩
  rw [if_neg e3]
  simp [e3] at q1
  by_cases e4 : kd = 4
  · subst e4
    simp at q3 q4
    subst q1 q3 q4
    rw [if_pos rfl]
    exact ⟨⟨hpk, ⟨r5, r6⟩, h1, h2⟩, rfl⟩
  rw [if_neg e4]
  by_cases e5 : kd = 5
  · subst e5
    subst q1
    rw [if_pos rfl]
    exact ⟨⟨hpk, ⟨r5, r6⟩, h1, h2, h3⟩, rfl⟩
  rw [if_neg e5]
  simp [e4, e5] at q2 q3 q4
  subst q1 q2 q3 q4
  exact ⟨⟨hpk, h1, h2⟩, rfl⟩
def decMsg (v : ByteArray) : MsgD × Int := decP msgP mayD (MsgD.zero 0) v
theorem decMsg_enc {x : MsgD} (hm : mayD x = true) {v : ByteArray} (hv : v.data.toList = msgDB x) : decMsg v = (x, 0) := msg_codec.dec_enc hm (okMsg_of hm) hv
theorem decMsg_more {x : MsgD} (hm : mayD x = true) {v : ByteArray} {b : UInt8} {B : List UInt8} (hv : v.data.toList = msgDB x ++ (b :: B)) : decMsg v = (MsgD.zero 0, 3) := msg_codec.dec_more (okMsg_of hm) hv
theorem decMsg_cut {x : MsgD} (hm : mayD x = true) {v : ByteArray} {k : Nat} (hv : v.data.toList = (msgDB x).take k) (hk : k < (msgDB x).length) : decMsg v = (MsgD.zero 0, 2) := msg_codec.dec_cut (okMsg_of hm) hv hk
theorem decMsg_back {v : ByteArray} (h : (decMsg v).2 = 0) : mayD (decMsg v).1 = true ∧ msgDB (decMsg v).1 = v.data.toList := by
  obtain ⟨h1, _, h2⟩ := msg_codec.dec_back h
  exact ⟨h1, h2⟩
theorem decMsg_err {v : ByteArray} (h : (decMsg v).2 ≠ 0) : (decMsg v).1 = MsgD.zero 0 := decP_err h
end Go.Proofs.Ythipnkbfdkmhaaa
