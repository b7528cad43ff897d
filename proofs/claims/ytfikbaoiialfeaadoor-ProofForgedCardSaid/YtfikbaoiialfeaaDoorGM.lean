/- Messages as records of fifty cells; headers and packets that are the same. Messages without the fields that their kind does not have. Messages that are the same. Messages that may be; messages that are light. Messages written. Messages in bytes, their size. Messages out of bytes, as lists: a codec. -/
import Derived.Test.YtfikbaoiialfeaaDoorGU
import Derived.Test.YtfikbaoiialfeaaDoorGP
import Derived.WalkKit
import Derived.ProofKit
import Derived.Handy
import Derived.Below
import Derived.Lib.Hide
import Derived.IntWalk
import Derived.Outline
import Derived.WalkLawsBesides
import Derived.WalkSpells
import Derived.BigRegion
import Derived.RegionTactic
import Derived.Deep.Upon
import Derived.Test.YtfikbaoiialfeaaDoorGV
import Derived.BigQuiet
import Derived.Test.YtfikbaoiialfeaaDoorItems
import Derived.Test.YtfikbaoiialfeaaDoorCount
namespace Go.Proofs.YtfikbaoiialfeaaDoor
open Go.RowKit
attribute [local go_sem] strV
set_option linter.unusedVariables false

structure MsgV where
  kd : Int
  hh : Int
  ht : Int
  rt : H32
  sp : ByteArray
  sc : Int
  dp : ByteArray
  dc : Int
  sq : Int
  da : ByteArray
  th : Int
  ta : Int
  ack : ByteArray
  nx : Int
  he : Int
  pct : Int
  pa : Option Addr
  pn : Nat
  pc : Nat
  pxs : List LeafV
  cct : Int
  ca : Option Addr
  cn : Nat
  cc : Nat
  cxs : List LeafV
def MsgV.back (m : MsgV) : List Value := [.string m.sp, .int .i64 m.sc, .string m.dp, .int .i64 m.dc, .int .i64 m.sq, .string m.da, .int .i64 m.th, .int .i64 m.ta, .string m.ack, .int .i64 m.nx, .int .i64 m.he, .int .i64 m.pct, .slice m.pa m.pn m.pc, .int .i64 m.cct, .slice m.ca m.cn m.cc]
def MsgV.L (m : MsgV) : List Value := [.int .i64 m.kd, .int .i64 m.hh, .int .i64 m.ht] ++ (m.rt.cells ++ m.back)
def MsgV.row (m : MsgV) : Array Value := m.L.toArray
/-- What lies behind a message's slices. -/
structure MsgV.ok (m : MsgV) (w : World) : Prop where
  p : LvsAt w m.pa m.pxs
  plen : m.pxs.length = m.pn
  pcap : m.pn ≤ m.pc
  pcM : m.pc ≤ maxLen
  c : LvsAt w m.ca m.cxs
  clen : m.cxs.length = m.cn
  ccap : m.cn ≤ m.cc
  ccM : m.cc ≤ maxLen
  spM : m.sp.size ≤ maxLen
  dpM : m.dp.size ≤ maxLen
theorem MsgV.ok.below {m : MsgV} {w w' : World} (h : m.ok w) (hb : Below w.heap.size w w') : m.ok w' := ⟨h.p.below hb, h.plen, h.pcap, h.pcM, h.c.below hb, h.clen, h.ccap, h.ccM, h.spM, h.dpM⟩
theorem wpList_load_midG {P : Program} {ops : Array Oper} {rest : List Oper} {op : Oper} {a : Act} {w : World} {Q : Exit → Act → World → Prop} (ty : TypeId) (x : Operand) (ho : op.op = .load ty x)
    (b o : Nat) (hx : a.eval x = .pointer (some ⟨b, o, none⟩)) (cs : List Value) (d : TypeDesc) (hc : w.rangeAt b o cs)
    (hu : P.underlying ty = some d) (hd : d.isRow = true) (hi : (P.info? ty).map (·.size) = some cs.length) (hw : Region.wanted op (yielded ops a.tmps) = true)
    (h : wpList P ops Q rest (a.put op.dst (.agg cs.toArray)) w) : wpList P ops Q (op :: rest) a w := by
  unfold wpList
  rw [if_pos hw]
  exact .inl (wp_load_mid ty x ho b o hx cs d hc hu hd hi h)
end Go.Proofs.YtfikbaoiialfeaaDoor
namespace Go.Proofs.YtfikbaoiialfeaaDoor
open Go.RowKit
attribute [local go_sem] strV
set_option linter.unusedVariables false

def zeroM : H32 := ⟨List.replicate 32 0, rfl⟩
def MsgV.zero (kd : Int) : MsgV := ⟨kd, 0, 0, zeroM, ⟨#[]⟩, 0, ⟨#[]⟩, 0, 0, ⟨#[]⟩, 0, 0, ⟨#[]⟩, 0, 0, 0, none, 0, 0, [], 0, none, 0, 0, []⟩
def MsgV.plain (m : MsgV) : MsgV :=
  if m.kd = 1 then { MsgV.zero m.kd with hh := m.hh, ht := m.ht, rt := m.rt }
  else if 2 ≤ m.kd ∧ m.kd ≤ 5 then
    ⟨m.kd, 0, 0, zeroM, m.sp, m.sc, m.dp, m.dc, m.sq, m.da, m.th, m.ta, if m.kd = 3 then m.ack else ⟨#[]⟩, if m.kd = 4 ∨ m.kd = 5 then m.nx else 0, m.he, m.pct, m.pa, m.pn, m.pc, m.pxs, if m.kd = 5 then m.cct else 0, if m.kd = 5 then m.ca else none, if m.kd = 5 then m.cn else 0, if m.kd = 5 then m.cc else 0, if m.kd = 5 then m.cxs else []⟩
  else MsgV.zero m.kd
end Go.Proofs.YtfikbaoiialfeaaDoor
namespace Go.Proofs.YtfikbaoiialfeaaDoor
open Go.RowKit
attribute [local go_sem] strV
set_option linter.unusedVariables false

end Go.Proofs.YtfikbaoiialfeaaDoor
namespace Go.Proofs.YtfikbaoiialfeaaDoor
open Go.RowKit
attribute [local go_sem] strV
set_option linter.unusedVariables false

end Go.Proofs.YtfikbaoiialfeaaDoor
namespace Go.Proofs.YtfikbaoiialfeaaDoor
open Go.RowKit
attribute [local go_sem] strV
set_option linter.unusedVariables false

end Go.Proofs.YtfikbaoiialfeaaDoor
namespace Go.Proofs.YtfikbaoiialfeaaDoor
open Go.RowKit
attribute [local go_sem] strV
set_option linter.unusedVariables false

end Go.Proofs.YtfikbaoiialfeaaDoor
namespace Go.Proofs.YtfikbaoiialfeaaDoor
open Go.RowKit
set_option linter.unusedVariables false
/-- On an error the value is z. -/
def fixP {α : Type} (P : ByteArray → Int → Int → α × Int × Int) (z : α) (s : ByteArray) (a e : Int) : α × Int × Int := (if (P s a e).2.2 = 0 then (P s a e).1 else z, (P s a e).2.1, (P s a e).2.2)
theorem Codec.fix {α : Type} {P : ByteArray → Int → Int → α × Int × Int} {enc : α → List UInt8} {ok : α → Prop} (h : Codec P enc ok) (z : α) : Codec (fixP P z) enc ok := by
  refine ⟨fun {s A B x} hx hs => ?_, fun {s A x k} hx hs hk => ?_, fun {s a e} he => ?_, fun {s i a' x} hi' hh => ?_⟩
  · unfold fixP; rw [h.good hx hs]; rfl
  · exact h.cut hx hs hk
  · exact h.stay he
  · obtain ⟨⟨x1, a1, e1⟩, hx⟩ : ∃ t, P s i 0 = t := ⟨_, rfl⟩
    unfold fixP at hh
    simp only [hx, Prod.mk.injEq] at hh
    obtain ⟨q1, rfl, rfl⟩ := hh
    rw [if_pos rfl] at q1
    subst q1
    exact h.back hi' hx
structure PfD where
  ct : Int
  xs : List LeafD
/-- A message without addresses. -/
structure MsgD where
  kd : Int
  hh : Int
  ht : Int
  rt : H32
  pk : PkT
  ack : ByteArray
  nx : Int
  he : Int
  p : PfD
  c : PfD
def PfD.zero : PfD := ⟨0, []⟩
def MsgD.zero (kd : Int) : MsgD := ⟨kd, 0, 0, zeroM, PkT.zero, ⟨#[]⟩, 0, 0, PfD.zero, PfD.zero⟩
def MsgV.d (m : MsgV) : MsgD := ⟨m.kd, m.hh, m.ht, m.rt, ((m.sp, m.sc), (m.dp, m.dc), m.sq, m.da, m.th, m.ta), m.ack, m.nx, m.he, ⟨m.pct, m.pxs.map LeafV.d⟩, ⟨m.cct, m.cxs.map LeafV.d⟩⟩
def LeafD.v (x : LeafD) : LeafV := ⟨x.key, x.val, x.idx, none, x.path.length, x.path.length, x.path⟩
def MsgD.v (m : MsgD) : MsgV := ⟨m.kd, m.hh, m.ht, m.rt, m.pk.1.1, m.pk.1.2, m.pk.2.1.1, m.pk.2.1.2, m.pk.2.2.1, m.pk.2.2.2.1, m.pk.2.2.2.2.1, m.pk.2.2.2.2.2, m.ack, m.nx, m.he, m.p.ct, none, m.p.xs.length, m.p.xs.length, m.p.xs.map LeafD.v, m.c.ct, none, m.c.xs.length, m.c.xs.length, m.c.xs.map LeafD.v⟩
end Go.Proofs.YtfikbaoiialfeaaDoor
