/- Proofs in memory: leaves, whether two are the same, whether one may be. Proofs: whether one may be, whether one is light, its steps. Pairs of a key and its value; lists of them that are good. Lists of texts, each of which is read further: what was written is read, what is read was written so, cut short it is none. A count that is read. Proofs: their steps, their bytes. Messages as records of fifty cells; headers and packets that are the same. Messages without the fields that their kind does not have. Messages that are the same. Messages that may be; messages that are light. Messages written. Messages in bytes, their size. Messages out of bytes, as lists: a codec. A region that draws its order, whose calls write where others look, each yielding one value, with several operations behind all others, in one order: the state is told by which operations are done. A region that draws its order, told by a state that goes by what is done and by the values so far, with several operations behind all others, in one order. Rows that the call itself has made; leaves whose ways lie in young blocks. -/
import Derived.Test.YtpledhipdiephaaDoorT8
import Derived.Test.YtpledhipdiephaaDoorSt3
import Derived.Test.YtpledhipdiephaaDoorT7
import Derived.Test.YtpledhipdiephaaDoorT1
import Derived.WalkKit
import Derived.ProofKit
import Derived.Handy
import Derived.Below
import Derived.Lib.Hide
import Derived.IntWalk
import Derived.Outline
import Derived.WalkLawsBesides
import Derived.WalkSpells
import Derived.Test.YtpledhipdiephaaDoorT9
import Derived.Test.YtpledhipdiephaaDoorT6
import Derived.BigRegion
import Derived.RegionTactic
import Derived.BigQuiet
import Derived.Deep.QuietTactic
import Derived.Deep.MidRow
import Derived.LoopTactic
import Derived.BigFrame
import Derived.Deep.Upon
import Derived.Test.YtpledhipdiephaaDoorT4
import Derived.Test.YtpledhipdiephaaDoorPhiC
namespace Go.Proofs.YtpledhipdiephaaDoor
open Go.RowKit
attribute [local go_sem] strV
set_option linter.unusedVariables false

structure LeafD where
  key : ByteArray
  val : ByteArray
  idx : Int
  path : List H32
/-- A leaf as it lies in memory. -/
structure LeafV where
  key : ByteArray
  val : ByteArray
  idx : Int
  pa : Option Addr
  pn : Nat
  pc : Nat
  path : List H32
def LeafV.cells (x : LeafV) : List Value := [.string x.key, .string x.val, .int .i64 x.idx, .slice x.pa x.pn x.pc]
theorem LeafV.cells_len (x : LeafV) : x.cells.length = 4 := rfl
def LeafV.d (x : LeafV) : LeafD := ⟨x.key, x.val, x.idx, x.path⟩
structure LeafV.ok (x : LeafV) (w : World) : Prop where
  row : RowAt w x.pa (x.path.flatMap H32.cells)
  len : x.path.length = x.pn
  cap : x.pn ≤ x.pc
  capM : x.pc ≤ maxLen
  keyM : x.key.size ≤ maxLen
  valM : x.val.size ≤ maxLen
theorem LeafV.ok.below {x : LeafV} {w w' : World} (h : x.ok w) (hb : Below w.heap.size w w') : x.ok w' := ⟨h.row.below hb, h.len, h.cap, h.capM, h.keyM, h.valM⟩
structure LvsAt (w : World) (a : Option Addr) (xs : List LeafV) : Prop where
  row : RowAt w a (xs.flatMap LeafV.cells)
  each : ∀ x ∈ xs, x.ok w
theorem LvsAt.below {w w' : World} {a : Option Addr} {xs : List LeafV} (h : LvsAt w a xs) (hb : Below w.heap.size w w') : LvsAt w' a xs := ⟨h.row.below hb, fun x hx => (h.each x hx).below hb⟩
theorem LvsAt.nil (w : World) (a : Option Addr) : LvsAt w a [] := ⟨RowAt.nil _ _, fun x h => by cases h⟩
end Go.Proofs.YtpledhipdiephaaDoor
namespace Go.Proofs.YtpledhipdiephaaDoor
open Go.RowKit
attribute [local go_sem] strV
set_option linter.unusedVariables false

end Go.Proofs.YtpledhipdiephaaDoor
namespace Go.Proofs.YtpledhipdiephaaDoor
open Go.RowKit
attribute [local go_sem] strV
set_option linter.unusedVariables false
end Go.Proofs.YtpledhipdiephaaDoor
namespace Go.Proofs.YtpledhipdiephaaDoor
open Go.RowKit
set_option linter.unusedVariables false
section
variable {α : Type}
variable {P : ByteArray → Int → Int → α × Int × Int} {enc : α → List UInt8} {ok : α → Prop}
/-- The same codec, in other words. -/
theorem Codec.as {enc' : α → List UInt8} {ok' : α → Prop} (h : Codec P enc ok) (h1 : ∀ x, ok' x → ok x ∧ enc x = enc' x) (h2 : ∀ x, ok x → ok' x) : Codec P enc' ok' := by
  refine ⟨fun {s A B x} hx hs => ?_, fun {s A x k} hx hs hk => ?_, fun {s a e} he => h.stay he, fun {s i a' x} hi' hh => ?_⟩
  · rw [← (h1 x hx).2] at hs ⊢
    exact h.good (h1 x hx).1 hs
  · rw [← (h1 x hx).2] at hs hk
    exact h.cut (h1 x hx).1 hs hk
  · obtain ⟨o, m, r1, r2, r3⟩ := h.back hi' hh
    exact ⟨h2 x o, m, r1, r2, by rw [← (h1 x (h2 x o)).2]; exact r3⟩
end
end Go.Proofs.YtpledhipdiephaaDoor
namespace Go.Proofs.YtpledhipdiephaaDoor
open Go.RowKit
set_option linter.unusedVariables false
end Go.Proofs.YtpledhipdiephaaDoor
namespace Go.Proofs.YtpledhipdiephaaDoor
open Go.RowKit
attribute [local go_sem] strV
set_option linter.unusedVariables false

end Go.Proofs.YtpledhipdiephaaDoor
namespace Go.Proofs.YtpledhipdiephaaDoor
open Go.RowKit
attribute [local go_sem] strV
set_option linter.unusedVariables false

structure MsgV where
  kd : Int
  hh : Int
  ht : Int
  rt : H32
  sp : ByteArray
  sc : Int
  dp : ByteArray
  dc : Int
  sq : Int
  da : ByteArray
  th : Int
  ta : Int
  ack : ByteArray
  nx : Int
  he : Int
  pct : Int
  pa : Option Addr
  pn : Nat
  pc : Nat
  pxs : List LeafV
  cct : Int
  ca : Option Addr
  cn : Nat
  cc : Nat
  cxs : List LeafV
def MsgV.back (m : MsgV) : List Value := [.string m.sp, .int .i64 m.sc, .string m.dp, .int .i64 m.dc, .int .i64 m.sq, .string m.da, .int .i64 m.th, .int .i64 m.ta, .string m.ack, .int .i64 m.nx, .int .i64 m.he, .int .i64 m.pct, .slice m.pa m.pn m.pc, .int .i64 m.cct, .slice m.ca m.cn m.cc]
def MsgV.L (m : MsgV) : List Value := [.int .i64 m.kd, .int .i64 m.hh, .int .i64 m.ht] ++ (m.rt.cells ++ m.back)
def MsgV.row (m : MsgV) : Array Value := m.L.toArray
/-- What lies behind a message's slices. -/
structure MsgV.ok (m : MsgV) (w : World) : Prop where
  p : LvsAt w m.pa m.pxs
  plen : m.pxs.length = m.pn
  pcap : m.pn ≤ m.pc
  pcM : m.pc ≤ maxLen
  c : LvsAt w m.ca m.cxs
  clen : m.cxs.length = m.cn
  ccap : m.cn ≤ m.cc
  ccM : m.cc ≤ maxLen
  spM : m.sp.size ≤ maxLen
  dpM : m.dp.size ≤ maxLen
theorem MsgV.ok.below {m : MsgV} {w w' : World} (h : m.ok w) (hb : Below w.heap.size w w') : m.ok w' := ⟨h.p.below hb, h.plen, h.pcap, h.pcM, h.c.below hb, h.clen, h.ccap, h.ccM, h.spM, h.dpM⟩
end Go.Proofs.YtpledhipdiephaaDoor
namespace Go.Proofs.YtpledhipdiephaaDoor
open Go.RowKit
attribute [local go_sem] strV
set_option linter.unusedVariables false

def zeroM : H32 := ⟨List.replicate 32 0, rfl⟩
def MsgV.zero (kd : Int) : MsgV := ⟨kd, 0, 0, zeroM, ⟨#[]⟩, 0, ⟨#[]⟩, 0, 0, ⟨#[]⟩, 0, 0, ⟨#[]⟩, 0, 0, 0, none, 0, 0, [], 0, none, 0, 0, []⟩
def MsgV.plain (m : MsgV) : MsgV :=
  if m.kd = 1 then { MsgV.zero m.kd with hh := m.hh, ht := m.ht, rt := m.rt }
  else if 2 ≤ m.kd ∧ m.kd ≤ 5 then
    ⟨m.kd, 0, 0, zeroM, m.sp, m.sc, m.dp, m.dc, m.sq, m.da, m.th, m.ta, if m.kd = 3 then m.ack else ⟨#[]⟩, if m.kd = 4 ∨ m.kd = 5 then m.nx else 0, m.he, m.pct, m.pa, m.pn, m.pc, m.pxs, if m.kd = 5 then m.cct else 0, if m.kd = 5 then m.ca else none, if m.kd = 5 then m.cn else 0, if m.kd = 5 then m.cc else 0, if m.kd = 5 then m.cxs else []⟩
  else MsgV.zero m.kd
end Go.Proofs.YtpledhipdiephaaDoor
namespace Go.Proofs.YtpledhipdiephaaDoor
open Go.RowKit
attribute [local go_sem] strV
set_option linter.unusedVariables false

end Go.Proofs.YtpledhipdiephaaDoor
namespace Go.Proofs.YtpledhipdiephaaDoor
open Go.RowKit
attribute [local go_sem] strV
set_option linter.unusedVariables false

end Go.Proofs.YtpledhipdiephaaDoor
namespace Go.Proofs.YtpledhipdiephaaDoor
open Go.RowKit
attribute [local go_sem] strV
set_option linter.unusedVariables false

end Go.Proofs.YtpledhipdiephaaDoor
namespace Go.Proofs.YtpledhipdiephaaDoor
open Go.RowKit
attribute [local go_sem] strV
set_option linter.unusedVariables false

end Go.Proofs.YtpledhipdiephaaDoor
namespace Go.Proofs.YtpledhipdiephaaDoor
open Go.RowKit
set_option linter.unusedVariables false
/-- On an error the value is z. -/
def fixP {α : Type} (P : ByteArray → Int → Int → α × Int × Int) (z : α) (s : ByteArray) (a e : Int) : α × Int × Int := (if (P s a e).2.2 = 0 then (P s a e).1 else z, (P s a e).2.1, (P s a e).2.2)
theorem Codec.fix {α : Type} {P : ByteArray → Int → Int → α × Int × Int} {enc : α → List UInt8} {ok : α → Prop} (h : Codec P enc ok) (z : α) : Codec (fixP P z) enc ok := by
  refine ⟨fun {s A B x} hx hs => ?_, fun {s A x k} hx hs hk => ?_, fun {s a e} he => ?_, fun {s i a' x} hi' hh => ?_⟩
  · unfold fixP; rw [h.good hx hs]; rfl
  · exact h.cut hx hs hk
  · exact h.stay he
  · obtain ⟨⟨x1, a1, e1⟩, hx⟩ : ∃ t, P s i 0 = t := ⟨_, rfl⟩
    unfold fixP at hh
    simp only [hx, Prod.mk.injEq] at hh
    obtain ⟨q1, rfl, rfl⟩ := hh
    rw [if_pos rfl] at q1
    subst q1
    exact h.back hi' hx
structure PfD where
  ct : Int
  xs : List LeafD
/-- A message without addresses. -/
structure MsgD where
  kd : Int
  hh : Int
  ht : Int
  rt : H32
  pk : PkT
  ack : ByteArray
  nx : Int
  he : Int
  p : PfD
  c : PfD
def PfD.zero : PfD := ⟨0, []⟩
def MsgD.zero (kd : Int) : MsgD := ⟨kd, 0, 0, zeroM, PkT.zero, ⟨#[]⟩, 0, 0, PfD.zero, PfD.zero⟩
def MsgV.d (m : MsgV) : MsgD := ⟨m.kd, m.hh, m.ht, m.rt, ((m.sp, m.sc), (m.dp, m.dc), m.sq, m.da, m.th, m.ta), m.ack, m.nx, m.he, ⟨m.pct, m.pxs.map LeafV.d⟩, ⟨m.cct, m.cxs.map LeafV.d⟩⟩
def LeafD.v (x : LeafD) : LeafV := ⟨x.key, x.val, x.idx, none, x.path.length, x.path.length, x.path⟩
def MsgD.v (m : MsgD) : MsgV := ⟨m.kd, m.hh, m.ht, m.rt, m.pk.1.1, m.pk.1.2, m.pk.2.1.1, m.pk.2.1.2, m.pk.2.2.1, m.pk.2.2.2.1, m.pk.2.2.2.2.1, m.pk.2.2.2.2.2, m.ack, m.nx, m.he, m.p.ct, none, m.p.xs.length, m.p.xs.length, m.p.xs.map LeafD.v, m.c.ct, none, m.c.xs.length, m.c.xs.length, m.c.xs.map LeafD.v⟩
end Go.Proofs.YtpledhipdiephaaDoor
namespace Go.Proofs.YtpledhipdiephaaDoor
open Go.RowKit
section
variable {P : Program}
end
end Go.Proofs.YtpledhipdiephaaDoor
namespace Go.Proofs.YtpledhipdiephaaDoor
open Go.RowKit
section
variable {P : Program}
end
end Go.Proofs.YtpledhipdiephaaDoor
namespace Go.Proofs.YtpledhipdiephaaDoor
open Go.RowKit
attribute [local go_sem] strV
set_option linter.unusedVariables false
/-- The value's block, if there is one, is no older than B and holds elements of type T. -/
def heldA (w : World) (T : TypeId) (B : Nat) (a : Option Addr) : Prop := ∀ b off sp, a = some ⟨b, off, sp⟩ → B ≤ b ∧ ∃ cur fz, w.heap[b]? = some (.cells cur T fz)
theorem heldA.mono {w : World} {T : TypeId} {B C : Nat} {a : Option Addr} (h : heldA w T B a) (hc : C ≤ B) : heldA w T C a := fun b off sp e => ⟨Nat.le_trans hc (h b off sp e).1, (h b off sp e).2⟩
theorem heldA.nil (w : World) (T : TypeId) (B : Nat) : heldA w T B none := fun _ _ _ e => by cases e
/-- What holds elements of type T from block B on is as it was. -/
def SameT (T : TypeId) (B : Nat) (w w' : World) : Prop := w.heap.size ≤ w'.heap.size ∧ ∀ j, B ≤ j → ∀ cur fz, w.heap[j]? = some (.cells cur T fz) → w'.heap[j]? = some (.cells cur T fz)
theorem SameT.far {T : TypeId} {B : Nat} {w w' : World} (hs : w.heap.size ≤ w'.heap.size) (hk : ∀ j, B ≤ j → j < w.heap.size → w'.heap[j]? = w.heap[j]?) : SameT T B w w' :=
  ⟨hs, fun j h1 cur fz h2 => (hk j h1 (Array.getElem?_eq_some_iff.1 h2).1).trans h2⟩
theorem SameT.trans {T : TypeId} {B : Nat} {w w1 w2 : World} (h : SameT T B w w1) (g : SameT T B w1 w2) : SameT T B w w2 := ⟨Nat.le_trans h.1 g.1, fun j h1 cur fz h2 => g.2 j h1 cur fz (h.2 j h1 cur fz h2)⟩
theorem SameT.mono {T : TypeId} {B C : Nat} {w w' : World} (h : SameT T B w w') (hc : B ≤ C) : SameT T C w w' := ⟨h.1, fun j h1 => h.2 j (Nat.le_trans hc h1)⟩
theorem SameT.kept {T : TypeId} {b B : Nat} {w w' : World} (h : Kept b w w') (hb : b < B) : SameT T B w w' := SameT.far h.size (fun j h1 h2 => h.block j h2 (by omega))
theorem SameT.below {T : TypeId} {B : Nat} {w w' : World} (h : Below w.heap.size w w') : SameT T B w w' := SameT.far h.size (fun j _ h2 => h.block j h2)
theorem SameT.put {T : TypeId} {B g k : Nat} {w : World} {v : Value} (hg : g < B) : SameT T B w (w.setCell ⟨g, k, none⟩ v) := SameT.far (by rw [World.size_setCell]; exact Nat.le_refl _) (fun j h1 _ => row_oth' w g k j v (by omega))
theorem SameT.setRow {T : TypeId} {B g : Nat} {w : World} {cs : Array Value} (hg : g < B) : SameT T B w (w.setRow g cs) := SameT.far (by simp [World.setRow]) (fun j h1 _ => setRow_other w g j cs (by omega))
theorem SameT.grown {T e : TypeId} {B base size n : Nat} {w w' : World} {v : Value} {xs : List Value} (hown : w.ownsRow base e size v n xs) (hg : w.grownBy w' v.ownBlock) (hT : T ≠ e) : SameT T B w w' := by
  refine ⟨hg.size, fun j _ cur fz h2 => (hg.block j (Array.getElem?_eq_some_iff.1 h2).1 (fun h => ?_)).trans h2⟩
  rcases hown.2 with ⟨rfl, _⟩ | ⟨g, cap, cur9, rfl, _, h5, _⟩
  · cases h
  · simp only [Value.ownBlock, Option.some.injEq] at h
    subst h
    rw [h2] at h5
    simp only [Option.some.injEq, Obj.cells.injEq] at h5
    exact hT h5.2.1
theorem heldA.same {w w' : World} {T : TypeId} {B : Nat} {a : Option Addr} (h : heldA w T B a) (hs : SameT T B w w') : heldA w' T B a := fun b off sp e => by
  obtain ⟨h1, cur, fz, h2⟩ := h b off sp e
  exact ⟨h1, cur, fz, hs.2 b h1 cur fz h2⟩
theorem RowAt.same {w w' : World} {T : TypeId} {B : Nat} {a : Option Addr} {vs : List Value} (h : RowAt w a vs) (ha : heldA w T B a) (hs : SameT T B w w') : RowAt w' a vs := by
  rcases h with h | ⟨b, off, hb, hlt, hc⟩
  · exact .inl h
  · obtain ⟨h1, cur, fz, h2⟩ := ha b off none hb
    refine .inr ⟨b, off, hb, Nat.lt_of_lt_of_le hlt hs.1, fun j hj => ?_⟩
    rw [← hc j hj]
    unfold World.cell?
    rw [hs.2 b h1 cur fz h2, h2]
theorem own_held {w : World} {base : Nat} {e : TypeId} {size n : Nat} {a : Option Addr} {m cap : Nat} {xs : List Value} (h : w.ownsRow base e size (.slice a m cap) n xs) : heldA w e base a := by
  intro b off sp hb
  rcases h.2 with ⟨q, _⟩ | ⟨g, cap', cur, q, q4, q5, _⟩
  · simp only [Value.slice.injEq] at q
    rw [hb] at q; cases q.1
  · simp only [Value.slice.injEq] at q
    rw [hb] at q
    simp only [Option.some.injEq, Addr.mk.injEq] at q
    obtain ⟨⟨rfl, _, _⟩, _⟩ := q
    exact ⟨q4, cur, _, q5⟩
/-- A leaf whose way lies in a block no older than B. -/
def LeafV.held (x : LeafV) (w : World) (B : Nat) : Prop := x.ok w ∧ heldA w 35 B x.pa
theorem LeafV.held.same {x : LeafV} {w w' : World} {B : Nat} (h : x.held w B) (hs : SameT 35 B w w') : x.held w' B := ⟨⟨h.1.row.same h.2 hs, h.1.len, h.1.cap, h.1.capM, h.1.keyM, h.1.valM⟩, h.2.same hs⟩
theorem LeafV.held.mono {x : LeafV} {w : World} {B C : Nat} (h : x.held w B) (hc : C ≤ B) : x.held w C := ⟨h.1, h.2.mono hc⟩
/-- Leaves in a block no older than B, their ways likewise. -/
def lvsHeld (w : World) (B : Nat) (a : Option Addr) (xs : List LeafV) : Prop := RowAt w a (xs.flatMap LeafV.cells) ∧ heldA w 108 B a ∧ ∀ x ∈ xs, x.held w B
theorem lvsHeld.at {w : World} {B : Nat} {a : Option Addr} {xs : List LeafV} (h : lvsHeld w B a xs) : LvsAt w a xs := ⟨h.1, fun x hx => (h.2.2 x hx).1⟩
theorem lvsHeld.nil (w : World) (B : Nat) : lvsHeld w B none [] := ⟨RowAt.nil _ _, heldA.nil _ _ _, fun x h => by cases h⟩
theorem lvsHeld.same {w w' : World} {B : Nat} {a : Option Addr} {xs : List LeafV} (h : lvsHeld w B a xs) (h1 : SameT 108 B w w') (h2 : SameT 35 B w w') : lvsHeld w' B a xs := ⟨h.1.same h.2.1 h1, h.2.1.same h1, fun x hx => (h.2.2 x hx).same h2⟩
theorem lvsHeld.mono {w : World} {B C : Nat} {a : Option Addr} {xs : List LeafV} (h : lvsHeld w B a xs) (hc : C ≤ B) : lvsHeld w C a xs := ⟨h.1, h.2.1.mono hc, fun x hx => (h.2.2 x hx).mono hc⟩
theorem Kept.far {b B : Nat} {w w' : World} (h : Kept b w w') (hb : b < B) : ∀ j, B ≤ j → j < w.heap.size → w'.heap[j]? = w.heap[j]? := fun j h1 h2 => h.block j h2 (by omega)
theorem Kept.drewN {b : Nat} {w w' : World} (h : Kept b w w') (n : Nat) : Kept b w { w' with drawn := w'.drawn + n } := ⟨h.os, h.tape, h.output, h.size, h.block⟩
theorem fold_atN {n : Nat} (R Z : Array Value) (hR : R.size = n) (hZ : n ≤ Z.size) : Array.foldl (fun cs x => cs.setIfInBounds x.2 x.1) Z R.zipIdx 0 n = (R.toList ++ Z.toList.drop n).toArray := by
  have key : ∀ (vs : List Value) (k : Nat) (cur : Array Value), k + vs.length ≤ cur.size → (vs.zipIdx k).foldl (fun a x => a.setIfInBounds x.2 x.1) cur = (cur.toList.take k ++ vs ++ cur.toList.drop (k + vs.length)).toArray := by
    intro vs
    induction vs with
    | nil => intro k cur h; simp
    | cons v r ih =>
      intro k cur h
      rw [List.length_cons] at h
      rw [List.zipIdx_cons, List.foldl_cons, ih (k + 1) _ (by rw [Array.size_setIfInBounds]; omega)]
      apply congrArg List.toArray
      have hk : k < cur.toList.length := by rw [Array.length_toList]; omega
      rw [Array.toList_setIfInBounds, List.take_succ_eq_append_getElem (by rw [List.length_set]; exact hk), List.getElem_set_self, List.take_set, List.set_eq_of_length_le (by rw [List.length_take]; omega), List.drop_set, if_pos (by omega), List.length_cons, show k + 1 + r.length = k + (r.length + 1) by omega]
      simp
  have h3 : R.zipIdx.size = n := by simpa using hR
  rw [← h3, ← Array.foldl_toList, Array.toList_zipIdx, key R.toList 0 Z (by rw [Array.length_toList]; omega), Array.length_toList, hR, h3]
  simp
theorem one_hash (R : Array Value) (hR : R.size = 32) (W : World) : (Instr.buildSlice 106 1 #[(0, .agg R)]).run Tryd.prog W = .ok (.slice (some ⟨W.heap.size, 0, none⟩) 1 1) (W.alloc (.cells R 35)) := by
  have h1 := fun Z hZ => fold_atN R Z hR hZ
  simp [go_sem, hR, h1]
end Go.Proofs.YtpledhipdiephaaDoor
