/- Rows that the call itself has made; leaves whose ways lie in young blocks. A leaf out of bytes. A proof out of bytes. Messages out of bytes: how they are read, kind by kind. Messages out of bytes. What a message costs. What messages cost together. Transactions in bytes. Transactions out of bytes: what is read, what was written. The next message of a transaction. The messages of a transaction. -/
import Derived.Test.YthipnkbfdkmhaaaSD
import Derived.Test.YthipnkbfdkmhaaaGG
import Derived.Deep.MidRow
import Derived.LoopTactic
import Derived.BigFrame
import Derived.WalkKit
import Derived.ProofKit
import Derived.Handy
import Derived.Below
import Derived.Lib.Hide
import Derived.IntWalk
import Derived.Outline
import Derived.WalkLawsBesides
import Derived.WalkSpells
import Derived.BigRegion
import Derived.RegionTactic
import Derived.Deep.Upon
import Derived.BigQuiet
import Derived.Test.YthipnkbfdkmhaaaSA
namespace Go.Proofs.Ythipnkbfdkmhaaa
open Go.RowKit
attribute [local go_sem] strV
set_option linter.unusedVariables false
theorem own_far {w w' : World} {base : Nat} {e : TypeId} {size n : Nat} {v : Value} {xs : List Value} (h : w.ownsRow base e size v n xs) (hk : ∀ j, base ≤ j → j < w.heap.size → w'.heap[j]? = w.heap[j]?) : w'.ownsRow base e size v n xs := by
  obtain ⟨h1, h2⟩ := h
  refine ⟨h1, ?_⟩
  rcases h2 with h | ⟨g, cap, cur, h3, h4, h5, h6⟩
  · exact .inl h
  · exact .inr ⟨g, cap, cur, h3, h4, (hk g h4 (Array.getElem?_eq_some_iff.1 h5).1).trans h5, h6⟩
theorem own_slice {w : World} {base : Nat} {e : TypeId} {size n : Nat} {v : Value} {xs : List Value} (h : w.ownsRow base e size v n xs) :
    ∃ a cap, v = .slice a n cap ∧ RowAt w a xs ∧ n ≤ cap ∧ cap ≤ maxLen ∧ ∀ b off sp, a = some ⟨b, off, sp⟩ → base ≤ b := by
  obtain ⟨a, cap, hv, hr, _⟩ := RowAt.own h
  obtain ⟨h1, h2⟩ := h
  refine ⟨a, cap, hv, hr, ?_⟩
  rcases h2 with ⟨q1, q2⟩ | ⟨g, cap', cur, q1, q4, _, q2, q3, _⟩
  · rw [q1] at hv
    simp only [Value.slice.injEq] at hv
    obtain ⟨r0, r1, r2⟩ := hv
    refine ⟨by omega, by rw [← r2]; exact Nat.zero_le _, fun b off sp hb => ?_⟩
    rw [← r0] at hb; cases hb
  · rw [q1] at hv
    simp only [Value.slice.injEq] at hv
    obtain ⟨r0, _, r2⟩ := hv
    refine ⟨by omega, by omega, fun b off sp hb => ?_⟩
    rw [← r0] at hb
    simp only [Option.some.injEq, Addr.mk.injEq] at hb
    omega
theorem own_kept9 {w w' : World} {base : Nat} {e : TypeId} {size n : Nat} {v : Value} {xs : List Value} (h : w.ownsRow base e size v n xs) (hb : Below w.heap.size w w') : w'.ownsRow base e size v n xs := own_far h (fun j _ q => hb.block j q)
theorem listP_step {α : Type} {P : ByteArray → Int → Int → α × Int × Int} {n k : Nat} {s : ByteArray} {a e : Int} {x : α} {a1 e1 : Int} (h : k < n) (hx : P s a e = (x, a1, e1)) :
    listP P (n - k) s a e = (x :: (listP P (n - (k + 1)) s a1 e1).1, (listP P (n - (k + 1)) s a1 e1).2.1, (listP P (n - (k + 1)) s a1 e1).2.2) := by
  rw [show n - k = (n - (k + 1)) + 1 by omega]
  show (_, _, _) = _
  rw [hx]
/-- The value's block, if there is one, is no older than B and holds elements of type T. -/
def heldA (w : World) (T : TypeId) (B : Nat) (a : Option Addr) : Prop := ∀ b off sp, a = some ⟨b, off, sp⟩ → B ≤ b ∧ ∃ cur fz, w.heap[b]? = some (.cells cur T fz)
theorem heldA.mono {w : World} {T : TypeId} {B C : Nat} {a : Option Addr} (h : heldA w T B a) (hc : C ≤ B) : heldA w T C a := fun b off sp e => ⟨Nat.le_trans hc (h b off sp e).1, (h b off sp e).2⟩
theorem heldA.nil (w : World) (T : TypeId) (B : Nat) : heldA w T B none := fun _ _ _ e => by cases e
/-- What holds elements of type T from block B on is as it was. -/
def SameT (T : TypeId) (B : Nat) (w w' : World) : Prop := w.heap.size ≤ w'.heap.size ∧ ∀ j, B ≤ j → ∀ cur fz, w.heap[j]? = some (.cells cur T fz) → w'.heap[j]? = some (.cells cur T fz)
theorem SameT.far {T : TypeId} {B : Nat} {w w' : World} (hs : w.heap.size ≤ w'.heap.size) (hk : ∀ j, B ≤ j → j < w.heap.size → w'.heap[j]? = w.heap[j]?) : SameT T B w w' :=
  ⟨hs, fun j h1 cur fz h2 => (hk j h1 (Array.getElem?_eq_some_iff.1 h2).1).trans h2⟩
theorem SameT.trans {T : TypeId} {B : Nat} {w w1 w2 : World} (h : SameT T B w w1) (g : SameT T B w1 w2) : SameT T B w w2 := ⟨Nat.le_trans h.1 g.1, fun j h1 cur fz h2 => g.2 j h1 cur fz (h.2 j h1 cur fz h2)⟩
theorem SameT.mono {T : TypeId} {B C : Nat} {w w' : World} (h : SameT T B w w') (hc : B ≤ C) : SameT T C w w' := ⟨h.1, fun j h1 => h.2 j (Nat.le_trans hc h1)⟩
theorem SameT.kept {T : TypeId} {b B : Nat} {w w' : World} (h : Kept b w w') (hb : b < B) : SameT T B w w' := SameT.far h.size (fun j h1 h2 => h.block j h2 (by omega))
theorem SameT.below {T : TypeId} {B : Nat} {w w' : World} (h : Below w.heap.size w w') : SameT T B w w' := SameT.far h.size (fun j _ h2 => h.block j h2)
theorem SameT.put {T : TypeId} {B g k : Nat} {w : World} {v : Value} (hg : g < B) : SameT T B w (w.setCell ⟨g, k, none⟩ v) := SameT.far (by rw [World.size_setCell]; exact Nat.le_refl _) (fun j h1 _ => row_oth' w g k j v (by omega))
theorem SameT.setRow {T : TypeId} {B g : Nat} {w : World} {cs : Array Value} (hg : g < B) : SameT T B w (w.setRow g cs) := SameT.far (by simp [World.setRow]) (fun j h1 _ => setRow_other w g j cs (by omega))
theorem SameT.grown {T e : TypeId} {B base size n : Nat} {w w' : World} {v : Value} {xs : List Value} (hown : w.ownsRow base e size v n xs) (hg : w.grownBy w' v.ownBlock) (hT : T ≠ e) : SameT T B w w' := by
  refine ⟨hg.size, fun j _ cur fz h2 => (hg.block j (Array.getElem?_eq_some_iff.1 h2).1 (fun h => ?_)).trans h2⟩
  rcases hown.2 with ⟨rfl, _⟩ | ⟨g, cap, cur9, rfl, _, h5, _⟩
  · cases h
  · simp only [Value.ownBlock, Option.some.injEq] at h
    subst h
    rw [h2] at h5
    simp only [Option.some.injEq, Obj.cells.injEq] at h5
    exact hT h5.2.1
theorem heldA.same {w w' : World} {T : TypeId} {B : Nat} {a : Option Addr} (h : heldA w T B a) (hs : SameT T B w w') : heldA w' T B a := fun b off sp e => by
  obtain ⟨h1, cur, fz, h2⟩ := h b off sp e
  exact ⟨h1, cur, fz, hs.2 b h1 cur fz h2⟩
theorem RowAt.same {w w' : World} {T : TypeId} {B : Nat} {a : Option Addr} {vs : List Value} (h : RowAt w a vs) (ha : heldA w T B a) (hs : SameT T B w w') : RowAt w' a vs := by
  rcases h with h | ⟨b, off, hb, hlt, hc⟩
  · exact .inl h
  · obtain ⟨h1, cur, fz, h2⟩ := ha b off none hb
    refine .inr ⟨b, off, hb, Nat.lt_of_lt_of_le hlt hs.1, fun j hj => ?_⟩
    rw [← hc j hj]
    unfold World.cell?
    rw [hs.2 b h1 cur fz h2, h2]
/-- A leaf whose way lies in a block no older than B. -/
def LeafV.held (x : LeafV) (w : World) (B : Nat) : Prop := x.ok w ∧ heldA w 23 B x.pa
theorem LeafV.held.same {x : LeafV} {w w' : World} {B : Nat} (h : x.held w B) (hs : SameT 23 B w w') : x.held w' B := ⟨⟨h.1.row.same h.2 hs, h.1.len, h.1.cap, h.1.capM, h.1.keyM, h.1.valM⟩, h.2.same hs⟩
theorem LeafV.held.mono {x : LeafV} {w : World} {B C : Nat} (h : x.held w B) (hc : C ≤ B) : x.held w C := ⟨h.1, h.2.mono hc⟩
/-- Leaves in a block no older than B, their ways likewise. -/
def lvsHeld (w : World) (B : Nat) (a : Option Addr) (xs : List LeafV) : Prop := RowAt w a (xs.flatMap LeafV.cells) ∧ heldA w 111 B a ∧ ∀ x ∈ xs, x.held w B
theorem lvsHeld.at {w : World} {B : Nat} {a : Option Addr} {xs : List LeafV} (h : lvsHeld w B a xs) : LvsAt w a xs := ⟨h.1, fun x hx => (h.2.2 x hx).1⟩
theorem lvsHeld.nil (w : World) (B : Nat) : lvsHeld w B none [] := ⟨RowAt.nil _ _, heldA.nil _ _ _, fun x h => by cases h⟩
theorem lvsHeld.same {w w' : World} {B : Nat} {a : Option Addr} {xs : List LeafV} (h : lvsHeld w B a xs) (h1 : SameT 111 B w w') (h2 : SameT 23 B w w') : lvsHeld w' B a xs := ⟨h.1.same h.2.1 h1, h.2.1.same h1, fun x hx => (h.2.2 x hx).same h2⟩
theorem lvsHeld.mono {w : World} {B C : Nat} {a : Option Addr} {xs : List LeafV} (h : lvsHeld w B a xs) (hc : C ≤ B) : lvsHeld w C a xs := ⟨h.1, h.2.1.mono hc, fun x hx => (h.2.2 x hx).mono hc⟩
theorem setRow_size (w : World) (g : Nat) (cs : Array Value) : (w.setRow g cs).heap.size = w.heap.size := by simp [World.setRow]
theorem Kept.far {b B : Nat} {w w' : World} (h : Kept b w w') (hb : b < B) : ∀ j, B ≤ j → j < w.heap.size → w'.heap[j]? = w.heap[j]? := fun j h1 h2 => h.block j h2 (by omega)
theorem Kept.drew {b : Nat} {w w' : World} (h : Kept b w w') (n : Nat) : Kept b w { w' with drawn := w'.drawn + n } := ⟨h.os, h.tape, h.output, h.size, h.block⟩
theorem RAt.drew {b : Nat} {w : World} {s : ByteArray} {A E : Int} (h : RAt b w s A E) (n : Nat) : RAt b { w with drawn := w.drawn + n } s A E := h
theorem fold_atN {n : Nat} (R Z : Array Value) (hR : R.size = n) (hZ : n ≤ Z.size) : Array.foldl (fun cs x => cs.setIfInBounds x.2 x.1) Z R.zipIdx 0 n = (R.toList ++ Z.toList.drop n).toArray := by
  have key : ∀ (vs : List Value) (k : Nat) (cur : Array Value), k + vs.length ≤ cur.size → (vs.zipIdx k).foldl (fun a x => a.setIfInBounds x.2 x.1) cur = (cur.toList.take k ++ vs ++ cur.toList.drop (k + vs.length)).toArray := by
    intro vs
    induction vs with
    | nil => intro k cur h; simp
    | cons v r ih =>
      intro k cur h
      rw [List.length_cons] at h
      rw [List.zipIdx_cons, List.foldl_cons, ih (k + 1) _ (by rw [Array.size_setIfInBounds]; omega)]
      apply congrArg List.toArray
      have hk : k < cur.toList.length := by rw [Array.length_toList]; omega
      rw [Array.toList_setIfInBounds, List.take_succ_eq_append_getElem (by rw [List.length_set]; exact hk), List.getElem_set_self, List.take_set, List.set_eq_of_length_le (by rw [List.length_take]; omega), List.drop_set, if_pos (by omega), List.length_cons, show k + 1 + r.length = k + (r.length + 1) by omega]
      simp
  have h3 : R.zipIdx.size = n := by simpa using hR
  rw [← h3, ← Array.foldl_toList, Array.toList_zipIdx, key R.toList 0 Z (by rw [Array.length_toList]; omega), Array.length_toList, hR, h3]
  simp
theorem wpList_one {P : Program} {ops : Array Oper} {rest : List Oper} {op : Oper} {a : Act} {w : World} {Q : Exit → Act → World → Prop} {R : Array Value} (hgd : op.guard = none) (x : Operand) (t e : TypeId) (ho : op.op = .buildSlice t 1 #[(0, x)]) (hx : a.eval x = .agg R)
    (hrun : (Instr.buildSlice t 1 #[(0, .agg R)]).run P w = .ok (.slice (some ⟨w.heap.size, 0, none⟩) 1 1) (w.alloc (.cells R e)))
    (h : wpList P ops Q rest (a.put op.dst (.slice (some ⟨w.heap.size, 0, none⟩) 1 1)) (w.alloc (.cells R e))) : wpList P ops Q (op :: rest) a w :=
  wpList_plain hgd fun _ hK => by
    unfold Oper.wp
    simp [execOp, ho, hx, hrun, Result.andThen]
    exact hK _ _ h
end Go.Proofs.Ythipnkbfdkmhaaa
namespace Go.Proofs.Ythipnkbfdkmhaaa
open Go.RowKit
attribute [local go_sem] strV
set_option linter.unusedVariables false
end Go.Proofs.Ythipnkbfdkmhaaa
namespace Go.Proofs.Ythipnkbfdkmhaaa
open Go.RowKit
attribute [local go_sem] strV
set_option linter.unusedVariables false
end Go.Proofs.Ythipnkbfdkmhaaa
namespace Go.Proofs.Ythipnkbfdkmhaaa
open Go.RowKit
attribute [local go_sem] strV
set_option linter.unusedVariables false
/-- What lies behind a message's slices lies in blocks no older than B. -/
def MsgV.heldM (m : MsgV) (w : World) (B : Nat) : Prop := lvsHeld w B m.pa m.pxs ∧ lvsHeld w B m.ca m.cxs
theorem MsgV.heldM.same {m : MsgV} {w w' : World} {B : Nat} (h : m.heldM w B) (h1 : SameT 111 B w w') (h2 : SameT 23 B w w') : m.heldM w' B := ⟨h.1.same h1 h2, h.2.same h1 h2⟩
theorem MsgV.heldM.mono {m : MsgV} {w : World} {B C : Nat} (h : m.heldM w B) (hc : C ≤ B) : m.heldM w C := ⟨h.1.mono hc, h.2.mono hc⟩
theorem MsgV.ok.held {m : MsgV} {w w' : World} {B : Nat} (h : m.ok w) (g : m.heldM w' B) : m.ok w' := ⟨g.1.at, h.plen, h.pcap, h.pcM, g.2.at, h.clen, h.ccap, h.ccM, h.spM, h.dpM⟩
theorem setCells_oth {g j : Nat} : ∀ (vs : List Value) (o : Nat) {w : World}, g ≠ j → (w.setCells g o vs).heap[j]? = w.heap[j]?
  | [], _, _, _ => rfl
  | v :: r, o, w, hne => by
    show ((w.setCell ⟨g, o, none⟩ v).setCells g (o + 1) r).heap[j]? = _
    rw [setCells_oth r (o + 1) hne]
    exact row_oth' w g o j v (Ne.symm hne)
theorem RAt.cells {b g : Nat} {w : World} {s : ByteArray} {A E : Int} (h : RAt b w s A E) (hne : g ≠ b) (o : Nat) (vs : List Value) : RAt b (w.setCells g o vs) s A E := by
  unfold RAt at h ⊢
  rw [setCells_oth vs o hne]; exact h
end Go.Proofs.Ythipnkbfdkmhaaa
namespace Go.Proofs.Ythipnkbfdkmhaaa
open Go.RowKit
attribute [local go_sem] strV
set_option linter.unusedVariables false
end Go.Proofs.Ythipnkbfdkmhaaa
namespace Go.Proofs.Ythipnkbfdkmhaaa
open Go.RowKit
attribute [local go_sem] strV
set_option linter.unusedVariables false

def priceM (m : MsgV) : Int := if (msgS m).size = 0 then 0 else 1000 + 3 * ((msgS m).size : Int) + 50 * ((stepsD m.pxs : Int) + (stepsD m.cxs : Int))
set_option maxRecDepth 100000 in
set_option maxHeartbeats 2000000 in
theorem price_any (m : MsgV) (w : World) (hm : m.ok w) (hs : (msgS m).size ≤ 10000) (hp : m.pn ≤ 5) (hc : m.cn ≤ 5) (hpp : ∀ x ∈ m.pxs, x.path.length ≤ 40) (hcp : ∀ x ∈ m.cxs, x.path.length ≤ 40) (sp : stepsD m.pxs ≤ 1000) (sc : stepsD m.cxs ≤ 1000) :
    Calls Try.prog 34 #[.agg m.row] w fun e w' => e = .returned (.int .i64 (priceM m)) ∧ Below w.heap.size w w' := by
  have CS := fun W (hb : Below w.heap.size w W) => msgSize_any m W (hm.below hb)
  have CP := fun W (hb : Below w.heap.size w W) => steps_any m.pct m.pa m.pn m.pc m.pxs W (hm.p.below hb) hm.plen hp hpp
  have CC := fun W (hb : Below w.heap.size w W) => steps_any m.cct m.ca m.cn m.cc m.cxs W (hm.c.below hb) hm.clen hc hcp
  obtain ⟨s, es⟩ : ∃ s, (msgS m).size = s := ⟨_, rfl⟩
  obtain ⟨a, ea⟩ : ∃ s, stepsD m.pxs = s := ⟨_, rfl⟩
  obtain ⟨b, eb⟩ : ∃ s, stepsD m.cxs = s := ⟨_, rfl⟩
  have hP : priceM m = if s = 0 then 0 else 1000 + 3 * (s : Int) + 50 * ((a : Int) + (b : Int)) := by unfold priceM; rw [es, ea, eb]
  rw [hP]
  simp only [es] at CS hs
  simp only [ea] at CP sp
  simp only [eb] at CC sc
  clear es ea eb hP
  go_enter Try.func34, Try.ntmps34
  go_upto_region 1 with fail
  refine wp_nameE _ (fun W1 hX => ?_)
  have hg : W1.heap[w.heap.size]? = some (.cells m.row 34 (0, 0)) := by rw [hX]; exact heap_push _ _ _
  have hbel : Below w.heap.size w W1 := by rw [hX]; exact Below.alloc (Below.refl _ _) (Nat.le_refl _) _
  clear hX
  have hgl : w.heap.size < W1.heap.size := (Array.getElem?_eq_some_iff.1 hg).1
  go_upto_region 2 with (first | (refine wpList_load_mid rfl 34 (.tmp 1) rfl w.heap.size 0 rfl m.row.toList _ (rangeAt_row5 hg) Try.underlying34 rfl (msg_info _) ?_; rw [Array.toArray_toList]) | (go_at_call 26; refine (CS _ hbel).mono ?_; rintro e w2 ⟨rfl, hb⟩; have hg := cells_of hg hb hgl; have hgl := Nat.lt_of_lt_of_le hgl hb.size; have hbel := hbel.trans (hb.mono hbel.size); clear hb))
  refine wp_nameE _ (fun W2 hX => ?_)
  have hg2 : W2.heap[w.heap.size]? = some (.cells m.row 34 (0, 0)) := by rw [hX]; exact hg
  have hbel2 : Below w.heap.size w W2 := by rw [hX]; exact hbel
  have hgl2 : w.heap.size < W2.heap.size := (Array.getElem?_eq_some_iff.1 hg2).1
  clear hX hg hgl hbel CS
  by_cases h0 : s = 0
  · have d0 : (((s : Nat) : Int) == 0) = true := by rw [h0]; rfl
    subst h0
    go_wp2
    go_ret
    exact ⟨by first | rfl | simp, hbel2⟩
  have d0 : (((s : Nat) : Int) == 0) = false := beq_eq_false_iff_ne.2 (by omega)
  go_upto_region 4 with fail
  have z : ∀ n : Beyond W2, n.x.cell? ⟨w.heap.size, 46, none⟩ = some (.int .i64 m.pct) ∧ n.x.cell? ⟨w.heap.size, 47, none⟩ = some (.slice m.pa m.pn m.pc) ∧ n.x.cell? ⟨w.heap.size, 48, none⟩ = some (.int .i64 m.cct) ∧ n.x.cell? ⟨w.heap.size, 49, none⟩ = some (.slice m.ca m.cn m.cc) := fun n => by
    have h := msg_cells (cells_of hg2 n.h hgl2)
    exact ⟨h.2.2.2.2.2.2.2.2.2.2.2.2.2.2.1, h.2.2.2.2.2.2.2.2.2.2.2.2.2.2.2.1, h.2.2.2.2.2.2.2.2.2.2.2.2.2.2.2.2.1, h.2.2.2.2.2.2.2.2.2.2.2.2.2.2.2.2.2⟩
  have z0 := fun n => (z n).1
  have z1 := fun n => (z n).2.1
  have z2 := fun n => (z n).2.2.1
  have z3 := fun n => (z n).2.2.2
  clear z
  refine wp_region_below (by kernel_rfl) (by kernel_rfl) ?_
  repeat (go_big_quiet_step (first | (go_at_call 37; with_reducible exact quiet_below (CP _ (hbel2.trans ((Beyond.h _).mono hbel2.size)))) | (go_at_call 37; with_reducible exact quiet_below (CC _ (hbel2.trans ((Beyond.h _).mono hbel2.size))))))
  intro w9 hw9
  have hb := beyond_below hw9
  have hbel := hbel2.trans (hb.mono hbel2.size)
  go_wp2
  go_ret
  exact ⟨by first | rfl | simp, hbel⟩
theorem msgBy_len {m : MsgV} (h : mayMsgB m = true) : (msgBy m).length ≤ 6000 := by
  obtain ⟨_, _, hR⟩ := may_kd h
  have a1 := putL_len' m.hh; have a2 := putL_len' m.ht; have a3 := putL_len' m.he; have a4 := putL_len' m.nx; have a5 := putL_len' (m.ack.size : Int)
  have b1 := putL_len' 1; have b2 := putL_len' 2; have b3 := putL_len' 3; have b4 := putL_len' 4; have b5 := putL_len' 5
  have r := m.rt.2
  by_cases k1 : m.kd = 1
  · unfold msgBy
    rw [if_pos k1]
    simp only [List.length_append]
    omega
  obtain ⟨ya, hK, _, _, _, _, hP, hC⟩ := rest_2 k1 hR
  obtain ⟨z1, z2, z3, _⟩ := mayK_boundsM hK
  have zpk := pkBy_len m.sp m.sc m.dp m.dc m.sq m.da m.th m.ta z1 z2 z3
  have zp := pfBy_len hP
  have zc := pfBy_len hC
  unfold msgBy
  rw [if_neg k1]
  split
  · simp only [List.length_append]; omega
  split
  · have := ya (by assumption); simp only [List.length_append, str_len]; omega
  split
  · simp only [List.length_append]; omega
  simp only [List.length_append]; omega
theorem msgS_le (m : MsgV) : (msgS m).size ≤ 6000 := by
  unfold msgS
  split
  · have h := msgBy_len (m := m) (by assumption)
    show (msgBy m).toArray.size ≤ _
    rwa [List.size_toArray]
  · exact Nat.zero_le _
theorem light_pf {xs : List LeafV} (h : lightPf xs = true) : xs.length ≤ 5 ∧ (∀ x ∈ xs, x.path.length ≤ 40) ∧ stepsD xs ≤ 205 := by
  unfold lightPf at h
  rw [Bool.and_eq_true, decide_eq_true_eq, List.all_eq_true] at h
  have hp : ∀ x ∈ xs, x.path.length ≤ 40 := fun x hx => by
    have := h.2 x hx
    unfold lightLeaf at this
    simp only [Bool.and_eq_true, decide_eq_true_eq] at this
    omega
  refine ⟨h.1, hp, ?_⟩
  have hs : ∀ l : List LeafV, (∀ x ∈ l, x.path.length ≤ 40) → (l.map fun x => x.path.length).sum ≤ l.length * 40 := fun l => by
    induction l with
    | nil => intro _; simp
    | cons y l ih =>
      intro h
      have h1 := h y (List.mem_cons_self ..)
      have h2 := ih fun z hz => h z (List.mem_cons_of_mem _ hz)
      rw [List.map_cons, List.sum_cons, List.length_cons]
      omega
  have := hs xs hp
  unfold stepsD
  omega
theorem light_msg {m : MsgV} (h : lightM m = true) : m.ack.size ≤ 100 ∧ lightPf m.pxs = true ∧ lightPf m.cxs = true := by
  unfold lightM at h
  simp only [Bool.and_eq_true, decide_eq_true_eq] at h
  exact ⟨by omega, h.1.2, h.2⟩
theorem price_light (m : MsgV) (w : World) (hm : m.ok w) (hl : lightM m = true) :
    Calls Try.prog 34 #[.agg m.row] w fun e w' => e = .returned (.int .i64 (priceM m)) ∧ Below w.heap.size w w' := by
  obtain ⟨_, l2, l3⟩ := light_msg hl
  obtain ⟨p1, p2, p3⟩ := light_pf l2
  obtain ⟨c1, c2, c3⟩ := light_pf l3
  exact price_any m w hm (by have := msgS_le m; omega) (by rw [← hm.plen]; exact p1) (by rw [← hm.clen]; exact c1) p2 c2 (by omega) (by omega)
end Go.Proofs.Ythipnkbfdkmhaaa
namespace Go.Proofs.Ythipnkbfdkmhaaa
open Go.RowKit
attribute [local go_sem] strV
set_option linter.unusedVariables false

def MsgV.cellsL (m : MsgV) : List Value := m.row.toList
theorem MsgV.cells_len (m : MsgV) : m.cellsL.length = 50 := by unfold MsgV.cellsL; rw [Array.length_toList, MsgV.row_size]
theorem msg_range {w : World} {a : Option Addr} {xs : List MsgV} (h : RowAt w a (xs.flatMap MsgV.cellsL)) {k : Nat} (hk : k < xs.length) :
    ∃ b off, a = some ⟨b, off, none⟩ ∧ b < w.heap.size ∧ w.rangeAt b (off + k * 50) xs[k].row.toList := by
  obtain ⟨b, off, ha, hb, hc⟩ := h.elem MsgV.cells_len hk (by decide)
  refine ⟨b, off, ha, hb, fun j v hv => ?_⟩
  have hj : j < 50 := by have := (List.getElem?_eq_some_iff.1 hv).1; rw [Array.length_toList, MsgV.row_size] at this; exact this
  rw [Nat.add_assoc, hc j hj]
  exact hv
def sumP (l : List MsgV) : Int := (l.map priceM).sum
theorem price_rng {m : MsgV} (hl : lightM m = true) : 0 ≤ priceM m ∧ priceM m ≤ 40000 := by
  obtain ⟨_, l2, l3⟩ := light_msg hl
  obtain ⟨p1, p2, p3⟩ := light_pf l2
  obtain ⟨c1, c2, c3⟩ := light_pf l3
  have := msgS_le m
  unfold priceM
  split <;> omega
theorem sumP_take {l : List MsgV} {k : Nat} (h : k < l.length) : sumP (l.take (k + 1)) = sumP (l.take k) + priceM l[k] := by
  unfold sumP
  rw [List.take_succ_eq_append_getElem h, List.map_append, List.sum_append, List.map_cons, List.map_nil, List.sum_cons, List.sum_nil]
  omega
end Go.Proofs.Ythipnkbfdkmhaaa
namespace Go.Proofs.Ythipnkbfdkmhaaa
open Go.RowKit
attribute [local go_sem] strV
set_option linter.unusedVariables false
def txItem (m : MsgV) : List UInt8 := textB ⟨(msgBy m).toArray⟩
def txBy (ms : List MsgV) : List UInt8 := putL (ms.length : Int) ++ ms.flatMap txItem
def encTx (ms : List MsgV) : ByteArray × Int := if 64 < ms.length then (⟨#[]⟩, 22) else if ms.all mayMsgB then (⟨(txBy ms).toArray⟩, 0) else (⟨#[]⟩, 1)
theorem msgBy_le {m : MsgV} (h : mayMsgB m = true) : (msgBy m).length ≤ 6000 := by
  have := msgS_le m
  unfold msgS at this
  rw [if_pos h] at this
  have h2 : (⟨(msgBy m).toArray⟩ : ByteArray).size = (msgBy m).length := by show (msgBy m).toArray.size = _; rw [List.size_toArray]
  rw [h2] at this
  omega
theorem txItem_le {m : MsgV} (h : mayMsgB m = true) : (txItem m).length ≤ 6010 := by
  have h1 := msgBy_le h
  have h2 : (⟨(msgBy m).toArray⟩ : ByteArray).size = (msgBy m).length := by show (msgBy m).toArray.size = _; rw [List.size_toArray]
  have h3 := putL_len' (((⟨(msgBy m).toArray⟩ : ByteArray).size : Nat) : Int)
  unfold txItem textB
  rw [List.length_append, str_len, h2]
  rw [h2] at h3
  omega
theorem txItems_le : ∀ {l : List MsgV}, l.all mayMsgB = true → (l.flatMap txItem).length ≤ l.length * 6010
  | [], _ => Nat.le_refl _
  | m :: l, h => by
    rw [List.all_cons, Bool.and_eq_true] at h
    rw [List.flatMap_cons, List.length_append, List.length_cons]
    have := txItem_le h.1
    have := txItems_le h.2
    omega
theorem bytes_size (l : List UInt8) : (⟨l.toArray⟩ : ByteArray).size = l.length := by show l.toArray.size = _; rw [List.size_toArray]
set_option maxRecDepth 100000 in
set_option maxHeartbeats 6400000 in
theorem msgTx_any (a : Option Addr) (n cap : Nat) (ms : List MsgV) (w : World) (hr : RowAt w a (ms.flatMap MsgV.cellsL)) (hok : ∀ m ∈ ms, m.ok w) (hn : ms.length = n) :
    Calls Try.prog 28 #[.slice a n cap] w fun e w' => e = .returned (.tuple #[.string (encTx ms).1, .int .i64 (encTx ms).2]) ∧ Below w.heap.size w w' := by
  have HN := Lib.hid hn
  by_cases h64 : 64 < n
  · have d64 : decide (64 < (n : Int)) = true := decide_eq_true (by omega)
    rw [show encTx ms = (⟨#[]⟩, 22) by unfold encTx; rw [if_pos (by omega)]]
    go_enter Try.func28, Try.ntmps28
    go_wp2
    go_returns
    exact ⟨rfl, Below.refl _ _⟩
  have d64 : decide (64 < (n : Int)) = false := decide_eq_false (by omega)
  have HE : Hid (encTx ms = if ms.all mayMsgB then (⟨(putL (n : Int) ++ ms.flatMap txItem).toArray⟩, 0) else (⟨#[]⟩, 1)) := Lib.hid (by unfold encTx; rw [if_neg (by omega)]; unfold txBy; rw [hn])
  obtain ⟨X, hX⟩ : ∃ X, encTx ms = X := ⟨_, rfl⟩
  rw [hX] at HE ⊢
  have hp0 := putL_len' (n : Int)
  obtain ⟨P0, hP0⟩ : ∃ P, putL (n : Int) = P := ⟨_, rfl⟩
  rw [hP0] at HE hp0
  have HP0 := Lib.hid hP0
  clear hn hX hP0
  have CN := fun W (h : WAt w.heap.size w.heap.size W [] 0) (hb : w.heap.size ≤ W.heap.size) => wnum_k w.heap.size w.heap.size W [] n h hb (by omega) (by simp)
  rw [HP0.out] at CN
  simp only [List.nil_append] at CN
  go_enter Try.func28, Try.ntmps28
  go_upto_region 4 with (go_at_call 48; refine (wnew_any w.heap.size _ (Nat.le_refl _)).mono ?_; rintro e w3 ⟨rfl, hW, hbel⟩)
  go_upto_region 6 with (go_at_call 76; refine (CN _ hW hbel.size).mono ?_; rintro e w4 ⟨rfl, hW, hb4, _⟩; have hbel := hbel.trans hb4)
  clear CN
  go_loopw [19] (fun i wr => ∃ k : Nat, k ≤ n ∧ i = .int .i64 k ∧ Hid ((ms.take k).all mayMsgB = true) ∧ WAt w.heap.size w.heap.size wr (P0 ++ (ms.take k).flatMap txItem) 0 ∧ Below w.heap.size w wr) (fun i _ => n - (intOf i).toNat)
  case atStart => exact ⟨0, Nat.zero_le _, rfl, Lib.hid rfl, by simpa using hW, hbel⟩
  case round =>
    clear hW hbel
    obtain ⟨k, hk, rfl, HA, hW, hbel⟩ := hrel
    by_cases hlt : k < n
    · have d1 : decide ((k : Int) < (n : Int)) = true := decide_eq_true (by omega)
      have d1n : decide (k < n) = true := decide_eq_true hlt
      have hkl : k < ms.length := by rw [HN.out]; exact hlt
      obtain ⟨b1, o1, rfl, hb1, hg1⟩ := msg_range (hr.below hbel) hkl
      have ok1 := (hok _ (List.getElem_mem hkl)).below hbel
      have hta := all_takeL (p := mayMsgB) hkl
      have hft := flat_takeB (f := txItem) hkl
      have hbd := fun h => all_badL (p := mayMsgB) hkl h
      have hle : ((ms.take k).flatMap txItem).length ≤ 64 * 6010 := by
        have := txItems_le HA.out
        rw [List.length_take] at this
        have : min k ms.length ≤ 64 := by omega
        omega
      obtain ⟨m, hm9⟩ : ∃ m, ms[k] = m := ⟨_, rfl⟩
      rw [hm9] at hg1 ok1 hta hft hbd
      obtain ⟨L0, hL0⟩ : ∃ L, (ms.take k).flatMap txItem = L := ⟨_, rfl⟩
      rw [hL0] at hft hle hW
      have HTA := Lib.hid hta
      have HFT := Lib.hid hft
      have CE := fun W (hb : Below wr.heap.size wr W) => msgEncode_any m W (ok1.below hb)
      clear hm9 hL0 hta hft
      have n0 : (0 : Int) ≤ (k : Int) := by omega
      have n1' : (k : Int) < (n : Int) := by omega
      have n2' : ((k : Nat) : Int).toNat = k := by omega
      go_upto_region 8 with (first | (refine wpList_load_mid rfl 34 (.tmp 21) rfl b1 _ rfl m.row.toList _ hg1 Try.underlying34 rfl (msg_info _) ?_; rw [Array.toArray_toList]) | (refine wpList_storeRowTo (Z := m.row) rfl (.tmp 6) (.tmp 22) 34 rfl (by rw [MsgV.row_size]; kernel_rfl) rfl (by rfl) (heap_push _ _ _) (by rw [MsgV.row_size]; rfl) (MsgV.row_one _) ?_))
      refine wp_nameE _ (fun W5 hX => ?_)
      have hb5 : Below wr.heap.size wr W5 := by rw [hX]; exact below_setRow (Below.alloc (Below.refl _ _) (Nat.le_refl _) _) (Nat.le_refl _) _
      have hx : W5.heap[wr.heap.size]? = some (.cells m.row 34 (0, 0)) := by rw [hX]; exact setRow_heap _ _ _ _ _ _ (heap_push _ _ _)
      clear hX hg1
      have hbel5 := hbel.trans (hb5.mono hbel.size)
      have hW := hW.below hb5
      cases hM : mayMsgB m
      · rw [show encMsg m = .tuple #[.string ⟨#[]⟩, .int .i64 1] by unfold encMsg; rw [hM]; rfl] at CE
        have hE : X = (⟨#[]⟩, 1) := by rw [HE.out, hbd hM]; rfl
        subst hE
        go_wp2_with (first | (refine wpList_load_mid rfl 34 (.tmp 6) rfl wr.heap.size 0 rfl m.row.toList _ (rangeAt_row5 hx) Try.underlying34 rfl (msg_info _) ?_; rw [Array.toArray_toList]) | (go_at_call 16; refine (CE _ hb5).mono ?_; rintro e w6 ⟨rfl, hb6⟩; have hbel6 := hbel5.trans (hb6.mono hbel5.size)))
        go_returns
        exact ⟨rfl, hbel6⟩
      · rw [show encMsg m = .tuple #[.string ⟨(msgBy m).toArray⟩, .int .i64 0] by unfold encMsg; rw [hM]; rfl] at CE
        have hml := msgBy_le hM
        have hsz : (⟨(msgBy m).toArray⟩ : ByteArray).size ≤ 1000000 := by rw [bytes_size]; omega
        have HT : Hid (txItem m = putL (((⟨(msgBy m).toArray⟩ : ByteArray).size : Nat) : Int) ++ (⟨(msgBy m).toArray⟩ : ByteArray).data.toList) := Lib.hid rfl
        obtain ⟨S, hS⟩ : ∃ S : ByteArray, (⟨(msgBy m).toArray⟩ : ByteArray) = S := ⟨_, rfl⟩
        rw [hS] at CE hsz HT
        have CT := fun W (h : WAt w.heap.size w.heap.size W (P0 ++ L0) 0) (hb : w.heap.size ≤ W.heap.size) => wtext_k w.heap.size w.heap.size W (P0 ++ L0) S h hb hsz (by rw [List.length_append]; omega)
        clear hS hml
        go_wp2_with (first | (refine wpList_load_mid rfl 34 (.tmp 6) rfl wr.heap.size 0 rfl m.row.toList _ (rangeAt_row5 hx) Try.underlying34 rfl (msg_info _) ?_; rw [Array.toArray_toList]) | (go_at_call 16; refine (CE _ hb5).mono ?_; rintro e w6 ⟨rfl, hb6⟩; have hbel6 := hbel5.trans (hb6.mono hbel5.size); have hW6 := hW.below hb6) | (go_at_call 77; refine (CT _ hW6 hbel6.size).mono ?_; rintro e w7 ⟨rfl, hW7, hb7, _⟩; have hbel7 := hbel6.trans hb7))
        go_roundw
        case rel => exact ⟨k + 1, by omega, by go_num, Lib.hid (by rw [HTA.out, HA.out, hM]; rfl), by rw [HFT.out, HT.out, ← List.append_assoc, ← List.append_assoc]; exact hW7, hbel7⟩
        case measure => (simp [intOf]) <;> omega
    · have d9 : decide ((k : Int) < (n : Int)) = false := decide_eq_false (by omega)
      have d9n : decide (k < n) = false := decide_eq_false hlt
      have hA := HA.out
      rw [List.take_of_length_le (by rw [HN.out]; omega)] at hA hW
      have hE : X = (⟨(P0 ++ ms.flatMap txItem).toArray⟩, 0) := by rw [HE.out, hA]; rfl
      subst hE
      clear hA
      go_wp2_with (go_at_call 50; refine (wbytes_rd w.heap.size _ _ _ hW.rd hbel.size).mono ?_; rintro e w9 ⟨rfl, hW9, hb9⟩; have hbel := hbel.trans hb9)
      go_returns
      exact ⟨rfl, hbel⟩
end Go.Proofs.Ythipnkbfdkmhaaa
namespace Go.Proofs.Ythipnkbfdkmhaaa
open Go.RowKit
set_option linter.unusedVariables false
theorem txBy_le {l : List MsgV} (hl : l.length ≤ 64) (h : l.all mayMsgB = true) : (txBy l).length ≤ 400000 := by
  have h1 := txItems_le h
  have h2 := putL_len' (l.length : Int)
  unfold txBy
  rw [List.length_append]
  have : l.length * 6010 ≤ 64 * 6010 := Nat.mul_le_mul_right _ hl
  omega
end Go.Proofs.Ythipnkbfdkmhaaa
namespace Go.Proofs.Ythipnkbfdkmhaaa
open Go.RowKit
attribute [local go_sem] strV
set_option linter.unusedVariables false
end Go.Proofs.Ythipnkbfdkmhaaa
namespace Go.Proofs.Ythipnkbfdkmhaaa
open Go.RowKit
attribute [local go_sem] strV
set_option linter.unusedVariables false
theorem Try.infoMsg : (Try.prog.info? 34).map (fun i => (i.zero, i.size, i.bytes)) = some (some (.agg #[.int .i64 0, .int .i64 0, .int .i64 0, .int .u8 0, .int .u8 0, .int .u8 0, .int .u8 0, .int .u8 0, .int .u8 0, .int .u8 0, .int .u8 0, .int .u8 0, .int .u8 0, .int .u8 0, .int .u8 0, .int .u8 0, .int .u8 0, .int .u8 0, .int .u8 0, .int .u8 0, .int .u8 0, .int .u8 0, .int .u8 0, .int .u8 0, .int .u8 0, .int .u8 0, .int .u8 0, .int .u8 0, .int .u8 0, .int .u8 0, .int .u8 0, .int .u8 0, .int .u8 0, .int .u8 0, .int .u8 0, .string ⟨#[]⟩, .int .i64 0, .string ⟨#[]⟩, .int .i64 0, .int .i64 0, .string ⟨#[]⟩, .int .i64 0, .int .i64 0, .string ⟨#[]⟩, .int .i64 0, .int .i64 0, .int .i64 0, .slice none 0 0, .int .i64 0, .slice none 0 0]), 50, 240) := by kernel_rfl
theorem one_msg (R : Array Value) (hR : R.size = 50) (W : World) : (Instr.buildSlice 48 1 #[(0, .agg R)]).run Try.prog W = .ok (.slice (some ⟨W.heap.size, 0, none⟩) 1 1) (W.alloc (.cells R 34)) := by
  have h1 := fun Z hZ => fold_atN R Z hR hZ
  simp [go_sem, hR, h1]
end Go.Proofs.Ythipnkbfdkmhaaa
