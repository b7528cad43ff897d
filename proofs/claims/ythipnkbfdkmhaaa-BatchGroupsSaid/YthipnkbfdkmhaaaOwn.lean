/- Rows that the call itself has made; leaves whose ways lie in young blocks. -/
import Derived.Test.YthipnkbfdkmhaaaMsgD
import Derived.Test.YthipnkbfdkmhaaaGG
import Derived.Deep.MidRow
import Derived.LoopTactic
import Derived.BigFrame
import Derived.WalkKit
import Derived.ProofKit
import Derived.Handy
import Derived.Below
import Derived.Lib.Hide
import Derived.IntWalk
import Derived.Outline
import Derived.WalkLawsBesides
import Derived.WalkSpells
namespace Go.Proofs.Ythipnkbfdkmhaaa
open Go.RowKit
attribute [local go_sem] strV
set_option linter.unusedVariables false
theorem own_far {w w' : World} {base : Nat} {e : TypeId} {size n : Nat} {v : Value} {xs : List Value} (h : w.ownsRow base e size v n xs) (hk : ∀ j, base ≤ j → j < w.heap.size → w'.heap[j]? = w.heap[j]?) : w'.ownsRow base e size v n xs := by
  obtain ⟨h1, h2⟩ := h
  refine ⟨h1, ?_⟩
  rcases h2 with h | ⟨g, cap, cur, h3, h4, h5, h6⟩
  · exact .inl h
  · exact .inr ⟨g, cap, cur, h3, h4, (hk g h4 (Array.getElem?_eq_some_iff.1 h5).1).trans h5, h6⟩
theorem countG_val {s : ByteArray} {a e m : Int} (hm : 0 ≤ m) : 0 ≤ (countG s a e m).1 ∧ (countG s a e m).1 ≤ m ∧ ((countG s a e m).2.2 ≠ 0 → (countG s a e m).1 = 0) := by
  unfold countG
  by_cases he : e = 0
  · rw [if_pos he]
    obtain ⟨v, n, er, hx⟩ : ∃ v n er, nextS s.data.toList a = (v, n, er) := ⟨_, _, _, rfl⟩
    unfold countF
    rw [hx]
    simp only
    by_cases hr : er = 0
    · subst hr
      simp only [if_pos]
      obtain ⟨i, k, y, q1, q2, q3, _⟩ := next_ok hx
      by_cases hv : m < v
      · rw [if_pos hv]; exact ⟨Int.le_refl _, hm, fun _ => rfl⟩
      · rw [if_neg hv]; exact ⟨by simp only; omega, by simp only; omega, fun h => absurd rfl h⟩
    · rw [if_neg hr]; exact ⟨Int.le_refl _, hm, fun _ => rfl⟩
  · rw [if_neg he]; exact ⟨Int.le_refl _, hm, fun _ => rfl⟩
theorem own_slice {w : World} {base : Nat} {e : TypeId} {size n : Nat} {v : Value} {xs : List Value} (h : w.ownsRow base e size v n xs) :
    ∃ a cap, v = .slice a n cap ∧ RowAt w a xs ∧ n ≤ cap ∧ cap ≤ maxLen ∧ ∀ b off sp, a = some ⟨b, off, sp⟩ → base ≤ b := by
  obtain ⟨a, cap, hv, hr, _⟩ := RowAt.own h
  obtain ⟨h1, h2⟩ := h
  refine ⟨a, cap, hv, hr, ?_⟩
  rcases h2 with ⟨q1, q2⟩ | ⟨g, cap', cur, q1, q4, _, q2, q3, _⟩
  · rw [q1] at hv
    simp only [Value.slice.injEq] at hv
    obtain ⟨r0, r1, r2⟩ := hv
    refine ⟨by omega, by rw [← r2]; exact Nat.zero_le _, fun b off sp hb => ?_⟩
    rw [← r0] at hb; cases hb
  · rw [q1] at hv
    simp only [Value.slice.injEq] at hv
    obtain ⟨r0, _, r2⟩ := hv
    refine ⟨by omega, by omega, fun b off sp hb => ?_⟩
    rw [← r0] at hb
    simp only [Option.some.injEq, Addr.mk.injEq] at hb
    omega
theorem RowAt.setRow9 {w : World} {a : Option Addr} {vs : List Value} {g : Nat} (h : RowAt w a vs) (ha : ∀ b off sp, a = some ⟨b, off, sp⟩ → b ≠ g) (cs : Array Value) : RowAt (w.setRow g cs) a vs := by
  rcases h with h | ⟨b, off, hb, hlt, hc⟩
  · exact .inl h
  · refine .inr ⟨b, off, hb, by simpa [World.setRow] using hlt, fun j hj => ?_⟩
    rw [← hc j hj]
    unfold World.cell?
    rw [setRow_other _ _ _ _ (ha _ _ _ hb)]
theorem own_kept9 {w w' : World} {base : Nat} {e : TypeId} {size n : Nat} {v : Value} {xs : List Value} (h : w.ownsRow base e size v n xs) (hb : Below w.heap.size w w') : w'.ownsRow base e size v n xs := own_far h (fun j _ q => hb.block j q)
theorem listP_step {α : Type} {P : ByteArray → Int → Int → α × Int × Int} {n k : Nat} {s : ByteArray} {a e : Int} {x : α} {a1 e1 : Int} (h : k < n) (hx : P s a e = (x, a1, e1)) :
    listP P (n - k) s a e = (x :: (listP P (n - (k + 1)) s a1 e1).1, (listP P (n - (k + 1)) s a1 e1).2.1, (listP P (n - (k + 1)) s a1 e1).2.2) := by
  rw [show n - k = (n - (k + 1)) + 1 by omega]
  show (_, _, _) = _
  rw [hx]
/-- The value's block, if there is one, is no older than B and holds elements of type T. -/
def heldA (w : World) (T : TypeId) (B : Nat) (a : Option Addr) : Prop := ∀ b off sp, a = some ⟨b, off, sp⟩ → B ≤ b ∧ ∃ cur fz, w.heap[b]? = some (.cells cur T fz)
theorem heldA.mono {w : World} {T : TypeId} {B C : Nat} {a : Option Addr} (h : heldA w T B a) (hc : C ≤ B) : heldA w T C a := fun b off sp e => ⟨Nat.le_trans hc (h b off sp e).1, (h b off sp e).2⟩
theorem heldA.nil (w : World) (T : TypeId) (B : Nat) : heldA w T B none := fun _ _ _ e => by cases e
/-- What holds elements of type T from block B on is as it was. -/
def SameT (T : TypeId) (B : Nat) (w w' : World) : Prop := w.heap.size ≤ w'.heap.size ∧ ∀ j, B ≤ j → ∀ cur fz, w.heap[j]? = some (.cells cur T fz) → w'.heap[j]? = some (.cells cur T fz)
theorem SameT.far {T : TypeId} {B : Nat} {w w' : World} (hs : w.heap.size ≤ w'.heap.size) (hk : ∀ j, B ≤ j → j < w.heap.size → w'.heap[j]? = w.heap[j]?) : SameT T B w w' :=
  ⟨hs, fun j h1 cur fz h2 => (hk j h1 (Array.getElem?_eq_some_iff.1 h2).1).trans h2⟩
theorem SameT.trans {T : TypeId} {B : Nat} {w w1 w2 : World} (h : SameT T B w w1) (g : SameT T B w1 w2) : SameT T B w w2 := ⟨Nat.le_trans h.1 g.1, fun j h1 cur fz h2 => g.2 j h1 cur fz (h.2 j h1 cur fz h2)⟩
theorem SameT.mono {T : TypeId} {B C : Nat} {w w' : World} (h : SameT T B w w') (hc : B ≤ C) : SameT T C w w' := ⟨h.1, fun j h1 => h.2 j (Nat.le_trans hc h1)⟩
theorem SameT.kept {T : TypeId} {b B : Nat} {w w' : World} (h : Kept b w w') (hb : b < B) : SameT T B w w' := SameT.far h.size (fun j h1 h2 => h.block j h2 (by omega))
theorem SameT.below {T : TypeId} {B : Nat} {w w' : World} (h : Below w.heap.size w w') : SameT T B w w' := SameT.far h.size (fun j _ h2 => h.block j h2)
theorem SameT.put {T : TypeId} {B g k : Nat} {w : World} {v : Value} (hg : g < B) : SameT T B w (w.setCell ⟨g, k, none⟩ v) := SameT.far (by rw [World.size_setCell]; exact Nat.le_refl _) (fun j h1 _ => row_oth' w g k j v (by omega))
theorem SameT.setRow {T : TypeId} {B g : Nat} {w : World} {cs : Array Value} (hg : g < B) : SameT T B w (w.setRow g cs) := SameT.far (by simp [World.setRow]) (fun j h1 _ => setRow_other w g j cs (by omega))
theorem SameT.grown {T e : TypeId} {B base size n : Nat} {w w' : World} {v : Value} {xs : List Value} (hown : w.ownsRow base e size v n xs) (hg : w.grownBy w' v.ownBlock) (hT : T ≠ e) : SameT T B w w' := by
  refine ⟨hg.size, fun j _ cur fz h2 => (hg.block j (Array.getElem?_eq_some_iff.1 h2).1 (fun h => ?_)).trans h2⟩
  rcases hown.2 with ⟨rfl, _⟩ | ⟨g, cap, cur9, rfl, _, h5, _⟩
  · cases h
  · simp only [Value.ownBlock, Option.some.injEq] at h
    subst h
    rw [h2] at h5
    simp only [Option.some.injEq, Obj.cells.injEq] at h5
    exact hT h5.2.1
theorem heldA.same {w w' : World} {T : TypeId} {B : Nat} {a : Option Addr} (h : heldA w T B a) (hs : SameT T B w w') : heldA w' T B a := fun b off sp e => by
  obtain ⟨h1, cur, fz, h2⟩ := h b off sp e
  exact ⟨h1, cur, fz, hs.2 b h1 cur fz h2⟩
theorem RowAt.same {w w' : World} {T : TypeId} {B : Nat} {a : Option Addr} {vs : List Value} (h : RowAt w a vs) (ha : heldA w T B a) (hs : SameT T B w w') : RowAt w' a vs := by
  rcases h with h | ⟨b, off, hb, hlt, hc⟩
  · exact .inl h
  · obtain ⟨h1, cur, fz, h2⟩ := ha b off none hb
    refine .inr ⟨b, off, hb, Nat.lt_of_lt_of_le hlt hs.1, fun j hj => ?_⟩
    rw [← hc j hj]
    unfold World.cell?
    rw [hs.2 b h1 cur fz h2, h2]
theorem own_held {w : World} {base : Nat} {e : TypeId} {size n : Nat} {a : Option Addr} {m cap : Nat} {xs : List Value} (h : w.ownsRow base e size (.slice a m cap) n xs) : heldA w e base a := by
  intro b off sp hb
  rcases h.2 with ⟨q, _⟩ | ⟨g, cap', cur, q, q4, q5, _⟩
  · simp only [Value.slice.injEq] at q
    rw [hb] at q; cases q.1
  · simp only [Value.slice.injEq] at q
    rw [hb] at q
    simp only [Option.some.injEq, Addr.mk.injEq] at q
    obtain ⟨⟨rfl, _, _⟩, _⟩ := q
    exact ⟨q4, cur, _, q5⟩
/-- A leaf whose way lies in a block no older than B. -/
def LeafV.held (x : LeafV) (w : World) (B : Nat) : Prop := x.ok w ∧ heldA w 23 B x.pa
theorem LeafV.held.same {x : LeafV} {w w' : World} {B : Nat} (h : x.held w B) (hs : SameT 23 B w w') : x.held w' B := ⟨⟨h.1.row.same h.2 hs, h.1.len, h.1.cap, h.1.capM, h.1.keyM, h.1.valM⟩, h.2.same hs⟩
theorem LeafV.held.mono {x : LeafV} {w : World} {B C : Nat} (h : x.held w B) (hc : C ≤ B) : x.held w C := ⟨h.1, h.2.mono hc⟩
/-- Leaves in a block no older than B, their ways likewise. -/
def lvsHeld (w : World) (B : Nat) (a : Option Addr) (xs : List LeafV) : Prop := RowAt w a (xs.flatMap LeafV.cells) ∧ heldA w 111 B a ∧ ∀ x ∈ xs, x.held w B
theorem lvsHeld.at {w : World} {B : Nat} {a : Option Addr} {xs : List LeafV} (h : lvsHeld w B a xs) : LvsAt w a xs := ⟨h.1, fun x hx => (h.2.2 x hx).1⟩
theorem lvsHeld.nil (w : World) (B : Nat) : lvsHeld w B none [] := ⟨RowAt.nil _ _, heldA.nil _ _ _, fun x h => by cases h⟩
theorem lvsHeld.same {w w' : World} {B : Nat} {a : Option Addr} {xs : List LeafV} (h : lvsHeld w B a xs) (h1 : SameT 111 B w w') (h2 : SameT 23 B w w') : lvsHeld w' B a xs := ⟨h.1.same h.2.1 h1, h.2.1.same h1, fun x hx => (h.2.2 x hx).same h2⟩
theorem lvsHeld.mono {w : World} {B C : Nat} {a : Option Addr} {xs : List LeafV} (h : lvsHeld w B a xs) (hc : C ≤ B) : lvsHeld w C a xs := ⟨h.1, h.2.1.mono hc, fun x hx => (h.2.2 x hx).mono hc⟩
theorem put_far {w : World} {B g k : Nat} {v : Value} (hg : g < B) : ∀ j, B ≤ j → j < w.heap.size → (w.setCell ⟨g, k, none⟩ v).heap[j]? = w.heap[j]? := fun j h1 _ => row_oth' w g k j v (by omega)
theorem setRow_far {w : World} {B g : Nat} {cs : Array Value} (hg : g < B) : ∀ j, B ≤ j → j < w.heap.size → (w.setRow g cs).heap[j]? = w.heap[j]? := fun j h1 _ => setRow_other w g j cs (by omega)
theorem setRow_size (w : World) (g : Nat) (cs : Array Value) : (w.setRow g cs).heap.size = w.heap.size := by simp [World.setRow]
theorem Kept.far {b B : Nat} {w w' : World} (h : Kept b w w') (hb : b < B) : ∀ j, B ≤ j → j < w.heap.size → w'.heap[j]? = w.heap[j]? := fun j h1 h2 => h.block j h2 (by omega)
theorem Kept.grow {b B : Nat} {w w1 w2 : World} (h : Kept b w w1) (g : Below B w1 w2) (hB : w.heap.size ≤ B) : Kept b w w2 := ⟨g.os.trans h.os, g.tape.trans h.tape, g.output.trans h.output, Nat.le_trans h.size g.size, fun k hk hne => (g.block k (by omega)).trans (h.block k hk hne)⟩
theorem Kept.drew {b : Nat} {w w' : World} (h : Kept b w w') (n : Nat) : Kept b w { w' with drawn := w'.drawn + n } := ⟨h.os, h.tape, h.output, h.size, h.block⟩
theorem RAt.drew {b : Nat} {w : World} {s : ByteArray} {A E : Int} (h : RAt b w s A E) (n : Nat) : RAt b { w with drawn := w.drawn + n } s A E := h
/-- The state of 'x.f = append(x.f, call(r))' by what is done: the place of the field, the field, the reader, what the call has returned, the new slice of it. -/
def PushI (wr : World) (b : Nat) (s : ByteArray) (p0 sv p2 : Value) (ak ek an en : Int) (Φ : Value → World → Prop) (Ψ : Value → Value → World → Prop) (D0 D1 D2 D3 D4 : Bool) (x0 x1 x2 x3 x4 : Value) (W : World) : Prop :=
  (D0 = true → x0 = p0) ∧ (D1 = true → x1 = sv) ∧ (D2 = true → x2 = p2) ∧ (D3 = true → Φ x3 W) ∧ (D4 = true → Ψ x3 x4 W) ∧ RAt b W s (bif D3 then an else ak) (bif D3 then en else ek) ∧ Kept b wr W
theorem fold_atN {n : Nat} (R Z : Array Value) (hR : R.size = n) (hZ : n ≤ Z.size) : Array.foldl (fun cs x => cs.setIfInBounds x.2 x.1) Z R.zipIdx 0 n = (R.toList ++ Z.toList.drop n).toArray := by
  have key : ∀ (vs : List Value) (k : Nat) (cur : Array Value), k + vs.length ≤ cur.size → (vs.zipIdx k).foldl (fun a x => a.setIfInBounds x.2 x.1) cur = (cur.toList.take k ++ vs ++ cur.toList.drop (k + vs.length)).toArray := by
    intro vs
    induction vs with
    | nil => intro k cur h; simp
    | cons v r ih =>
      intro k cur h
      rw [List.length_cons] at h
      rw [List.zipIdx_cons, List.foldl_cons, ih (k + 1) _ (by rw [Array.size_setIfInBounds]; omega)]
      apply congrArg List.toArray
      have hk : k < cur.toList.length := by rw [Array.length_toList]; omega
      rw [Array.toList_setIfInBounds, List.take_succ_eq_append_getElem (by rw [List.length_set]; exact hk), List.getElem_set_self, List.take_set, List.set_eq_of_length_le (by rw [List.length_take]; omega), List.drop_set, if_pos (by omega), List.length_cons, show k + 1 + r.length = k + (r.length + 1) by omega]
      simp
  have h3 : R.zipIdx.size = n := by simpa using hR
  rw [← h3, ← Array.foldl_toList, Array.toList_zipIdx, key R.toList 0 Z (by rw [Array.length_toList]; omega), Array.length_toList, hR, h3]
  simp
theorem one_hash (R : Array Value) (hR : R.size = 32) (W : World) : (Instr.buildSlice 109 1 #[(0, .agg R)]).run Try.prog W = .ok (.slice (some ⟨W.heap.size, 0, none⟩) 1 1) (W.alloc (.cells R 23)) := by
  have h1 := fun Z hZ => fold_atN R Z hR hZ
  simp [go_sem, hR, h1]
theorem one_leaf (R : Array Value) (hR : R.size = 4) (W : World) : (Instr.buildSlice 30 1 #[(0, .agg R)]).run Try.prog W = .ok (.slice (some ⟨W.heap.size, 0, none⟩) 1 1) (W.alloc (.cells R 111)) := by
  have h1 := fun Z hZ => fold_atN R Z hR hZ
  simp [go_sem, hR, h1]
theorem wpList_one {P : Program} {ops : Array Oper} {rest : List Oper} {op : Oper} {a : Act} {w : World} {Q : Exit → Act → World → Prop} {R : Array Value} (hgd : op.guard = none) (x : Operand) (t e : TypeId) (ho : op.op = .buildSlice t 1 #[(0, x)]) (hx : a.eval x = .agg R)
    (hrun : (Instr.buildSlice t 1 #[(0, .agg R)]).run P w = .ok (.slice (some ⟨w.heap.size, 0, none⟩) 1 1) (w.alloc (.cells R e)))
    (h : wpList P ops Q rest (a.put op.dst (.slice (some ⟨w.heap.size, 0, none⟩) 1 1)) (w.alloc (.cells R e))) : wpList P ops Q (op :: rest) a w :=
  wpList_plain hgd fun _ hK => by
    unfold Oper.wp
    simp [execOp, ho, hx, hrun, Result.andThen]
    exact hK _ _ h
theorem Try.infoHs : (Try.prog.info? 23).map (fun i => (i.zero, i.size, i.bytes)) = some (some (.agg #[.int .u8 0, .int .u8 0, .int .u8 0, .int .u8 0, .int .u8 0, .int .u8 0, .int .u8 0, .int .u8 0, .int .u8 0, .int .u8 0, .int .u8 0, .int .u8 0, .int .u8 0, .int .u8 0, .int .u8 0, .int .u8 0, .int .u8 0, .int .u8 0, .int .u8 0, .int .u8 0, .int .u8 0, .int .u8 0, .int .u8 0, .int .u8 0, .int .u8 0, .int .u8 0, .int .u8 0, .int .u8 0, .int .u8 0, .int .u8 0, .int .u8 0, .int .u8 0]), 32, 32) := by kernel_rfl
theorem Try.infoLf : (Try.prog.info? 111).map (fun i => (i.zero, i.size, i.bytes)) = some (some (.agg #[.string ⟨#[]⟩, .string ⟨#[]⟩, .int .i64 0, .slice none 0 0]), 4, 64) := by kernel_rfl
end Go.Proofs.Ythipnkbfdkmhaaa
