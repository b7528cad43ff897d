/- What the walks of this seat share: blocks, rows, slices of the call's own. -/
import Derived.Test.YtpledhipdiephaaDoorKit
import Derived.Test.YtpledhipdiephaaDoorOpen
import Derived.Test.YtpledhipdiephaaDoorRows
import Derived.Lib.Builder
import Derived.Lib.AppendStr
import Derived.Lib.UnsafeStr
import Derived.Laws.Externs
import Derived.Lib.Walk
import Derived.Lib.BufferWrite
import Derived.Laws.CopyOwn
import Derived.Deep.RegionLaw
import Derived.BigRegion
import Derived.RegionTactic
import Derived.Laws.Tables
import Derived.Laws.Rows
import Derived.Laws.Cells
import Derived.Deep.MidRow
import Derived.LoopTactic
import Derived.BigFrame
import Derived.Laws.OwnMore
import Derived.OwnWalk
import Derived.Maps.AppendAt
import Derived.Maps.OwnRows
import Derived.Maps.OwnOps
import Derived.Deep.AppendLies
import Derived.Deep.CutRange
import Derived.BigQuiet
import Derived.WalkKit
import Derived.ProofKit
import Derived.Handy
import Derived.Below
import Derived.Lib.Hide
import Derived.IntWalk
import Derived.Outline
import Derived.WalkLawsBesides
import Derived.WalkSpells
namespace Go.Proofs.YtpledhipdiephaaDoor
open Go.RowKit
attribute [local go_sem] strV
set_option linter.unusedVariables false
theorem cell_heap {w : World} {b : Nat} {c : Array Value} {e : TypeId} (h : w.heap[b]? = some (.cells c e (0, 0))) (k : Nat) : w.cell? ⟨b, k, none⟩ = c[k]? := by
  unfold World.cell?; rw [h]; rfl
theorem heap_push (w : World) (cur : Array Value) (e : TypeId) : (w.alloc (.cells cur e)).heap[w.heap.size]? = some (.cells cur e (0, 0)) := by
  show (w.heap.push _)[w.heap.size]? = _
  rw [Array.getElem?_push_size]
theorem al2_0 (w : World) (a b : Obj) : ((w.alloc a).alloc b).heap[w.heap.size]? = some a := by
  show ((w.heap.push _).push _)[w.heap.size]? = _
  rw [Array.getElem?_push_lt (by simp), ← Array.getElem?_eq_getElem (by simp), Array.getElem?_push_size]
theorem al2_1 (w : World) (a b : Obj) : ((w.alloc a).alloc b).heap[w.heap.size + 1]? = some b := by
  show ((w.heap.push _).push _)[w.heap.size + 1]? = _
  rw [show w.heap.size + 1 = (w.heap.push a).size by simp, Array.getElem?_push_size]
theorem al2_below (w : World) (a b : Obj) : Below w.heap.size w ((w.alloc a).alloc b) := Below.alloc (Below.alloc (Below.refl _ _) (Nat.le_refl _) _) (by simp) _
theorem cells_of {w : World} {g : Nat} {c : Array Value} {e : TypeId} (h : w.heap[g]? = some (.cells c e (0, 0))) {K : Nat} {w' : World} (hb : Below K w w') (hg : g < K) : w'.heap[g]? = some (.cells c e (0, 0)) := by
  rw [hb.block g hg]; exact h
theorem wp_nameE {P : Program} {c : Code} {Q : Exit → Act → World → Prop} {a : Act} (E : World) (h : ∀ W, W = E → c.wp P Q a W) : c.wp P Q a E := h E rfl
theorem rangeAt_row5 {w : World} {b : Nat} {e : TypeId} {fz : Nat × Nat} {C : Array Value} (h : w.heap[b]? = some (.cells C e fz)) : w.rangeAt b 0 C.toList := fun j v hv => by
  unfold World.cell?; rw [h, Nat.zero_add]; simpa using hv
theorem wpList_storeRowTo {P : Program} {w : World} {ops : Array Oper} {rest : List Oper} {o : Oper} {a : Act} {Q : Exit → Act → World → Prop}
    (hg : o.guard = none) (p v : Operand) (t : TypeId) (hop : o.op = Op.store t p v) {g : Nat} {Y Z : Array Value} (hi : (P.info? t).map (·.size) = some Z.size)
    (hp : a.eval p = .pointer (some ⟨g, 0, none⟩)) (hv : a.eval v = .agg Z) (hz : w.heap[g]? = some (.cells Y t (0, 0))) (hY : Y.size = Z.size) (h1 : Z.all (·.oneCell') = true)
    (h : wpList P ops Q rest (a.put o.dst undef) (w.setRow g Z)) : wpList P ops Q (o :: rest) a w := by
  refine wpList_plain hg fun K hK' => ?_
  have hrun : (Instr.storeAt t (.pointer (some ⟨g, 0, none⟩)) (.agg Z)).run P w = .ok () (w.setRow g Z) := by
    simp only [Instr.storeAt, Instr.sureAddr, Sem.run_bind, Sem.run_pure, Result.andThen]
    rw [run_storeVar_row _ _ t t Y Z hz hi hY h1]
  unfold Oper.wp
  simp [execOp, hop, hp, hv, hrun, Result.andThen]
  exact hK' _ _ h
theorem setRow_size (w : World) (g : Nat) (cs : Array Value) : (w.setRow g cs).heap.size = w.heap.size := by simp [World.setRow]
theorem own_far {w w' : World} {base : Nat} {e : TypeId} {size n : Nat} {v : Value} {xs : List Value} (h : w.ownsRow base e size v n xs) (hk : ∀ j, base ≤ j → j < w.heap.size → w'.heap[j]? = w.heap[j]?) : w'.ownsRow base e size v n xs := by
  obtain ⟨h1, h2⟩ := h
  refine ⟨h1, ?_⟩
  rcases h2 with h | ⟨g, cap, cur, h3, h4, h5, h6⟩
  · exact .inl h
  · exact .inr ⟨g, cap, cur, h3, h4, (hk g h4 (Array.getElem?_eq_some_iff.1 h5).1).trans h5, h6⟩
theorem own_slice {w : World} {base : Nat} {e : TypeId} {size n : Nat} {v : Value} {xs : List Value} (h : w.ownsRow base e size v n xs) :
    ∃ a cap, v = .slice a n cap ∧ RowAt w a xs ∧ n ≤ cap ∧ cap ≤ maxLen ∧ ∀ b off sp, a = some ⟨b, off, sp⟩ → base ≤ b := by
  obtain ⟨a, cap, hv, hr, _⟩ := RowAt.own h
  obtain ⟨h1, h2⟩ := h
  refine ⟨a, cap, hv, hr, ?_⟩
  rcases h2 with ⟨q1, q2⟩ | ⟨g, cap', cur, q1, q4, _, q2, q3, _⟩
  · rw [q1] at hv
    simp only [Value.slice.injEq] at hv
    obtain ⟨r0, r1, r2⟩ := hv
    refine ⟨by omega, by rw [← r2]; exact Nat.zero_le _, fun b off sp hb => ?_⟩
    rw [← r0] at hb; cases hb
  · rw [q1] at hv
    simp only [Value.slice.injEq] at hv
    obtain ⟨r0, _, r2⟩ := hv
    refine ⟨by omega, by omega, fun b off sp hb => ?_⟩
    rw [← r0] at hb
    simp only [Option.some.injEq, Addr.mk.injEq] at hb
    omega
theorem own_kept9 {w w' : World} {base : Nat} {e : TypeId} {size n : Nat} {v : Value} {xs : List Value} (h : w.ownsRow base e size v n xs) (hb : Below w.heap.size w w') : w'.ownsRow base e size v n xs := own_far h (fun j _ q => hb.block j q)
theorem wpList_one {P : Program} {ops : Array Oper} {rest : List Oper} {op : Oper} {a : Act} {w : World} {Q : Exit → Act → World → Prop} {R : Array Value} (hgd : op.guard = none) (x : Operand) (t e : TypeId) (ho : op.op = .buildSlice t 1 #[(0, x)]) (hx : a.eval x = .agg R)
    (hrun : (Instr.buildSlice t 1 #[(0, .agg R)]).run P w = .ok (.slice (some ⟨w.heap.size, 0, none⟩) 1 1) (w.alloc (.cells R e)))
    (h : wpList P ops Q rest (a.put op.dst (.slice (some ⟨w.heap.size, 0, none⟩) 1 1)) (w.alloc (.cells R e))) : wpList P ops Q (op :: rest) a w :=
  wpList_plain hgd fun _ hK => by
    unfold Oper.wp
    simp [execOp, ho, hx, hrun, Result.andThen]
    exact hK _ _ h
theorem own_sliceN {w : World} {base : Nat} {e : TypeId} {size n : Nat} {v : Value} {xs : List Value} (h : w.ownsRow base e size v n xs) :
    ∃ a cap, v = .slice a n cap ∧ RowAt w a xs ∧ n ≤ cap ∧ cap ≤ maxLen ∧ (a = none → n = 0 ∧ cap = 0) := by
  obtain ⟨a, cap, hv, hr, _⟩ := RowAt.own h
  obtain ⟨h1, h2⟩ := h
  refine ⟨a, cap, hv, hr, ?_⟩
  rcases h2 with ⟨q1, q2⟩ | ⟨g, cap', cur, q1, q4, _, q2, q3, _⟩
  · rw [q1] at hv
    simp only [Value.slice.injEq] at hv
    obtain ⟨r0, r1, r2⟩ := hv
    exact ⟨by omega, by rw [← r2]; exact Nat.zero_le _, fun _ => ⟨by omega, by omega⟩⟩
  · rw [q1] at hv
    simp only [Value.slice.injEq] at hv
    obtain ⟨r0, _, r2⟩ := hv
    exact ⟨by omega, by omega, fun e => by rw [e] at r0; cases r0⟩
theorem row_lt {w : World} {g : Nat} {X : Obj} (h : w.heap[g]? = some X) : g < w.heap.size := (Array.getElem?_eq_some_iff.1 h).1
theorem grown_below {w w' : World} (hb : Below w.heap.size w w') : w.grownBy w' none := ⟨hb.os, hb.tape, hb.output, hb.size, fun i hi _ => hb.block i hi⟩
/-- No row of both. -/
def Apart (a b : Value) : Prop := a.ownBlock = none ∨ b.ownBlock = none ∨ a.ownBlock ≠ b.ownBlock
theorem Apart.symm {a b : Value} (h : Apart a b) : Apart b a := by
  rcases h with h | h | h
  · exact .inr (.inl h)
  · exact .inl h
  · exact .inr (.inr (Ne.symm h))
theorem Apart.off {a b : Value} (h : Apart a b) : b.ownBlock = none ∨ b.ownBlock ≠ a.ownBlock := by
  rcases h with h | h | h
  · rw [h]; cases hb : b.ownBlock
    · exact .inl rfl
    · exact .inr (by simp)
  · exact .inl h
  · exact .inr (Ne.symm h)
theorem Apart.new {a a' b : Value} {N : Nat} (h : Apart a b) (hat : a'.ownBlock = a.ownBlock ∨ a'.ownBlock = some N) (hb : ∀ k, b.ownBlock = some k → k < N) : Apart a' b := by
  rcases hat with hat | hat
  · unfold Apart at h ⊢; rw [hat]; exact h
  · cases hk : b.ownBlock with
    | none => exact .inr (.inl hk)
    | some k =>
      have := hb k hk
      exact .inr (.inr (by rw [hat, hk]; intro e; have := Option.some.inj e; omega))
theorem Apart.nil (b : Value) : Apart (.slice none 0 0) b := .inl rfl
theorem wf_i64 {a : Int} (h1 : -9223372036854775808 ≤ a) (h2 : a ≤ 9223372036854775807) : (Lit.int .i64 a).wf = true := by
  unfold Lit.wf
  rw [Bool.and_eq_true, decide_eq_true_eq, decide_eq_true_eq]
  exact ⟨h1, h2⟩
theorem i64_wf {a : Int} (h : (Lit.int .i64 a).wf = true) : -9223372036854775808 ≤ a ∧ a ≤ 9223372036854775807 := by
  unfold Lit.wf at h
  rw [Bool.and_eq_true, decide_eq_true_eq, decide_eq_true_eq] at h
  exact h
theorem grown_at {w w' : World} {row : Option Nat} (hg : w.grownBy w' row) {g : Nat} {X : Obj} (h : w.heap[g]? = some X) (hne : some g ≠ row) : w'.heap[g]? = some X :=
  (hg.block g (Array.getElem?_eq_some_iff.1 h).1 hne).trans h
theorem row_get {w : World} {a : Option Addr} {zs : List Int} (h : RowAt w a (zs.map (Value.int .i64))) {k : Nat} (hk : k < zs.length) :
    ∃ b off, a = some ⟨b, off, none⟩ ∧ b < w.heap.size ∧ w.cell? ⟨b, off + k, none⟩ = some (.int .i64 zs[k]) := by
  rcases h with h | ⟨b, off, ha, hlt, hc⟩
  · have := congrArg List.length h; rw [List.length_map] at this; simp only [List.length_nil] at this; omega
  · refine ⟨b, off, ha, hlt, ?_⟩
    rw [hc k (by simpa using hk)]; simp [hk]
theorem beq_at {x y : List Int} (hl : x.length = y.length) (h : ∀ j, j < x.length → x[j]? = y[j]?) : (x == y) = true := by
  rw [beq_iff_eq]
  refine List.ext_getElem? fun j => ?_
  rcases Nat.lt_or_ge j x.length with h' | h'
  · exact h j h'
  · rw [List.getElem?_eq_none h', List.getElem?_eq_none (by omega)]
theorem row_newI (w : World) (cur : Array Value) (t : TypeId) : RowAt (w.alloc (.cells cur t)) (some ⟨w.heap.size, 0, none⟩) cur.toList :=
  .inr ⟨_, 0, rfl, by simp, fun j hj => by
    rw [Nat.zero_add, cell_heap (show (w.heap.push _)[w.heap.size]? = _ by rw [Array.getElem?_push_size]) j]
    simp⟩
theorem wpList_append_ownA {P : Program} (w : World) {ops : Array Oper} {rest : List Oper} {o : Oper} {a : Act} {Q : Exit → Act → World → Prop} (hgd : o.guard = none) (s x : Operand) (t : TypeId)
    (ho : o.op = .call { callee := .builtin .append, args := #[s, x], argTypes := #[t, t] })
    (base : Nat) (e : TypeId) (i : TypeInfo) (z : Value) (size bytes : Nat) (ht : P.underlying t = some (.slice e)) (hi : P.info? e = some i) (hz : i.zero = some z)
    (hsize : i.size = size) (hby : i.bytes = bytes) (hzs : z.cells.size = size) (hsz : 0 < size)
    (v : Value) (n : Nat) (xs : List Value) (hs : a.eval s = v) (hown : w.ownsRow base e size v n xs)
    (ao : Option Addr) (m c : Nat) (news : List Value) (hx : a.eval x = .slice ao m c) (hnone : ao = none → m = 0 ∧ c = 0) (hl : news.length = m * size) (hnews : ∀ ad, ao = some ad → ∀ j u, news[j]? = some u → w.cell? (ad.add j) = some u) (h1 : ∀ u ∈ news, u.oneCell' = true)
    (h63 : n + m ≤ maxLen) (hbytes : (n + m) * bytes ≤ 140737488355328) (hbase : base ≤ w.heap.size)
    (h : ∀ v' w', w'.ownsRow base e size v' (n + m) (xs ++ news) → w.grownBy w' v.ownBlock → wpList P ops Q rest (a.put o.dst v') w') : wpList P ops Q (o :: rest) a w := by
  cases ao with
  | some ad => exact wpList_append_own w hgd s x t ho base e i z size bytes ht hi hz hsize hby hzs hsz v n xs hs hown ad m c news hx hl (hnews ad rfl) h1 h63 hbytes hbase (fun v' w' q1 q2 _ => h v' w' q1 q2)
  | none =>
    obtain ⟨rfl, rfl⟩ := hnone rfl
    have hn9 : news = [] := List.eq_nil_of_length_eq_zero (by simpa using hl)
    subst hn9
    refine wpList_plain hgd fun K hK' => ?_
    have hrun := run_append_owned_none (P := P) w base t o.type e i size ht hi _ n xs hown
    unfold Oper.wp
    simp [execOp, ho, resolve, invoke, builtin, hs, hx, hrun, Result.andThen]
    exact hK' _ _ (by simpa using h v w (by simpa using hown) (World.grownBy.refl _ _))
theorem row_newsM {w : World} {a : Option Addr} {vs : List Value} (h : RowAt w a vs) : ∀ ad, a = some ad → ∀ (j : Nat) (u : Value), vs[j]? = some u → w.cell? (ad.add j) = some u := by
  intro ad e j u hu
  rcases h with rfl | ⟨b, off, rfl, _, hc⟩
  · simp at hu
  · obtain rfl := Option.some.inj e
    rw [Addr.add_lit, hc j (List.getElem?_eq_some_iff.1 hu).1]; exact hu
theorem grown_lowM {w w' : World} {base : Nat} {row : Option Nat} (hg : w.grownBy w' row) (hr : ∀ k, row = some k → base ≤ k) (hb : base ≤ w.heap.size) : Below base w w' := (Below.refl base w).grown hg hb hr
theorem own_lowerM {w : World} {base B : Nat} {e : TypeId} {size n : Nat} {v : Value} {xs : List Value} (h : w.ownsRow base e size v n xs) (hb : B ≤ base) : w.ownsRow B e size v n xs := by
  refine ⟨h.1, ?_⟩
  rcases h.2 with hn | ⟨g, cap, cur, h1, h2, h3⟩
  · exact .inl hn
  · exact .inr ⟨g, cap, cur, h1, Nat.le_trans hb h2, h3⟩
theorem Tryd.infoI : (Tryd.prog.info? 3).map (fun i => (i.zero, i.size, i.bytes)) = some (some (.int .i64 0), 1, 8) := by kernel_rfl
theorem Hid.sym' {α : Type} {a b : α} (h : Hid (a = b)) : Hid (b = a) := Lib.hid h.out.symm
end Go.Proofs.YtpledhipdiephaaDoor
