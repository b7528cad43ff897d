/- Small laws on rows of cells that a call itself has made: one element appended; the bytes of such a row as a string. They hold over any program. -/
import Derived.WalkKit
import Derived.ProofKit
import Derived.Below
import Derived.Laws.BytesArg
import Derived.Laws.CopyOwn
import Derived.Deep.QuietTactic
import Derived.BigQuiet
namespace Go.Proofs.YtpledhipdiephaaDoor
open Go.RowKit

/-- A byte as a value. -/
def bv (b : UInt8) : Value := .int .u8 (b.toNat : Int)
/-- A list of bytes as a string's value. -/
def strV (l : List UInt8) : Value := .string ⟨l.toArray⟩

theorem bv_ofNat {n : Nat} (h : n < 256) : bv (UInt8.ofNat n) = .int .u8 (n : Int) := by
  unfold bv; rw [UInt8.toNat_ofNat', Nat.mod_eq_of_lt (show n < 2 ^ 8 from h)]
theorem bv_one (b : UInt8) : (bv b).oneCell' = true := rfl

theorem below_grown {base : Nat} {w w' : World} {v : Value} {e : TypeId} {size n : Nat} {xs : List Value} (hown : w.ownsRow base e size v n xs)
    (hg : w.grownBy w' v.ownBlock) (hb : base ≤ w.heap.size) : Below base w w' :=
  (Below.refl base w).grown hg hb (fun k hk => (hown.lt k hk).1)

/-- 'append(s, x)' of one element of one cell, s nil or the call's own. -/
theorem wpList_push {P : Program} {w : World} {ops : Array Oper} {rest : List Oper} {o : Oper} {a : Act} {Q : Exit → Act → World → Prop} (hgd : o.guard = none) (s x : Operand) (t : TypeId)
    (ho : o.op = .call { callee := .builtin .append, args := #[s, x], argTypes := #[t, t] })
    {base : Nat} (e : TypeId) (i : TypeInfo) (z : Value) (bytes : Nat) (ht : P.underlying t = some (.slice e)) (hi : P.info? e = some i) (hz : i.zero = some z)
    (hsize : i.size = 1) (hby : i.bytes = bytes) (hzs : z.cells.size = 1)
    {v : Value} {n : Nat} {xs : List Value} (hown : w.ownsRow base e 1 v n xs) (hs : a.eval s = v)
    (u : Value) (hx : a.eval x = .slice (some ⟨w.heap.size, 0, none⟩) 1 1) (h1 : u.oneCell' = true)
    (h63 : n + 1 ≤ maxLen) (hbytes : (n + 1) * bytes ≤ 140737488355328) (hbase : base ≤ w.heap.size)
    (h : ∀ v' w', w'.ownsRow base e 1 v' (n + 1) (xs ++ [u]) → Below base w w' → wpList P ops Q rest (a.put o.dst v') w') :
    wpList P ops Q (o :: rest) a (w.alloc (.cells #[u] e)) := by
  refine wpList_append_own _ hgd s x t ho base e i z 1 bytes ht hi hz hsize hby hzs (by decide) v n xs hs (hown.alloc _) ⟨w.heap.size, 0, none⟩ 1 1 [u] hx rfl ?_ (by simpa using h1) h63 hbytes (by simp; omega) ?_
  · intro j y hj
    match j, hj with
    | 0, hj => simp at hj; subst hj; simp [Addr.add]
  · intro v' w' h2 h3 _
    refine h v' w' h2 ?_
    have hb := below_grown (hown.alloc (.cells #[u] e)) h3 (by simp; omega)
    exact ((Below.refl base w).alloc hbase _).trans hb

theorem strOfNums_bytes (l : List UInt8) : strOfNums (l.map fun b => (b.toNat : Int)) = ⟨l.toArray⟩ := by
  unfold strOfNums
  congr 1
  congr 1
  induction l with
  | nil => rfl
  | cons b l ih => simp only [List.map_cons, ih]; congr 1; simp

/-- The bytes of a row of the call's own, as a string. -/
theorem conv_own {P : Program} {w : World} {base : Nat} {e0 e : TypeId} {v : Value} {n : Nat} {l : List UInt8} (h : w.ownsRow base e0 1 v n (l.map bv))
    (src dst : TypeId) (hs : P.underlying src = some (.slice e)) (he : P.underlying e = some (.int .u8)) (hd : P.underlying dst = some .string) :
    (convert src dst v).run P w = .ok (strV l) w := by
  have hn : l.length = n := by have := h.1; simpa using this
  rcases h.2 with ⟨rfl, rfl⟩ | ⟨g, cap, cur, rfl, hb, hg, hnc, hcm, hcs, htake⟩
  · obtain rfl : l = [] := List.eq_nil_of_length_eq_zero hn
    exact run_convert_bytes_nil w src e hs he 0 0 dst hd
  · have hc := run_convert_bytes_arg (P := P) w src e hs he g 0 n cap (l.map fun b => (b.toNat : Int)) (by simpa using hn) (by
      intro i hi
      have := h.cellAt i (by omega)
      rw [Nat.zero_add, this]
      simp [List.getD, List.getElem?_eq_getElem (show i < l.length by omega), bv]) dst hd
    rw [hc, strOfNums_bytes]; rfl

/-- Behind a call that has made blocks: all old cells, all old marks read as before. -/
theorem bcell {W w1 : World} (hb : Below W.heap.size W w1) : (∀ b o, b < W.heap.size → w1.cell? ⟨b, o, none⟩ = W.cell? ⟨b, o, none⟩) ∧ (∀ b o, b < W.heap.size → w1.frozen? ⟨b, o, none⟩ = W.frozen? ⟨b, o, none⟩) :=
  ⟨fun b o h => hb.cell (p := ⟨b, o, none⟩) h, fun b o h => hb.frozen (p := ⟨b, o, none⟩) h⟩
theorem bch {a b c : World} (h1 : Below a.heap.size a b) (h2 : Below b.heap.size b c) : Below a.heap.size a c := h1.trans (h2.mono h1.size)

/-- A world that is W with new blocks behind it. The class of worlds for a region that draws its order and whose callees make memory of their own. -/
structure Beyond (W : World) where
  x : World
  h : Below W.heap.size W x
instance (W : World) : Nonempty (Beyond W) := ⟨⟨W, Below.refl _ _⟩⟩

/-- A region that draws its order, whose operations yield one value in whatever world beyond W, walked once in the order of the text. -/
theorem wp_region_below {P : Program} {id : Nat} {Q : Exit → Act → World → Prop} {a : Act} {w : World} {l : List Oper} (hm : P.follows .mixedOrders = true) (hB : Region.lexB .any l.toArray = true)
    (h : wpQuiet P l.toArray (fun w' => ∃ n : Beyond w, w' = n.x) (fun a' => ∀ w', (∃ n : Beyond w, w' = n.x) → Q .normal a' w') l a) : (Code.region id l.toArray true).wp P Q a w :=
  wp_region_quiet (C := fun w' => ∃ n : Beyond w, w' = n.x) hm hB ⟨⟨_, (Below.refl w.heap.size w).drew⟩, rfl⟩ (by simpa using h)

/-- A callee's contract, met in a world beyond W. -/
theorem quiet_below {P : Program} {f : FuncId} {args : Array Value} {W : World} {n : Beyond W} {v : Value}
    (h : Calls P f args n.x fun e w' => e = .returned v ∧ Below n.x.heap.size n.x w') : Calls P f args n.x fun e w'' => e = .returned v ∧ ∃ m : Beyond W, w'' = m.x :=
  h.mono fun _ _ ⟨he, hb⟩ => ⟨he, ⟨_, bch n.h hb⟩, rfl⟩
theorem quiet_below_same {P : Program} {f : FuncId} {args : Array Value} {W : World} {n : Beyond W} {v : Value}
    (h : Calls P f args n.x fun e w' => e = .returned v ∧ n.x = w') : Calls P f args n.x fun e w'' => e = .returned v ∧ ∃ m : Beyond W, w'' = m.x :=
  h.mono fun _ _ ⟨he, hb⟩ => ⟨he, n, hb.symm⟩
theorem beyond_below {W w : World} (h : ∃ n : Beyond W, w = n.x) : Below W.heap.size W w := by
  obtain ⟨n, rfl⟩ := h; exact n.h
theorem beyond_cells {W : World} : (∀ (n : Beyond W) b o, b < W.heap.size → n.x.cell? ⟨b, o, none⟩ = W.cell? ⟨b, o, none⟩) ∧ (∀ (n : Beyond W) b o, b < W.heap.size → n.x.frozen? ⟨b, o, none⟩ = W.frozen? ⟨b, o, none⟩) :=
  ⟨fun n => (bcell n.h).1, fun n => (bcell n.h).2⟩
theorem drewN_below (w : World) (n : Nat) : Below w.heap.size w (w.drewN n) := ⟨rfl, rfl, rfl, Nat.le_refl _, fun _ _ => rfl⟩
end Go.Proofs.YtpledhipdiephaaDoor
