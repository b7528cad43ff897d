/- Bit operations of Go's int on numbers from 0 on, as operations of natural numbers. Small laws on rows of cells that a call itself has made: one element appended; the bytes of such a row as a string. They hold over any program. Small facts on strings of bytes and the lists of their bytes, in the walk's spelling. Numbers in groups of seven bits and in eight bytes: the plain functions on lists of bytes, and what is true of them. Nothing of a program is imported. leb.encodable, leb.Size, leb.Put and ligref1.PutNum: what they return. leb.Next and ligref1.NextNum: both return what 'nextS' says. Reading back what was written in groups of seven bits, and what a reading that succeeds tells. Plain lists, no program. ligref1.NextNum returns what 'nextS' says. -/
import Derived.Laws.BitsAllLaws
import Derived.IntWalk
import Derived.WalkKit
import Derived.ProofKit
import Derived.Below
import Derived.Laws.BytesArg
import Derived.Laws.CopyOwn
import Derived.Deep.QuietTactic
import Derived.BigQuiet
import Derived.WalkLawsBesides
import Derived.WalkSpells
import Derived.Test.YtfikbaoiialfeaaDoorRows
import Derived.Handy
import Derived.Lib.Hide
import Derived.Outline
namespace Go.Proofs.YtfikbaoiialfeaaDoor
open Go.RowKit

end Go.Proofs.YtfikbaoiialfeaaDoor
namespace Go.Proofs.YtfikbaoiialfeaaDoor
open Go.RowKit

/-- A byte as a value. -/
def bv (b : UInt8) : Value := .int .u8 (b.toNat : Int)
/-- A list of bytes as a string's value. -/
def strV (l : List UInt8) : Value := .string ⟨l.toArray⟩

theorem bv_ofNat {n : Nat} (h : n < 256) : bv (UInt8.ofNat n) = .int .u8 (n : Int) := by
  unfold bv; rw [UInt8.toNat_ofNat', Nat.mod_eq_of_lt (show n < 2 ^ 8 from h)]
theorem below_grown {base : Nat} {w w' : World} {v : Value} {e : TypeId} {size n : Nat} {xs : List Value} (hown : w.ownsRow base e size v n xs)
    (hg : w.grownBy w' v.ownBlock) (hb : base ≤ w.heap.size) : Below base w w' :=
  (Below.refl base w).grown hg hb (fun k hk => (hown.lt k hk).1)

theorem strOfNums_bytes (l : List UInt8) : strOfNums (l.map fun b => (b.toNat : Int)) = ⟨l.toArray⟩ := by
  unfold strOfNums
  congr 1
  congr 1
  induction l with
  | nil => rfl
  | cons b l ih => simp only [List.map_cons, ih]; congr 1; simp

/-- The bytes of a row of the call's own, as a string. -/
theorem conv_own {P : Program} {w : World} {base : Nat} {e0 e : TypeId} {v : Value} {n : Nat} {l : List UInt8} (h : w.ownsRow base e0 1 v n (l.map bv))
    (src dst : TypeId) (hs : P.underlying src = some (.slice e)) (he : P.underlying e = some (.int .u8)) (hd : P.underlying dst = some .string) :
    (convert src dst v).run P w = .ok (strV l) w := by
  have hn : l.length = n := by have := h.1; simpa using this
  rcases h.2 with ⟨rfl, rfl⟩ | ⟨g, cap, cur, rfl, hb, hg, hnc, hcm, hcs, htake⟩
  · obtain rfl : l = [] := List.eq_nil_of_length_eq_zero hn
    exact run_convert_bytes_nil w src e hs he 0 0 dst hd
  · have hc := run_convert_bytes_arg (P := P) w src e hs he g 0 n cap (l.map fun b => (b.toNat : Int)) (by simpa using hn) (by
      intro i hi
      have := h.cellAt i (by omega)
      rw [Nat.zero_add, this]
      simp [List.getD, List.getElem?_eq_getElem (show i < l.length by omega), bv]) dst hd
    rw [hc, strOfNums_bytes]; rfl

/-- Behind a call that has made blocks: all old cells, all old marks read as before. -/
theorem bcell {W w1 : World} (hb : Below W.heap.size W w1) : (∀ b o, b < W.heap.size → w1.cell? ⟨b, o, none⟩ = W.cell? ⟨b, o, none⟩) ∧ (∀ b o, b < W.heap.size → w1.frozen? ⟨b, o, none⟩ = W.frozen? ⟨b, o, none⟩) :=
  ⟨fun b o h => hb.cell (p := ⟨b, o, none⟩) h, fun b o h => hb.frozen (p := ⟨b, o, none⟩) h⟩
theorem bch {a b c : World} (h1 : Below a.heap.size a b) (h2 : Below b.heap.size b c) : Below a.heap.size a c := h1.trans (h2.mono h1.size)

/-- A world that is W with new blocks behind it. The class of worlds for a region that draws its order and whose callees make memory of their own. -/
structure Beyond (W : World) where
  x : World
  h : Below W.heap.size W x
instance (W : World) : Nonempty (Beyond W) := ⟨⟨W, Below.refl _ _⟩⟩

/-- A region that draws its order, whose operations yield one value in whatever world beyond W, walked once in the order of the text. -/
theorem wp_region_below {P : Program} {id : Nat} {Q : Exit → Act → World → Prop} {a : Act} {w : World} {l : List Oper} (hm : P.follows .mixedOrders = true) (hB : Region.lexB .any l.toArray = true)
    (h : wpQuiet P l.toArray (fun w' => ∃ n : Beyond w, w' = n.x) (fun a' => ∀ w', (∃ n : Beyond w, w' = n.x) → Q .normal a' w') l a) : (Code.region id l.toArray true).wp P Q a w :=
  wp_region_quiet (C := fun w' => ∃ n : Beyond w, w' = n.x) hm hB ⟨⟨_, (Below.refl w.heap.size w).drew⟩, rfl⟩ (by simpa using h)

/-- A callee's contract, met in a world beyond W. -/
theorem quiet_below {P : Program} {f : FuncId} {args : Array Value} {W : World} {n : Beyond W} {v : Value}
    (h : Calls P f args n.x fun e w' => e = .returned v ∧ Below n.x.heap.size n.x w') : Calls P f args n.x fun e w'' => e = .returned v ∧ ∃ m : Beyond W, w'' = m.x :=
  h.mono fun _ _ ⟨he, hb⟩ => ⟨he, ⟨_, bch n.h hb⟩, rfl⟩
theorem quiet_below_same {P : Program} {f : FuncId} {args : Array Value} {W : World} {n : Beyond W} {v : Value}
    (h : Calls P f args n.x fun e w' => e = .returned v ∧ n.x = w') : Calls P f args n.x fun e w'' => e = .returned v ∧ ∃ m : Beyond W, w'' = m.x :=
  h.mono fun _ _ ⟨he, hb⟩ => ⟨he, n, hb.symm⟩
theorem beyond_below {W w : World} (h : ∃ n : Beyond W, w = n.x) : Below W.heap.size W w := by
  obtain ⟨n, rfl⟩ := h; exact n.h
theorem beyond_cells {W : World} : (∀ (n : Beyond W) b o, b < W.heap.size → n.x.cell? ⟨b, o, none⟩ = W.cell? ⟨b, o, none⟩) ∧ (∀ (n : Beyond W) b o, b < W.heap.size → n.x.frozen? ⟨b, o, none⟩ = W.frozen? ⟨b, o, none⟩) :=
  ⟨fun n => (bcell n.h).1, fun n => (bcell n.h).2⟩
theorem drewN_below (w : World) (n : Nat) : Below w.heap.size w (w.drewN n) := ⟨rfl, rfl, rfl, Nat.le_refl _, fun _ _ => rfl⟩
end Go.Proofs.YtfikbaoiialfeaaDoor
namespace Go.Proofs.YtfikbaoiialfeaaDoor
open Go.RowKit

theorem str_len (s : ByteArray) : s.data.toList.length = s.size := by simp
theorem str_nil {s : ByteArray} (h : s.size = 0) : s = ByteArray.empty := by
  have : s.data = #[] := Array.eq_empty_of_size_eq_zero h
  exact ByteArray.ext this
theorem str_ne {s : ByteArray} (h : 0 < s.size) : s.data.toList ≠ [] := by
  intro e
  have h2 := str_len s
  rw [e] at h2
  simp only [List.length_nil] at h2
  omega
theorem str_ne' {s : ByteArray} (h : 0 < s.size) : s.toList.isEmpty = false := by
  rw [ByteArray.toList_eq, List.isEmpty_eq_false_iff]; exact str_ne h
theorem str_ne'' {s : ByteArray} (h : 0 < s.size) : (s.toList == []) = false := by
  rw [ByteArray.toList_eq, beq_eq_false_iff_ne]; exact str_ne h
end Go.Proofs.YtfikbaoiialfeaaDoor
namespace Go.Proofs.YtfikbaoiialfeaaDoor
open Go.RowKit

def encB (v : Int) : Bool := decide (0 ≤ v ∧ v ≤ 72057594037927935)

/-- The groups of v, the least first; fuel f. -/
def grp : Nat → Nat → List UInt8
  | 0, v => [UInt8.ofNat v]
  | f + 1, v => if v < 128 then [UInt8.ofNat v] else UInt8.ofNat (v % 128 + 128) :: grp f (v / 128)

def putL (v : Int) : List UInt8 := if encB v then grp 7 v.toNat else []

/-- One reading: f rounds are left, k are done, u is the sum so far, i is the place. -/
def nx (l : List UInt8) : Nat → Nat → Nat → Nat → Int × Int × Int
  | 0, _, _, _ => (0, 0, 4)
  | f + 1, k, u, i =>
    match l[i]? with
    | none => (0, 0, 2)
    | some b =>
      if 128 ≤ b.toNat then nx l f (k + 1) (u + b.toNat % 128 * 128 ^ k) (i + 1)
      else if b.toNat = 0 ∧ 0 < k then (0, 0, 3)
      else (((u + b.toNat % 128 * 128 ^ k : Nat) : Int), ((i + 1 : Nat) : Int), 0)

def nextS (l : List UInt8) (a : Int) : Int × Int × Int :=
  if a < 0 ∨ (l.length : Int) < a then (0, 0, 1) else nx l 8 0 0 a.toNat

theorem nx_short {l : List UInt8} {f k u i : Nat} (h : l.length ≤ i) : nx l (f + 1) k u i = (0, 0, 2) := by
  unfold nx; rw [List.getElem?_eq_none h]
theorem nx_more {l : List UInt8} {f k u i : Nat} {b : UInt8} (hb : l[i]? = some b) (h : 128 ≤ b.toNat) :
    nx l (f + 1) k u i = nx l f (k + 1) (u + b.toNat % 128 * 128 ^ k) (i + 1) := by
  rw [nx, hb]; simp only []; rw [if_pos h]
/-! ### How many groups, and which -/
theorem grp_small {f v : Nat} (h : v < 128) : grp f v = [UInt8.ofNat v] := by
  cases f with
  | zero => rfl
  | succ f => rw [grp, if_pos h]
theorem grp_big {f v : Nat} (h : 128 ≤ v) : grp (f + 1) v = UInt8.ofNat (v % 128 + 128) :: grp f (v / 128) := by
  rw [grp, if_neg (by omega)]
end Go.Proofs.YtfikbaoiialfeaaDoor
namespace Go.Proofs.YtfikbaoiialfeaaDoor
open Go.RowKit

theorem encodable_any (v : Int) (w : World) :
    Calls Tryd.prog 100 #[.int .i64 v] w fun e w' => e = .returned (.bool (encB v)) ∧ w = w' := by
  by_cases h0 : 0 ≤ v
  · by_cases h1 : v ≤ 72057594037927935
    · have hb : encB v = true := by simp [encB]; omega
      go_enter Tryd.func100, Tryd.ntmps100
      go_wp2
      go_ret
      first | exact ⟨rfl, rfl⟩ | exact ⟨by rw [hb]; rfl, rfl⟩
    · have hb : encB v = false := by simp [encB]; omega
      go_enter Tryd.func100, Tryd.ntmps100
      go_wp2
      go_ret
      first | exact ⟨rfl, rfl⟩ | exact ⟨by rw [hb]; rfl, rfl⟩
  · have hb : encB v = false := by simp [encB]; omega
    go_enter Tryd.func100, Tryd.ntmps100
    go_wp2
    go_ret
    first | exact ⟨rfl, rfl⟩ | exact ⟨by rw [hb]; rfl, rfl⟩

theorem encB_nat {v : Int} (h : encB v = true) : ∃ x : Nat, v = x ∧ x ≤ 72057594037927935 := by
  simp [encB] at h
  exact ⟨v.toNat, by omega, by omega⟩

end Go.Proofs.YtfikbaoiialfeaaDoor
namespace Go.Proofs.YtfikbaoiialfeaaDoor
open Go.RowKit

end Go.Proofs.YtfikbaoiialfeaaDoor
namespace Go.Proofs.YtfikbaoiialfeaaDoor

/-- What a reading that succeeds tells: the bytes are the groups of the number. -/
theorem nx_ok (l : List UInt8) : ∀ (f k u i : Nat) (V E : Int), nx l (f + 1) k u i = (V, E, 0) →
    ∃ m x : Nat, V = ((u + x * 128 ^ k : Nat) : Int) ∧ E = ((i + m : Nat) : Int) ∧ 1 ≤ m ∧ i + m ≤ l.length ∧ x < 128 ^ (f + 1) ∧ (0 < k → 0 < x) ∧ grp f x = (l.drop i).take m ∧
      ∀ j, i ≤ j → j < i + m → nx (l.take j) (f + 1) k u i = (0, 0, 2) := by
  intro f
  induction f with
  | zero =>
    intro k u i V E h
    unfold nx at h
    split at h
    · simp at h
    · rename_i b hb
      split at h
      · simp [nx] at h
      · rename_i h1
        split at h
        · simp at h
        · rename_i h2
          simp only [Prod.mk.injEq, and_true] at h
          obtain ⟨hi, hb'⟩ := List.getElem?_eq_some_iff.1 hb
          refine ⟨1, b.toNat, ?_, h.2.symm, by omega, by omega, by simp; omega, by omega, ?_, ?_⟩
          · rw [← h.1, Nat.mod_eq_of_lt (by omega)]
          · rw [List.drop_eq_getElem_cons hi, List.take_succ_cons, hb']; simp [grp]
          · intro j h3 h4
            exact nx_short (by rw [List.length_take]; omega)
  | succ f ih =>
    intro k u i V E h
    rw [nx] at h
    split at h
    · simp at h
    · rename_i b hb
      obtain ⟨hi, hb'⟩ := List.getElem?_eq_some_iff.1 hb
      have hlt := b.toNat_lt
      split at h
      · rename_i h1
        obtain ⟨m, x, h3, h4, h5, h6, h7, h8, h9, h10⟩ := ih _ _ _ _ _ h
        have hx := h8 (by omega)
        refine ⟨m + 1, b.toNat % 128 + x * 128, ?_, ?_, by omega, by omega, ?_, by omega, ?_, ?_⟩
        · rw [h3, Nat.pow_succ, Nat.add_mul, Nat.add_assoc, Nat.mul_comm (128 ^ k) 128, ← Nat.mul_assoc]
        · rw [h4]; congr 1; omega
        · rw [Nat.pow_succ 128 (f + 1)]; omega
        · rw [grp_big (by omega), show (b.toNat % 128 + x * 128) / 128 = x by omega, h9, List.drop_eq_getElem_cons hi, List.take_succ_cons, hb']
          congr 1
          rw [show (b.toNat % 128 + x * 128) % 128 + 128 = b.toNat by omega, UInt8.ofNat_toNat]
        · intro j h11 h12
          by_cases hj : j = i
          · exact nx_short (by rw [List.length_take]; omega)
          · have hg : (l.take j)[i]? = some b := by rw [List.getElem?_take, if_pos (by omega), hb]
            rw [nx_more hg h1]
            exact h10 j (by omega) (by omega)
      · rename_i h1
        split at h
        · simp at h
        · rename_i h2
          simp only [Prod.mk.injEq, and_true] at h
          refine ⟨1, b.toNat, ?_, h.2.symm, by omega, by omega, ?_, by omega, ?_, ?_⟩
          · rw [← h.1, Nat.mod_eq_of_lt (by omega)]
          · have : 128 ^ 1 ≤ 128 ^ (f + 1 + 1) := Nat.pow_le_pow_right (by omega) (by omega)
            omega
          · rw [List.drop_eq_getElem_cons hi, List.take_succ_cons, hb', grp_small (by omega)]; simp
          · intro j h3 h4
            exact nx_short (by rw [List.length_take]; omega)

theorem next_ok {l : List UInt8} {a V E : Int} (h : nextS l a = (V, E, 0)) :
    ∃ i m x : Nat, a = i ∧ V = x ∧ E = ((i + m : Nat) : Int) ∧ 1 ≤ m ∧ i + m ≤ l.length ∧ putL V = (l.drop i).take m ∧ x ≤ 72057594037927935 ∧
      ∀ j, i ≤ j → j < i + m → nextS (l.take j) a = (0, 0, 2) := by
  unfold nextS at h
  split at h
  · simp at h
  · rename_i h1
    obtain ⟨i, rfl⟩ := Int.eq_ofNat_of_zero_le (show 0 ≤ a by omega)
    rw [Int.toNat_natCast] at h
    obtain ⟨m, x, h3, h4, h5, h6, h7, h8, h9, h10⟩ := nx_ok l 7 0 0 i V E h
    have hV : V = (x : Int) := by rw [h3]; simp
    have he : encB (x : Int) = true := by simp [encB]; omega
    refine ⟨i, m, x, rfl, hV, h4, h5, h6, ?_, by omega, ?_⟩
    · rw [hV]; unfold putL; rw [if_pos he, Int.toNat_natCast, h9]
    · intro j h11 h12
      unfold nextS
      rw [if_neg (by rw [List.length_take]; omega), Int.toNat_natCast]
      exact h10 j h11 h12

end Go.Proofs.YtfikbaoiialfeaaDoor
namespace Go.Proofs.YtfikbaoiialfeaaDoor
open Go.RowKit

end Go.Proofs.YtfikbaoiialfeaaDoor
