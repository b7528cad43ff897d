/- Bit operations of Go's int on numbers from 0 on, as operations of natural numbers. Small laws on rows of cells that a call itself has made: one element appended; the bytes of such a row as a string. They hold over any program. Small facts on strings of bytes and the lists of their bytes, in the walk's spelling. Numbers in groups of seven bits and in eight bytes: the plain functions on lists of bytes, and what is true of them. Nothing of a program is imported. leb.encodable, leb.Size, leb.Put and ligref1.PutNum: what they return. leb.Next and ligref1.NextNum: both return what 'nextS' says. Reading back what was written in groups of seven bits, and what a reading that succeeds tells. Plain lists, no program. ligref1.NextNum returns what 'nextS' says. -/
import Derived.Laws.BitsAllLaws
import Derived.IntWalk
import Derived.WalkKit
import Derived.ProofKit
import Derived.Below
import Derived.Laws.BytesArg
import Derived.Laws.CopyOwn
import Derived.Deep.QuietTactic
import Derived.BigQuiet
import Derived.WalkLawsBesides
import Derived.WalkSpells
import Derived.Test.YthipnkbfdkmhaaaRows
import Derived.Handy
import Derived.Lib.Hide
import Derived.Outline
namespace Go.Proofs.Ythipnkbfdkmhaaa
open Go.RowKit

end Go.Proofs.Ythipnkbfdkmhaaa
namespace Go.Proofs.Ythipnkbfdkmhaaa
open Go.RowKit

/-- A byte as a value. -/
def bv (b : UInt8) : Value := .int .u8 (b.toNat : Int)
/-- A list of bytes as a string's value. -/
def strV (l : List UInt8) : Value := .string ⟨l.toArray⟩

theorem bv_ofNat {n : Nat} (h : n < 256) : bv (UInt8.ofNat n) = .int .u8 (n : Int) := by
  unfold bv; rw [UInt8.toNat_ofNat', Nat.mod_eq_of_lt (show n < 2 ^ 8 from h)]
theorem below_grown {base : Nat} {w w' : World} {v : Value} {e : TypeId} {size n : Nat} {xs : List Value} (hown : w.ownsRow base e size v n xs)
    (hg : w.grownBy w' v.ownBlock) (hb : base ≤ w.heap.size) : Below base w w' :=
  (Below.refl base w).grown hg hb (fun k hk => (hown.lt k hk).1)

/-- 'append(s, x)' of one element of one cell, s nil or the call's own. -/
theorem wpList_push {P : Program} {w : World} {ops : Array Oper} {rest : List Oper} {o : Oper} {a : Act} {Q : Exit → Act → World → Prop} (hgd : o.guard = none) (s x : Operand) (t : TypeId)
    (ho : o.op = .call { callee := .builtin .append, args := #[s, x], argTypes := #[t, t] })
    {base : Nat} (e : TypeId) (i : TypeInfo) (z : Value) (bytes : Nat) (ht : P.underlying t = some (.slice e)) (hi : P.info? e = some i) (hz : i.zero = some z)
    (hsize : i.size = 1) (hby : i.bytes = bytes) (hzs : z.cells.size = 1)
    {v : Value} {n : Nat} {xs : List Value} (hown : w.ownsRow base e 1 v n xs) (hs : a.eval s = v)
    (u : Value) (hx : a.eval x = .slice (some ⟨w.heap.size, 0, none⟩) 1 1) (h1 : u.oneCell' = true)
    (h63 : n + 1 ≤ maxLen) (hbytes : (n + 1) * bytes ≤ 140737488355328) (hbase : base ≤ w.heap.size)
    (h : ∀ v' w', w'.ownsRow base e 1 v' (n + 1) (xs ++ [u]) → Below base w w' → wpList P ops Q rest (a.put o.dst v') w') :
    wpList P ops Q (o :: rest) a (w.alloc (.cells #[u] e)) := by
  refine wpList_append_own _ hgd s x t ho base e i z 1 bytes ht hi hz hsize hby hzs (by decide) v n xs hs (hown.alloc _) ⟨w.heap.size, 0, none⟩ 1 1 [u] hx rfl ?_ (by simpa using h1) h63 hbytes (by simp; omega) ?_
  · intro j y hj
    match j, hj with
    | 0, hj => simp at hj; subst hj; simp [Addr.add]
  · intro v' w' h2 h3 _
    refine h v' w' h2 ?_
    have hb := below_grown (hown.alloc (.cells #[u] e)) h3 (by simp; omega)
    exact ((Below.refl base w).alloc hbase _).trans hb

theorem strOfNums_bytes (l : List UInt8) : strOfNums (l.map fun b => (b.toNat : Int)) = ⟨l.toArray⟩ := by
  unfold strOfNums
  congr 1
  congr 1
  induction l with
  | nil => rfl
  | cons b l ih => simp only [List.map_cons, ih]; congr 1; simp

/-- The bytes of a row of the call's own, as a string. -/
theorem conv_own {P : Program} {w : World} {base : Nat} {e0 e : TypeId} {v : Value} {n : Nat} {l : List UInt8} (h : w.ownsRow base e0 1 v n (l.map bv))
    (src dst : TypeId) (hs : P.underlying src = some (.slice e)) (he : P.underlying e = some (.int .u8)) (hd : P.underlying dst = some .string) :
    (convert src dst v).run P w = .ok (strV l) w := by
  have hn : l.length = n := by have := h.1; simpa using this
  rcases h.2 with ⟨rfl, rfl⟩ | ⟨g, cap, cur, rfl, hb, hg, hnc, hcm, hcs, htake⟩
  · obtain rfl : l = [] := List.eq_nil_of_length_eq_zero hn
    exact run_convert_bytes_nil w src e hs he 0 0 dst hd
  · have hc := run_convert_bytes_arg (P := P) w src e hs he g 0 n cap (l.map fun b => (b.toNat : Int)) (by simpa using hn) (by
      intro i hi
      have := h.cellAt i (by omega)
      rw [Nat.zero_add, this]
      simp [List.getD, List.getElem?_eq_getElem (show i < l.length by omega), bv]) dst hd
    rw [hc, strOfNums_bytes]; rfl

/-- Behind a call that has made blocks: all old cells, all old marks read as before. -/
theorem bcell {W w1 : World} (hb : Below W.heap.size W w1) : (∀ b o, b < W.heap.size → w1.cell? ⟨b, o, none⟩ = W.cell? ⟨b, o, none⟩) ∧ (∀ b o, b < W.heap.size → w1.frozen? ⟨b, o, none⟩ = W.frozen? ⟨b, o, none⟩) :=
  ⟨fun b o h => hb.cell (p := ⟨b, o, none⟩) h, fun b o h => hb.frozen (p := ⟨b, o, none⟩) h⟩
theorem bch {a b c : World} (h1 : Below a.heap.size a b) (h2 : Below b.heap.size b c) : Below a.heap.size a c := h1.trans (h2.mono h1.size)

/-- A world that is W with new blocks behind it. The class of worlds for a region that draws its order and whose callees make memory of their own. -/
structure Beyond (W : World) where
  x : World
  h : Below W.heap.size W x
instance (W : World) : Nonempty (Beyond W) := ⟨⟨W, Below.refl _ _⟩⟩

/-- A region that draws its order, whose operations yield one value in whatever world beyond W, walked once in the order of the text. -/
theorem wp_region_below {P : Program} {id : Nat} {Q : Exit → Act → World → Prop} {a : Act} {w : World} {l : List Oper} (hm : P.follows .mixedOrders = true) (hB : Region.lexB .any l.toArray = true)
    (h : wpQuiet P l.toArray (fun w' => ∃ n : Beyond w, w' = n.x) (fun a' => ∀ w', (∃ n : Beyond w, w' = n.x) → Q .normal a' w') l a) : (Code.region id l.toArray true).wp P Q a w :=
  wp_region_quiet (C := fun w' => ∃ n : Beyond w, w' = n.x) hm hB ⟨⟨_, (Below.refl w.heap.size w).drew⟩, rfl⟩ (by simpa using h)

/-- A callee's contract, met in a world beyond W. -/
theorem quiet_below {P : Program} {f : FuncId} {args : Array Value} {W : World} {n : Beyond W} {v : Value}
    (h : Calls P f args n.x fun e w' => e = .returned v ∧ Below n.x.heap.size n.x w') : Calls P f args n.x fun e w'' => e = .returned v ∧ ∃ m : Beyond W, w'' = m.x :=
  h.mono fun _ _ ⟨he, hb⟩ => ⟨he, ⟨_, bch n.h hb⟩, rfl⟩
theorem quiet_below_same {P : Program} {f : FuncId} {args : Array Value} {W : World} {n : Beyond W} {v : Value}
    (h : Calls P f args n.x fun e w' => e = .returned v ∧ n.x = w') : Calls P f args n.x fun e w'' => e = .returned v ∧ ∃ m : Beyond W, w'' = m.x :=
  h.mono fun _ _ ⟨he, hb⟩ => ⟨he, n, hb.symm⟩
theorem beyond_below {W w : World} (h : ∃ n : Beyond W, w = n.x) : Below W.heap.size W w := by
  obtain ⟨n, rfl⟩ := h; exact n.h
theorem beyond_cells {W : World} : (∀ (n : Beyond W) b o, b < W.heap.size → n.x.cell? ⟨b, o, none⟩ = W.cell? ⟨b, o, none⟩) ∧ (∀ (n : Beyond W) b o, b < W.heap.size → n.x.frozen? ⟨b, o, none⟩ = W.frozen? ⟨b, o, none⟩) :=
  ⟨fun n => (bcell n.h).1, fun n => (bcell n.h).2⟩
theorem drewN_below (w : World) (n : Nat) : Below w.heap.size w (w.drewN n) := ⟨rfl, rfl, rfl, Nat.le_refl _, fun _ _ => rfl⟩
end Go.Proofs.Ythipnkbfdkmhaaa
namespace Go.Proofs.Ythipnkbfdkmhaaa
open Go.RowKit

theorem str_len (s : ByteArray) : s.data.toList.length = s.size := by simp
theorem str_nil {s : ByteArray} (h : s.size = 0) : s = ByteArray.empty := by
  have : s.data = #[] := Array.eq_empty_of_size_eq_zero h
  exact ByteArray.ext this
theorem str_ne {s : ByteArray} (h : 0 < s.size) : s.data.toList ≠ [] := by
  intro e
  have h2 := str_len s
  rw [e] at h2
  simp only [List.length_nil] at h2
  omega
theorem str_ne' {s : ByteArray} (h : 0 < s.size) : s.toList.isEmpty = false := by
  rw [ByteArray.toList_eq, List.isEmpty_eq_false_iff]; exact str_ne h
theorem str_ne'' {s : ByteArray} (h : 0 < s.size) : (s.toList == []) = false := by
  rw [ByteArray.toList_eq, beq_eq_false_iff_ne]; exact str_ne h
theorem str_get {s : ByteArray} {i : Nat} (h : i < s.size) : s.data.toList[i]? = some s[i] := by
  rw [List.getElem?_eq_getElem (by simpa using h)]; rfl
theorem str_append (a b : ByteArray) : (a ++ b).data.toList = a.data.toList ++ b.data.toList := by
  rw [ByteArray.data_append, Array.toList_append]
end Go.Proofs.Ythipnkbfdkmhaaa
namespace Go.Proofs.Ythipnkbfdkmhaaa
open Go.RowKit

def encB (v : Int) : Bool := decide (0 ≤ v ∧ v ≤ 72057594037927935)

/-- The groups of v, the least first; fuel f. -/
def grp : Nat → Nat → List UInt8
  | 0, v => [UInt8.ofNat v]
  | f + 1, v => if v < 128 then [UInt8.ofNat v] else UInt8.ofNat (v % 128 + 128) :: grp f (v / 128)

def putL (v : Int) : List UInt8 := if encB v then grp 7 v.toNat else []

/-- One reading: f rounds are left, k are done, u is the sum so far, i is the place. -/
def nx (l : List UInt8) : Nat → Nat → Nat → Nat → Int × Int × Int
  | 0, _, _, _ => (0, 0, 4)
  | f + 1, k, u, i =>
    match l[i]? with
    | none => (0, 0, 2)
    | some b =>
      if 128 ≤ b.toNat then nx l f (k + 1) (u + b.toNat % 128 * 128 ^ k) (i + 1)
      else if b.toNat = 0 ∧ 0 < k then (0, 0, 3)
      else (((u + b.toNat % 128 * 128 ^ k : Nat) : Int), ((i + 1 : Nat) : Int), 0)

/-! ### How many groups, and which -/
theorem grp_small {f v : Nat} (h : v < 128) : grp f v = [UInt8.ofNat v] := by
  cases f with
  | zero => rfl
  | succ f => rw [grp, if_pos h]
theorem grp_big {f v : Nat} (h : 128 ≤ v) : grp (f + 1) v = UInt8.ofNat (v % 128 + 128) :: grp f (v / 128) := by
  rw [grp, if_neg (by omega)]
/-- How many groups x still has. -/
def gl (f x : Nat) : Nat := if x = 0 then 0 else (grp f x).length
theorem gl_zero (f : Nat) : gl f 0 = 0 := rfl
theorem gl_step {f x : Nat} (hx : 0 < x) (hb : x < 128 ^ (f + 1)) : gl f x = 1 + gl (f - 1) (x / 128) := by
  unfold gl
  rw [if_neg (by omega)]
  by_cases h : x < 128
  · rw [grp_small h, if_pos (by omega)]; rfl
  · cases f with
    | zero => simp at hb; omega
    | succ f =>
      rw [grp_big (by omega), if_neg (by omega)]
      simp only [List.length_cons, Nat.add_sub_cancel]; omega
theorem grp_first (v : Nat) : (grp 7 v).length = 1 + gl 6 (v / 128) := by
  by_cases h : v < 128
  · rw [grp_small h, show v / 128 = 0 by omega, gl_zero]; rfl
  · rw [grp_big (by omega)]; unfold gl; rw [if_neg (by omega)]; simp only [List.length_cons]; omega
theorem grp_pos (f v : Nat) : 0 < (grp f v).length := by
  cases f with
  | zero => simp [grp]
  | succ f => rw [grp]; split <;> simp
theorem grp_le (f v : Nat) : (grp f v).length ≤ f + 1 := by
  induction f generalizing v with
  | zero => simp [grp]
  | succ f ih =>
    rw [grp]; split
    · simp
    · have := ih (v / 128); simp only [List.length_cons]; omega

/-- The first n groups of v, each marked as having one behind it. -/
def marked : Nat → Nat → List UInt8
  | 0, _ => []
  | n + 1, v => UInt8.ofNat (v % 128 + 128) :: marked n (v / 128)
theorem marked_length (n v : Nat) : (marked n v).length = n := by
  induction n generalizing v with
  | zero => rfl
  | succ n ih => simp [marked, ih]
theorem marked_snoc (n v : Nat) : marked (n + 1) v = marked n v ++ [UInt8.ofNat (v / 128 ^ n % 128 + 128)] := by
  induction n generalizing v with
  | zero => simp [marked]
  | succ n ih =>
    rw [marked, ih (v / 128), marked]
    simp only [List.cons_append, Nat.div_div_eq_div_mul, Nat.pow_succ, Nat.mul_comm]
/-- The groups are marked but for the last one. -/
theorem grp_marked {f v : Nat} (hb : v < 128 ^ (f + 1)) : grp f v = marked ((grp f v).length - 1) v ++ [UInt8.ofNat (v / 128 ^ ((grp f v).length - 1))] := by
  induction f generalizing v with
  | zero => simp [grp, marked]
  | succ f ih =>
    by_cases h : v < 128
    · rw [grp_small h]; simp [marked]
    · have hq : v / 128 < 128 ^ (f + 1) := by rw [Nat.div_lt_iff_lt_mul (by decide)]; rwa [← Nat.pow_succ]
      have hp := grp_pos f (v / 128)
      rw [grp_big (by omega)]
      simp only [List.length_cons, Nat.add_sub_cancel]
      obtain ⟨m, hm⟩ : ∃ m, (grp f (v / 128)).length = m + 1 := ⟨_, (Nat.succ_pred_eq_of_pos hp).symm⟩
      have := ih hq
      rw [hm] at this ⊢
      simp only [Nat.add_sub_cancel] at this
      rw [marked, List.cons_append, Nat.pow_succ, Nat.mul_comm, ← Nat.div_div_eq_div_mul, ← this]
theorem last_small {f v : Nat} (hb : v < 128 ^ (f + 1)) : v / 128 ^ ((grp f v).length - 1) < 128 := by
  induction f generalizing v with
  | zero => simp [grp] at *; exact hb
  | succ f ih =>
    by_cases h : v < 128
    · rw [grp_small h]; simpa using h
    · have hq : v / 128 < 128 ^ (f + 1) := by rw [Nat.div_lt_iff_lt_mul (by decide)]; rwa [← Nat.pow_succ]
      have hp := grp_pos f (v / 128)
      rw [grp_big (by omega)]
      simp only [List.length_cons, Nat.add_sub_cancel]
      obtain ⟨m, hm⟩ : ∃ m, (grp f (v / 128)).length = m + 1 := ⟨_, (Nat.succ_pred_eq_of_pos hp).symm⟩
      have := ih hq
      rw [hm] at this ⊢
      simp only [Nat.add_sub_cancel] at this
      rwa [Nat.pow_succ, Nat.mul_comm, ← Nat.div_div_eq_div_mul]
end Go.Proofs.Ythipnkbfdkmhaaa
namespace Go.Proofs.Ythipnkbfdkmhaaa
open Go.RowKit

theorem Try.infoU8 : (Try.prog.info? 5).map (fun i => (i.zero, i.size, i.bytes)) = some (some (.int .u8 0), 1, 1) := by kernel_rfl

theorem encodable_any (v : Int) (w : World) :
    Calls Try.prog 133 #[.int .i64 v] w fun e w' => e = .returned (.bool (encB v)) ∧ w = w' := by
  by_cases h0 : 0 ≤ v
  · by_cases h1 : v ≤ 72057594037927935
    · have hb : encB v = true := by simp [encB]; omega
      go_enter Try.func133, Try.ntmps133
      go_wp2
      go_ret
      first | exact ⟨rfl, rfl⟩ | exact ⟨by rw [hb]; rfl, rfl⟩
    · have hb : encB v = false := by simp [encB]; omega
      go_enter Try.func133, Try.ntmps133
      go_wp2
      go_ret
      first | exact ⟨rfl, rfl⟩ | exact ⟨by rw [hb]; rfl, rfl⟩
  · have hb : encB v = false := by simp [encB]; omega
    go_enter Try.func133, Try.ntmps133
    go_wp2
    go_ret
    first | exact ⟨rfl, rfl⟩ | exact ⟨by rw [hb]; rfl, rfl⟩

theorem encB_nat {v : Int} (h : encB v = true) : ∃ x : Nat, v = x ∧ x ≤ 72057594037927935 := by
  simp [encB] at h
  exact ⟨v.toNat, by omega, by omega⟩

set_option maxRecDepth 100000 in
set_option maxHeartbeats 400000 in
theorem size_any (v : Int) (w : World) :
    Calls Try.prog 127 #[.int .i64 v] w fun e w' => e = .returned (.int .i64 ((putL v).length : Int)) ∧ w = w' := by
  by_cases hv : encB v = true
  · obtain ⟨x, rfl, hx⟩ := encB_nat hv
    have hp : putL (x : Int) = grp 7 x := by unfold putL; rw [if_pos hv]; rfl
    have hl := grp_first x
    have hle := grp_le 7 x
    rw [hp]
    have HL := Lib.hid hl; clear hl hp
    go_enter Try.func127, Try.ntmps127
    go_wp2_with (go_at_call 133; refine (encodable_any _ _).mono ?_; rintro e w' ⟨rfl, rfl⟩)
    go_loop [0, 3] (fun a n => ∃ y k : Nat, 1 ≤ k ∧ k ≤ 8 ∧ y < 128 ^ (8 - k) ∧ Hid ((grp 7 x).length = k + gl (7 - k) y) ∧ a = .int .i64 y ∧ n = .int .i64 k) (fun a _ => (intOf a).toNat)
    case atStart => exact ⟨x / 128, 1, by omega, by omega, by omega, HL, by go_num, rfl⟩
    case round =>
      obtain ⟨y, k, hk1, hk8, hy, HN, rfl, rfl⟩ := hrel
      by_cases h0 : 0 < y
      · have hk7 : k ≤ 7 := by
          rcases Nat.lt_or_ge 7 k with h | h
          · exact absurd hy (by rw [show 8 - k = 0 by omega]; simp; omega)
          · exact h
        have hs := gl_step (f := 7 - k) h0 (by rw [show 7 - k + 1 = 8 - k by omega]; exact hy)
        have HR : Hid ((grp 7 x).length = (k + 1) + gl (7 - (k + 1)) (y / 128)) := Lib.hid (by
          rw [HN.out, hs, show 7 - k - 1 = 7 - (k + 1) by omega]; omega)
        have hy2 : y / 128 < 128 ^ (8 - (k + 1)) := by
          rw [show 8 - k = 8 - (k + 1) + 1 by omega, Nat.pow_succ] at hy; rw [Nat.div_lt_iff_lt_mul (by decide)]; exact hy
        clear hs
        go_wp2
        go_round
        case rel => exact ⟨y / 128, k + 1, by omega, by omega, hy2, HR, by go_num, by go_num⟩
        case measure => simp [intOf]; omega
      · obtain rfl : y = 0 := by omega
        go_wp2
        go_ret
        exact ⟨by rw [HN.out, gl_zero]; rfl, rfl⟩
  · have hv' : encB v = false := by simpa using hv
    have hp : putL v = [] := by unfold putL; rw [if_neg hv]
    rw [hp]
    clear hv hp
    go_enter Try.func127, Try.ntmps127
    go_wp2_with (go_at_call 133; refine (encodable_any _ _).mono ?_; rintro e w' ⟨rfl, rfl⟩)
    go_ret
    exact ⟨rfl, rfl⟩

set_option maxRecDepth 100000 in
set_option maxHeartbeats 400000 in
theorem putNum_any (v : Int) (w : World) :
    Calls Try.prog 60 #[.int .i64 v] w fun e w' => e = .returned (strV (putL v)) ∧ Below w.heap.size w w' := by
  by_cases hv : encB v = true
  · obtain ⟨x, rfl, hx⟩ := encB_nat hv
    have hp : putL (x : Int) = grp 7 x := by unfold putL; rw [if_pos hv]; rfl
    have HP := Lib.hid hp; clear hp
    obtain ⟨i0, hi, hz0, hz1, hz2⟩ := info_parts Try.infoU8
    clear hv
    go_enter Try.func60, Try.ntmps60
    go_wp2
    go_loopw [0, 3] (fun a b wr => ∃ (y k : Nat) (l : List UInt8), k ≤ 7 ∧ y < 128 ^ (8 - k) ∧ y ≤ x ∧ l.length = k ∧ Hid (grp 7 x = l ++ grp (7 - k) y) ∧ wr.ownsRow w.heap.size 5 1 b k (l.map bv) ∧ Below w.heap.size w wr ∧ a = .int .i64 y) (fun a _ _ => (intOf a).toNat)
    case atStart => exact ⟨x, 0, [], by omega, by omega, by omega, rfl, Lib.hid rfl, World.ownsRow_nil _ _ _ _, Below.refl _ _, rfl⟩
    case round =>
      obtain ⟨y, k, l, hk, hy, hyx, hl, HN, hown, hbel, rfl⟩ := hrel
      have hsz := hbel.size
      by_cases h1 : 127 < y
      · have hk7 : k < 7 := by
          rcases Nat.lt_or_ge k 7 with h | h
          · exact h
          · exact absurd hy (by rw [show 8 - k = 1 by omega]; simp; omega)
        have hy2 : y / 128 < 128 ^ (8 - (k + 1)) := by
          rw [show 8 - k = 8 - (k + 1) + 1 by omega, Nat.pow_succ] at hy; rw [Nat.div_lt_iff_lt_mul (by decide)]; exact hy
        have HR : Hid (grp 7 x = (l ++ [UInt8.ofNat (y % 128 + 128)]) ++ grp (7 - (k + 1)) (y / 128)) := Lib.hid (by
          rw [HN.out, show 7 - k = 7 - (k + 1) + 1 by omega, grp_big (by omega), List.append_assoc]; rfl)
        have HB : Hid (bv (UInt8.ofNat (y % 128 + 128)) = .int .u8 ((y : Int) % 128 + 128)) := Lib.hid (by
          unfold bv; rw [UInt8.toNat_ofNat']; congr 1; omega)
        have Hl := Lib.hid hl; clear hl
        go_wp2_with (at_builtin; refine wpList_push rfl (.tmp 12) (.tmp 17) 125 rfl 5 i0 (.int .u8 0) 1 Try.underlying125 hi hz0 hz1 hz2 rfl hown rfl _ rfl rfl (by unfold maxLen; omega) (by omega) hsz ?_; intro b1 w1 hown1 hbel1)
        go_roundw
        case rel => exact ⟨y / 128, k + 1, l ++ [UInt8.ofNat (y % 128 + 128)], by omega, hy2, by omega, by simp [Hl.out], HR, by rw [List.map_append, List.map_cons, List.map_nil, HB.out]; exact hown1, hbel.trans hbel1, by go_num⟩
        case measure => simp [intOf]; omega
      · have HR : Hid (grp 7 x = l ++ [UInt8.ofNat y]) := Lib.hid (by
          rw [HN.out, grp_small (by omega)])
        have HB : Hid (bv (UInt8.ofNat y) = .int .u8 (y : Int)) := Lib.hid (by
          unfold bv; rw [UInt8.toNat_ofNat']; congr 1; omega)
        have Hl := Lib.hid hl; clear hl
        go_wp2_with (at_builtin; refine wpList_push rfl (.tmp 21) (.tmp 24) 125 rfl 5 i0 (.int .u8 0) 1 Try.underlying125 hi hz0 hz1 hz2 rfl hown rfl _ rfl rfl (by unfold maxLen; omega) (by omega) hsz ?_; intro b1 w1 hown1 hbel1; have hcv := conv_own (P := Try.prog) (l := l ++ [UInt8.ofNat y]) (by rw [List.map_append, List.map_cons, List.map_nil, HB.out]; exact hown1) 125 9 Try.underlying125 Try.underlying5 Try.underlying9)
        go_ret
        exact ⟨by rw [HP.out, HR.out]; rfl, hbel.trans hbel1⟩
  · have hp : putL v = [] := by unfold putL; rw [if_neg hv]
    have H0 : v < 0 ∨ 72057594037927935 < v := by simp [encB] at hv; omega
    have HP := Lib.hid hp; clear hp hv
    rcases H0 with h | h
    all_goals
      go_enter Try.func60, Try.ntmps60
      go_wp2
      go_ret
      exact ⟨by rw [HP.out]; rfl, Below.refl _ _⟩

theorem u8_mark (y : Nat) : bits .or .u8 ((y % 256 : Nat) : Int) 128 = ((y % 128 + 128 : Nat) : Int) := by
  have h := u8_or_nat (y % 256) 128 (by omega) (by omega)
  rw [show ((128 : Nat) : Int) = 128 from rfl] at h
  rw [h]
  congr 1
  rcases Nat.lt_or_ge (y % 256) 128 with g | g
  · have := nat_join 7 128 (y % 256) (by decide) (by omega)
    rw [Nat.or_comm, this]; omega
  · have e : y % 256 = 128 + y % 128 := by omega
    rw [e]
    have := nat_join 7 128 (y % 128) (by decide) (by omega)
    rw [← this, Nat.or_assoc, Nat.or_comm (y % 128) 128, ← Nat.or_assoc, Nat.or_self]; rw [this]; omega
theorem u8_clear (q : Nat) (h : q < 128) : bits .andNot .u8 ((q + 128 : Nat) : Int) 128 = (q : Int) := by
  have := u8_andNot_nat (q + 128) 128 (by omega) (by omega)
  rw [show ((128 : Nat) : Int) = 128 from rfl] at this
  rw [this, show 255 - 128 = 127 from rfl, nat_mask7]
  congr 1; omega

set_option maxRecDepth 100000 in
set_option maxHeartbeats 800000 in
theorem put_any (v : Int) (w : World) :
    Calls Try.prog 113 #[.int .i64 v] w fun e w' => e = .returned (strV (putL v)) ∧ Below w.heap.size w w' := by
  by_cases hv : encB v = true
  · obtain ⟨x, rfl, hx⟩ := encB_nat hv
    have hp : putL (x : Int) = grp 7 x := by unfold putL; rw [if_pos hv]; rfl
    have hpos := grp_pos 7 x
    have hle := grp_le 7 x
    have hmk := grp_marked (f := 7) (v := x) (by omega)
    have hls := last_small (f := 7) (v := x) (by omega)
    obtain ⟨n, hn⟩ : ∃ n, (grp 7 x).length = n := ⟨_, rfl⟩
    have hsize : (putL (x : Int)).length = n := by rw [hp, hn]
    rw [hn] at hpos hle hmk hls
    have HP := Lib.hid hp; have HM := Lib.hid hmk; have HS := Lib.hid hsize; clear hp hmk hn hsize
    obtain ⟨i0, hi, hz0, hz1, hz2⟩ := info_parts Try.infoU8
    clear hv
    have hn0 : ((n : Int) == 0) = false := by simp; omega
    go_enter Try.func113, Try.ntmps113
    go_wp2_with (first | (go_at_call 127; refine (size_any _ _).mono ?_; rintro e w' ⟨rfl, rfl⟩; rw [HS.out]) | (at_make; refine wpList_make_full _ rfl (.tmp 10) (.tmp 10) 125 rfl w.heap.size 5 i0 (.int .u8 0) 1 Try.underlying125 hi hz0 hz1 .i64 .i64 (n : Int) (n : Int) n rfl rfl rfl rfl (by rw [hz2]; omega) (by unfold maxLen; omega) (Nat.le_refl _) ?_; intro w1 hown1 hgr1))
    have hbel0 : Below w.heap.size w w1 := (Below.refl _ w).grown hgr1 (Nat.le_refl _) (by simp)
    have hrow0 : w1.ownsRow w.heap.size 5 1 (.slice (some ⟨w.heap.size, 0, none⟩) n n) n ((marked 0 x).map bv ++ List.replicate (n - 0) (.int .u8 0)) := by
      have := hown1
      rw [show (Value.int IntKind.u8 0).cells = #[.int .u8 0] from rfl, toList_madeCells_one, Nat.mul_one] at this
      simpa [marked] using this
    clear hown1 hgr1
    go_loopw [0, 14] (fun a i wr => ∃ k y : Nat, k ≤ n ∧ y ≤ x ∧ Hid (y = x / 128 ^ k) ∧ wr.ownsRow w.heap.size 5 1 (.slice (some ⟨w.heap.size, 0, none⟩) n n) n ((marked k x).map bv ++ List.replicate (n - k) (.int .u8 0)) ∧ Below w.heap.size w wr ∧ a = .int .i64 y ∧ i = .int .i64 k) (fun _ i _ => n - (intOf i).toNat)
    case atStart => exact ⟨0, x, by omega, by omega, Lib.hid (by simp), hrow0, hbel0, rfl, rfl⟩
    case round =>
      clear hrow0 hbel0
      obtain ⟨k, y, hk, hyx, HY, hown, hbel, rfl, rfl⟩ := hrel
      have hsz := hbel.size
      by_cases hlt : k < n
      · obtain ⟨c0, hc0⟩ : ∃ c0, wr.cell? ⟨w.heap.size, k, none⟩ = some c0 := by
          refine ⟨_, (hown.cellAt k (by omega)).trans (List.getElem?_eq_getElem (by simp [marked_length]; omega))⟩
        have hfr := hown.frozenAt k
        have hst := (hown.stored k (.int .u8 (bits .or .u8 ((y : Int) % 256) 128))).1
        have HST : Hid ((wr.setCell ⟨w.heap.size, k, none⟩ (.int .u8 (bits .or .u8 ((y : Int) % 256) 128))).ownsRow w.heap.size 5 1 (.slice (some ⟨w.heap.size, 0, none⟩) n n) n ((marked (k + 1) x).map bv ++ List.replicate (n - (k + 1)) (.int .u8 0))) := Lib.hid (by
          have e : bits .or .u8 ((y : Int) % 256) 128 = ((y % 128 + 128 : Nat) : Int) := by rw [← u8_mark]; congr 1
          have e2 : ((marked k x).map bv ++ List.replicate (n - k) (Value.int .u8 0)).set k (.int .u8 (bits .or .u8 ((y : Int) % 256) 128)) = (marked (k + 1) x).map bv ++ List.replicate (n - (k + 1)) (.int .u8 0) := by
            rw [List.set_append_right _ _ (by simp [marked_length])]
            simp only [List.length_map, marked_length, Nat.sub_self]
            rw [show n - k = (n - (k + 1)) + 1 by omega, List.replicate_succ, List.set_cons_zero, marked_snoc, List.map_append, List.append_assoc, e, ← HY.out]
            simp only [List.map_cons, List.map_nil, List.cons_append, List.nil_append]
            rw [bv_ofNat (by omega)]
          rw [← e2]; exact hst)
        have HB := Lib.hid (hbel.setCell (p := ⟨w.heap.size, k, none⟩) (Nat.le_refl _) (.int .u8 (bits .or .u8 ((y : Int) % 256) 128)))
        clear hst
        go_wp2
        go_roundw
        case rel => exact ⟨k + 1, y / 128, by omega, by omega, Lib.hid (by rw [HY.out, Nat.div_div_eq_div_mul, Nat.pow_succ]), HST.out, HB.out, by go_num, by go_num⟩
        case measure => simp [intOf]; omega
      · have hkn : k = n := by omega
        have hxs : (marked k x).map bv ++ List.replicate (n - k) (Value.int .u8 0) = (marked n x).map bv := by rw [hkn]; simp
        rw [hxs] at hown
        clear hxs
        obtain ⟨m, hm⟩ : ∃ m, n = m + 1 := ⟨n - 1, by omega⟩
        obtain ⟨q, hq⟩ : ∃ q, x / 128 ^ (n - 1) = q := ⟨_, rfl⟩
        obtain ⟨c, hc⟩ : ∃ c : Nat, q + 128 = c := ⟨_, rfl⟩
        rw [hq] at hls
        have hmn : marked n x = marked (n - 1) x ++ [UInt8.ofNat c] := by
          rw [hm, marked_snoc]; simp only [Nat.add_sub_cancel]
          rw [show x / 128 ^ m = q by rw [← hq, hm]; rfl, Nat.mod_eq_of_lt hls, hc]
        have hcell : wr.cell? ⟨w.heap.size, n - 1, none⟩ = some (.int .u8 (c : Int)) := by
          rw [hown.cellAt (n - 1) (by omega), hmn, List.map_append, List.getElem?_append_right (by simp [marked_length])]
          simp only [List.length_map, marked_length, Nat.sub_self, List.map_cons, List.map_nil, List.getElem?_cons_zero]
          rw [bv_ofNat (by omega)]
        have hfr := hown.frozenAt (n - 1)
        have hst := (hown.stored (n - 1) (.int .u8 (bits .andNot .u8 (c : Int) 128))).1
        have e : bits .andNot .u8 (c : Int) 128 = (q : Int) := by rw [← hc]; exact u8_clear q hls
        have hrow : ((marked n x).map bv).set (n - 1) (.int .u8 (bits .andNot .u8 (c : Int) 128)) = (grp 7 x).map bv := by
          rw [HM.out, hq, hmn, e, List.map_append, List.map_append, List.set_append_right _ _ (by simp [marked_length])]
          simp only [List.length_map, marked_length, Nat.sub_self, List.map_cons, List.map_nil, List.set_cons_zero]
          rw [bv_ofNat (by omega)]
        rw [hrow] at hst
        have hcv := conv_own (P := Try.prog) hst 125 9 Try.underlying125 Try.underlying5 Try.underlying9
        have HB := Lib.hid (hbel.setCell (p := ⟨w.heap.size, n - 1, none⟩) (Nat.le_refl _) (.int .u8 (bits .andNot .u8 (c : Int) 128)))
        clear hst hrow e hmn hq hc hm hkn
        go_wp2
        go_ret
        exact ⟨by rw [HP.out]; rfl, HB.out⟩
  · have hp : putL v = [] := by unfold putL; rw [if_neg hv]
    have HP := Lib.hid hp; clear hp hv
    go_enter Try.func113, Try.ntmps113
    go_wp2_with (go_at_call 127; refine (size_any _ _).mono ?_; rintro e w' ⟨rfl, rfl⟩; rw [HP.out])
    go_ret
    exact ⟨by rw [HP.out]; rfl, Below.refl _ _⟩
end Go.Proofs.Ythipnkbfdkmhaaa
namespace Go.Proofs.Ythipnkbfdkmhaaa
open Go.RowKit

end Go.Proofs.Ythipnkbfdkmhaaa
namespace Go.Proofs.Ythipnkbfdkmhaaa

end Go.Proofs.Ythipnkbfdkmhaaa
namespace Go.Proofs.Ythipnkbfdkmhaaa
open Go.RowKit

end Go.Proofs.Ythipnkbfdkmhaaa
