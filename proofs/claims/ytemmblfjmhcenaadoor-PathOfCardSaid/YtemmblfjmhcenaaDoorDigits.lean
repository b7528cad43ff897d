/- The document's own decimal digits, walked. -/
import Derived.Test.YtemmblfjmhcenaaDoorPathApart
import Derived.WalkKit
import Derived.ProofKit
import Derived.Handy
import Derived.Below
import Derived.BigQuiet
import Derived.Lib.Hide
import Derived.IntWalk
import Derived.Outline
import Derived.WalkLawsBesides
import Derived.WalkSpells
namespace Go.Proofs.YtemmblfjmhcenaaDoor
open Go.RowKit
attribute [local go_sem] strV
theorem Tryd.infoU8d : (Tryd.prog.info? 5).map (fun i => (i.zero, i.size, i.bytes)) = some (some (.int .u8 0), 1, 1) := by kernel_rfl
/-- 'append([]T{u}, out...)', out the call's own, not empty, one cell an element. -/
theorem wpList_unshift {P : Program} {w : World} {ops : Array Oper} {rest : List Oper} {o : Oper} {a : Act} {Q : Exit → Act → World → Prop} (hgd : o.guard = none) (s x : Operand) (t : TypeId)
    (ho : o.op = .call { callee := .builtin .append, args := #[s, x], argTypes := #[t, t] })
    {base : Nat} (e : TypeId) (i : TypeInfo) (z : Value) (bytes : Nat) (ht : P.underlying t = some (.slice e)) (hi : P.info? e = some i) (hz : i.zero = some z)
    (hsize : i.size = 1) (hby : i.bytes = bytes) (hzs : z.cells.size = 1)
    {v : Value} {n : Nat} {xs : List Value} (hown : w.ownsRow base e 1 v n xs) (hx : a.eval x = v)
    (u : Value) (hs : a.eval s = .slice (some ⟨w.heap.size, 0, none⟩) 1 1) (h1 : ∀ y ∈ xs, y.oneCell' = true) (hn : 0 < n)
    (h63 : 1 + n ≤ maxLen) (hbytes : (1 + n) * bytes ≤ 140737488355328) (hbase : base ≤ w.heap.size)
    (h : ∀ v' w', w'.ownsRow base e 1 v' (1 + n) ([u] ++ xs) → Below base w w' → wpList P ops Q rest (a.put o.dst v') w') :
    wpList P ops Q (o :: rest) a (w.alloc (.cells #[u] e)) := by
  have hown0 := hown
  obtain ⟨hl, hr⟩ := hown
  rcases hr with ⟨_, h0⟩ | ⟨g, cap, cur, hv, hb, hg, hnc, hcm, hcs, htake⟩
  · omega
  have hgl : g < w.heap.size := (Array.getElem?_eq_some_iff.1 hg).1
  have hs1 : (w.alloc (.cells #[u] e)).ownsRow base e 1 (.slice (some ⟨w.heap.size, 0, none⟩) 1 1) 1 [u] :=
    ⟨rfl, .inr ⟨w.heap.size, 1, #[u], rfl, hbase, by show (w.heap.push _)[w.heap.size]? = _; rw [Array.getElem?_push_size], Nat.le_refl _, by unfold maxLen; decide, rfl, rfl⟩⟩
  refine wpList_append_own _ hgd s x t ho base e i z 1 bytes ht hi hz hsize hby hzs (by decide) _ 1 [u] hs hs1 ⟨g, 0, none⟩ n cap xs (hx.trans hv) (by omega) ?_ h1 h63 hbytes (by simp; omega) ?_
  · intro j y hj
    have hjn : j < n := by
      have := (List.getElem?_eq_some_iff.1 hj).1
      omega
    have hc : (w.alloc (.cells #[u] e)).cell? ⟨g, j, none⟩ = w.cell? ⟨g, j, none⟩ := (Below.alloc (Below.refl _ _) (Nat.le_refl _) _ : Below w.heap.size w _).cell (p := ⟨g, j, none⟩) hgl
    have ha : (⟨g, 0, none⟩ : Addr).add j = ⟨g, j, none⟩ := by unfold Addr.add; by_cases h : j = 0 <;> simp [h]
    rw [ha, hc]
    unfold World.cell?; rw [hg]
    rw [← htake, List.getElem?_take_of_lt (by omega), Array.getElem?_toList] at hj
    exact hj
  · intro v' w' h2 h3 _
    exact h v' w' h2 (((Below.refl base w).alloc hbase _).trans (below_grown hs1 h3 (by simp; omega)))
/-- The digits of n before those of its last ones; none of 0. -/
def frontD (n : Nat) : List UInt8 := if n = 0 then [] else Lib.decDigits n
theorem frontD_step {n : Nat} (h : n ≠ 0) : frontD n = frontD (n / 10) ++ [UInt8.ofNat (48 + n % 10)] := by
  unfold frontD
  rw [if_neg h, Lib.decDigits]
  by_cases h10 : n < 10
  · rw [dif_pos h10, if_pos (by omega), List.nil_append, show n % 10 = n by omega]
  · rw [dif_neg h10, if_neg (by omega)]
theorem dec_front (n : Nat) : Lib.decDigits n = frontD (n / 10) ++ [UInt8.ofNat (48 + n % 10)] := by
  by_cases h : n = 0
  · subst h; rw [Lib.decDigits_one (by omega)]; rfl
  · rw [← frontD_step h]; unfold frontD; rw [if_neg h]

set_option maxRecDepth 100000 in
set_option maxHeartbeats 3200000 in
theorem refDigits_any (N : Nat) (hN : N ≤ 9223372036854775807) (w : World) :
    Calls Tryd.prog 21 #[.int .i64 (N : Int)] w fun e w' => e = .returned (.string (itB N)) ∧ Below w.heap.size w w' := by
  obtain ⟨i0, hi, hz0, hz1, hz2⟩ := info_parts Tryd.infoU8d
  have HR0 : Hid (∀ l : List UInt8, Lib.decDigits N = l → itB N = ⟨l.toArray⟩) := Lib.hid (fun l h => by
    unfold itB; rw [Lib.itoa_nonneg, h])
  have hmod : ((N : Int) % 10) < 10 := Int.emod_lt_of_pos _ (by decide)
  have hmod0 : 0 ≤ ((N : Int) % 10) := Int.emod_nonneg _ (by decide)
  go_enter Tryd.func21, Tryd.ntmps21
  go_wp2
  have hown0 : (w.alloc (.cells #[.int .u8 (48 + (N : Int) % 10)] 5)).ownsRow w.heap.size 5 1 (.slice (some ⟨w.heap.size, 0, none⟩) 1 1) 1 ([UInt8.ofNat (48 + N % 10)].map bv) :=
    ⟨rfl, .inr ⟨w.heap.size, 1, #[.int .u8 (48 + (N : Int) % 10)], rfl, Nat.le_refl _, by show (w.heap.push _)[w.heap.size]? = _; rw [Array.getElem?_push_size], Nat.le_refl _, by unfold maxLen; decide, rfl, by
      simp only [List.map_cons, List.map_nil]; rw [bv_ofNat (by omega)]; simp⟩⟩
  have hbel0 : Below w.heap.size w (w.alloc (.cells #[.int .u8 (48 + (N : Int) % 10)] 5)) := by repeat (first | assumption | exact Below.refl _ _ | refine bch ?_ (by assumption) | refine Below.alloc ?_ (by simp) _)
  go_loopw [0, 3] (fun a o wr => ∃ (n m : Nat) (l : List UInt8) (v : Value), n ≤ N / 10 ∧ 0 < m ∧ m ≤ 20 ∧ n * 10 ^ m ≤ N ∧ Hid (Lib.decDigits N = frontD n ++ l) ∧ wr.ownsRow w.heap.size 5 1 v m (l.map bv) ∧ Below w.heap.size w wr ∧ a = .int .i64 n ∧ o = v) (fun a _ _ => (intOf a).toNat)
  case atStart => exact ⟨N / 10, 1, [UInt8.ofNat (48 + N % 10)], _, Nat.le_refl _, by omega, by omega, by omega, Lib.hid (dec_front N), hown0, hbel0, by go_num, rfl⟩
  case round =>
    clear hown0 hbel0
    obtain ⟨n, m, l, v, hnN, hm0, hm20, hnm, HD, hown, hbel, rfl, rfl⟩ := hrel
    have hsz := hbel.size
    have hmod : ((n : Int) % 10) < 10 := Int.emod_lt_of_pos _ (by decide)
    have hmod0 : 0 ≤ ((n : Int) % 10) := Int.emod_nonneg _ (by decide)
    by_cases hn : n = 0
    · subst hn
      have HB := Lib.hid (HR0.out l (by rw [HD.out]; rfl))
      have hcv := conv_own (P := Tryd.prog) (l := l) hown 48 9 Tryd.underlying48 Tryd.underlying5 Tryd.underlying9
      go_wp2
      go_ret
      exact ⟨by rw [HB.out]; first | done | rfl, hbel⟩
    · have hpos : (0 : Int) < n := by omega
      have hm19 : m ≤ 18 := by
        rcases Nat.lt_or_ge 18 m with h | h
        · have h1 : 10 ^ 19 ≤ 10 ^ m := Nat.pow_le_pow_right (by decide) h
          have h2 : 1 * 10 ^ m ≤ n * 10 ^ m := Nat.mul_le_mul_right _ (by omega)
          omega
        · exact h
      have hnm2 : (n / 10) * 10 ^ (m + 1) ≤ N := by
        refine Nat.le_trans ?_ hnm
        rw [Nat.pow_succ, Nat.mul_comm (10 ^ m) 10, ← Nat.mul_assoc]
        exact Nat.mul_le_mul_right _ (by omega)
      have HN := Lib.hid hnm2; clear hnm2 hnm
      have hone : ∀ y ∈ l.map bv, y.oneCell' = true := by
        intro y hy; obtain ⟨b, _, rfl⟩ := List.mem_map.1 hy; rfl
      go_wp2_with (at_builtin; refine wpList_unshift rfl (.tmp 19) (.tmp 20) 48 rfl 5 i0 (.int .u8 0) 1 Tryd.underlying48 hi hz0 hz1 hz2 rfl hown rfl _ rfl hone (by omega) (by unfold maxLen; omega) (by omega) hsz ?_)
      intro v' w' hown1 hbel1
      go_wp2
      go_roundw
      case rel => exact ⟨n / 10, 1 + m, UInt8.ofNat (48 + n % 10) :: l, _, by omega, by omega, by omega, by rw [Nat.add_comm]; exact HN.out, Lib.hid (by rw [HD.out, frontD_step hn, List.append_assoc]; rfl), by
        rw [List.map_cons, bv_ofNat (by omega)]; simpa using hown1, hbel.trans hbel1, by go_num, rfl⟩
      case measure => (simp [intOf]) <;> omega
end Go.Proofs.YtemmblfjmhcenaaDoor
