/- leb.Eight and ligref1.Eight: eight bytes, the most significant one first. Packets in bytes and out of bytes, and their commitments. -/
import Derived.Test.YtpledhipdiephaaDoorSt3
import Derived.Test.YtpledhipdiephaaDoorRows
import Derived.Test.YtpledhipdiephaaDoorT1
import Derived.Test.YtpledhipdiephaaDoorKit
import Derived.WalkKit
import Derived.ProofKit
import Derived.Handy
import Derived.Below
import Derived.Lib.Hide
import Derived.IntWalk
import Derived.Outline
import Derived.WalkLawsBesides
import Derived.WalkSpells
import Derived.Test.YtpledhipdiephaaDoorT3
import Derived.Test.YtpledhipdiephaaDoorPhiT
namespace Go.Proofs.YtpledhipdiephaaDoor
open Go.RowKit

/-- The last n bytes of v, the most significant one first. -/
def be : Nat → Nat → List UInt8
  | 0, _ => []
  | n + 1, v => be n (v / 256) ++ [UInt8.ofNat (v % 256)]
theorem be_length (n v : Nat) : (be n v).length = n := by
  induction n generalizing v with
  | zero => rfl
  | succ n ih => simp [be, ih]
theorem be_cons (n v : Nat) : be (n + 1) v = UInt8.ofNat (v / 256 ^ n % 256) :: be n v := by
  induction n generalizing v with
  | zero => simp [be]
  | succ n ih =>
    rw [be, ih (v / 256), be]
    simp only [List.cons_append, Nat.div_div_eq_div_mul, Nat.pow_succ, Nat.mul_comm]
theorem be_take (n k v : Nat) (h : k < n) : (be n v).take (k + 1) = (be n v).take k ++ [UInt8.ofNat (v / 256 ^ (n - 1 - k) % 256)] := by
  induction n generalizing k with
  | zero => omega
  | succ n ih =>
    rw [be_cons]
    cases k with
    | zero => simp
    | succ k =>
      rw [List.take_succ_cons, List.take_succ_cons, ih k (by omega), show n + 1 - 1 - (k + 1) = n - 1 - k by omega]
      rfl
def eightL (v : Int) : List UInt8 := if encB v then be 8 v.toNat else []

set_option maxRecDepth 100000 in
set_option maxHeartbeats 800000 in
theorem eight_any (v : Int) (w : World) :
    Calls Tryd.prog 84 #[.int .i64 v] w fun e w' => e = .returned (strV (eightL v)) ∧ Below w.heap.size w w' := by
  by_cases hv : encB v = true
  · obtain ⟨x, rfl, hx⟩ := encB_nat hv
    have hp : eightL (x : Int) = be 8 x := by unfold eightL; rw [if_pos hv]; rfl
    have HP := Lib.hid hp; clear hp
    go_enter Tryd.func84, Tryd.ntmps84
    go_wp2_with (go_at_call 105; refine (encodable_any _ _).mono ?_; rintro e w' ⟨rfl, rfl⟩)
    have hz0 : World.ownsRow (w.alloc (.cells #[.int .u8 0, .int .u8 0, .int .u8 0, .int .u8 0, .int .u8 0, .int .u8 0, .int .u8 0, .int .u8 0] 158)) w.heap.size 158 1 (.slice (some ⟨w.heap.size, 0, none⟩) 8 8) 8 (((be 8 x).take 0).map bv ++ List.replicate (8 - 0) (.int .u8 0)) :=
      World.ownsRow_lit w _ 8 (Nat.le_refl _) (by unfold maxLen; omega) rfl
    have hb0 := (Below.refl w.heap.size w).alloc (Nat.le_refl _) (.cells #[.int .u8 0, .int .u8 0, .int .u8 0, .int .u8 0, .int .u8 0, .int .u8 0, .int .u8 0, .int .u8 0] 158)
    have Hv := Lib.hid hv; clear hv
    go_loopw [8] (fun i wr => ∃ k : Nat, k ≤ 8 ∧ wr.ownsRow w.heap.size 158 1 (.slice (some ⟨w.heap.size, 0, none⟩) 8 8) 8 (((be 8 x).take k).map bv ++ List.replicate (8 - k) (.int .u8 0)) ∧ Below w.heap.size w wr ∧ i = .int .i64 k) (fun i _ => 8 - (intOf i).toNat)
    case atStart => exact ⟨0, by omega, hz0, hb0, rfl⟩
    case round =>
      clear hz0 hb0
      obtain ⟨k, hk, hown, hbel, rfl⟩ := hrel
      have hsz := hbel.size
      by_cases hlt : k < 8
      · obtain ⟨c0, hc0⟩ : ∃ c0, wr.cell? ⟨w.heap.size, k, none⟩ = some c0 := by
          refine ⟨_, (hown.cellAt k (by omega)).trans (List.getElem?_eq_getElem (by simp [be_length]; omega))⟩
        have hfr := hown.frozenAt k
        have e : Value.int .u8 ((x : Int) / 2 ^ (8 * (7 - k)) % 256) = bv (UInt8.ofNat (x / 256 ^ (7 - k) % 256)) := by
          rw [bv_ofNat (by omega), show (256 : Nat) = 2 ^ 8 from rfl, ← Nat.pow_mul]
          push_cast; rfl
        have HST : Hid ((wr.setCell ⟨w.heap.size, k, none⟩ (.int .u8 ((x : Int) / 2 ^ (8 * (7 - k)) % 256))).ownsRow w.heap.size 158 1 (.slice (some ⟨w.heap.size, 0, none⟩) 8 8) 8 (((be 8 x).take (k + 1)).map bv ++ List.replicate (8 - (k + 1)) (.int .u8 0))) := Lib.hid (by
          have h := (hown.stored k (.int .u8 ((x : Int) / 2 ^ (8 * (7 - k)) % 256))).1
          rw [List.set_append_right _ _ (by simp [be_length]; omega)] at h
          simp only [List.length_map, List.length_take, be_length] at h
          rw [show k - min k 8 = 0 by omega, show 8 - k = (8 - (k + 1)) + 1 by omega, List.replicate_succ, List.set_cons_zero] at h
          rw [be_take 8 k x hlt, List.map_append, List.append_assoc]
          rw [e] at h ⊢
          exact h)
        have HB := Lib.hid (hbel.setCell (p := ⟨w.heap.size, k, none⟩) (Nat.le_refl _) (.int .u8 ((x : Int) / 2 ^ (8 * (7 - k)) % 256)))
        clear e
        go_wp2
        go_roundw
        case rel => exact ⟨k + 1, by omega, HST.out, HB.out, by go_num⟩
        case measure => simp [intOf]; omega
      · have hxs : ((be 8 x).take k).map bv ++ List.replicate (8 - k) (Value.int .u8 0) = (be 8 x).map bv := by
          rw [List.take_of_length_le (by rw [be_length]; omega), show 8 - k = 0 by omega]; simp
        rw [hxs] at hown
        have hcv := conv_own (P := Tryd.prog) hown 159 9 Tryd.underlying159 Tryd.underlying5 Tryd.underlying9
        clear hxs
        go_wp2
        go_ret
        exact ⟨by rw [HP.out]; rfl, hbel⟩
  · have hp : eightL v = [] := by unfold eightL; rw [if_neg hv]
    have HP := Lib.hid hp; have hv' : encB v = false := by simpa using hv
    clear hp hv
    go_enter Tryd.func84, Tryd.ntmps84
    go_wp2_with (go_at_call 105; refine (encodable_any _ _).mono ?_; rintro e w' ⟨rfl, rfl⟩)
    go_ret
    exact ⟨by rw [HP.out]; rfl, Below.refl _ _⟩

set_option maxRecDepth 100000 in
set_option maxHeartbeats 800000 in
theorem refEight_any (v : Int) (w : World) :
    Calls Tryd.prog 88 #[.int .i64 v] w fun e w' => e = .returned (strV (eightL v)) ∧ Below w.heap.size w w' := by
  by_cases hv : encB v = true
  · obtain ⟨x, rfl, hx⟩ := encB_nat hv
    have hp : eightL (x : Int) = be 8 x := by unfold eightL; rw [if_pos hv]; rfl
    have HP := Lib.hid hp; clear hp hv
    have hmk : ∀ w, (Instr.makeSlice 159 (.int .i64 8) (.int .i64 8)).run Tryd.prog w = .ok (.slice (some ⟨w.heap.size, 0, none⟩) 8 8) (w.alloc (.cells #[.int .u8 0, .int .u8 0, .int .u8 0, .int .u8 0, .int .u8 0, .int .u8 0, .int .u8 0, .int .u8 0] 5)) := fun _ => by kernel_rfl
    have hz0 : World.ownsRow (w.alloc (.cells #[.int .u8 0, .int .u8 0, .int .u8 0, .int .u8 0, .int .u8 0, .int .u8 0, .int .u8 0, .int .u8 0] 5)) w.heap.size 5 1 (.slice (some ⟨w.heap.size, 0, none⟩) 8 8) 8 (List.replicate (8 - 0) (.int .u8 0) ++ (be 0 x).map bv) :=
      World.ownsRow_lit w _ 8 (Nat.le_refl _) (by unfold maxLen; omega) rfl
    have hb0 := (Below.refl w.heap.size w).alloc (Nat.le_refl _) (.cells #[.int .u8 0, .int .u8 0, .int .u8 0, .int .u8 0, .int .u8 0, .int .u8 0, .int .u8 0, .int .u8 0] 5)
    go_enter Tryd.func88, Tryd.ntmps88
    go_wp2
    clear hmk
    go_loopw [0, 4] (fun a i wr => ∃ k y : Nat, k ≤ 8 ∧ y ≤ x ∧ Hid (y = x / 256 ^ k) ∧ wr.ownsRow w.heap.size 5 1 (.slice (some ⟨w.heap.size, 0, none⟩) 8 8) 8 (List.replicate (8 - k) (.int .u8 0) ++ (be k x).map bv) ∧ Below w.heap.size w wr ∧ a = .int .i64 y ∧ i = .int .i64 (7 - (k : Int))) (fun _ i _ => (intOf i + 1).toNat)
    case atStart => exact ⟨0, x, by omega, by omega, Lib.hid (by simp), hz0, hb0, rfl, rfl⟩
    case round =>
      clear hz0 hb0
      obtain ⟨k, y, hk, hyx, HY, hown, hbel, rfl, rfl⟩ := hrel
      have hsz := hbel.size
      by_cases hlt : k < 8
      · obtain ⟨c0, hc0⟩ : ∃ c0, wr.cell? ⟨w.heap.size, 7 - k, none⟩ = some c0 := by
          refine ⟨_, (hown.cellAt (7 - k) (by omega)).trans (List.getElem?_eq_getElem (by simp [be_length]; omega))⟩
        have hfr := hown.frozenAt (7 - k)
        have e : Value.int .u8 ((y : Int) % 256) = bv (UInt8.ofNat (x / 256 ^ k % 256)) := by
          rw [bv_ofNat (by omega), ← HY.out]; rfl
        have HST : Hid ((wr.setCell ⟨w.heap.size, 7 - k, none⟩ (.int .u8 ((y : Int) % 256))).ownsRow w.heap.size 5 1 (.slice (some ⟨w.heap.size, 0, none⟩) 8 8) 8 (List.replicate (8 - (k + 1)) (.int .u8 0) ++ (be (k + 1) x).map bv)) := Lib.hid (by
          have h := (hown.stored (7 - k) (.int .u8 ((y : Int) % 256))).1
          rw [show 8 - k = (8 - (k + 1)) + 1 by omega, List.replicate_succ', List.append_assoc, List.set_append_right _ _ (by rw [List.length_replicate]; omega)] at h
          simp only [List.length_replicate] at h
          rw [show 7 - k - (8 - (k + 1)) = 0 by omega, List.singleton_append, List.set_cons_zero, e] at h
          rw [be_cons, List.map_cons, e]
          exact h)
        have HB := Lib.hid (hbel.setCell (p := ⟨w.heap.size, 7 - k, none⟩) (Nat.le_refl _) (.int .u8 ((y : Int) % 256)))
        clear e
        go_wp2
        go_roundw
        case rel => exact ⟨k + 1, y / 256, by omega, by omega, Lib.hid (by rw [HY.out, Nat.div_div_eq_div_mul]; rfl), HST.out, HB.out, by go_num, by go_num⟩
        case measure => simp [intOf]; omega
      · have hxs : List.replicate (8 - k) (Value.int .u8 0) ++ (be k x).map bv = (be 8 x).map bv := by
          rw [show k = 8 by omega]; simp
        rw [hxs] at hown
        have hcv := conv_own (P := Tryd.prog) hown 159 9 Tryd.underlying159 Tryd.underlying5 Tryd.underlying9
        clear hxs
        go_wp2
        go_ret
        exact ⟨by rw [HP.out]; rfl, hbel⟩
  · have hp : eightL v = [] := by unfold eightL; rw [if_neg hv]
    have H0 : v < 0 ∨ 72057594037927935 < v := by simp [encB] at hv; omega
    have HP := Lib.hid hp
    clear hp hv
    rcases H0 with h | h
    all_goals
      go_enter Tryd.func88, Tryd.ntmps88
      go_wp2
      go_ret
      exact ⟨by rw [HP.out]; rfl, Below.refl _ _⟩
end Go.Proofs.YtpledhipdiephaaDoor
namespace Go.Proofs.YtpledhipdiephaaDoor
open Go.RowKit
attribute [local go_sem] strV
set_option linter.unusedVariables false
abbrev PkT := (ByteArray × Int) × (ByteArray × Int) × Int × ByteArray × Int × Int
def PkT.zero : PkT := ((⟨#[]⟩, 0), (⟨#[]⟩, 0), 0, ⟨#[]⟩, 0, 0)
def PkT.row (p : PkT) : Array Value := #[.string p.1.1, .int .i64 p.1.2, .string p.2.1.1, .int .i64 p.2.1.2, .int .i64 p.2.2.1, .string p.2.2.2.1, .int .i64 p.2.2.2.2.1, .int .i64 p.2.2.2.2.2]
theorem RowAt.lit3 {w : World} {cs : Array Value} {e : TypeId} {g : Nat} {vs : List Value} (hg : g = w.heap.size) (h : cs.toList = vs) : RowAt (w.alloc (.cells cs e)) (some ⟨g, 0, none⟩) vs := by
  subst hg h
  refine .inr ⟨_, _, rfl, by simp, fun j hj => ?_⟩
  rw [Nat.zero_add, World.cell?_alloc_at _ _ _ _ rfl]; simp
theorem eightL_le (v : Int) : (eightL v).length ≤ 8 := by
  unfold eightL
  split
  · rw [be_length]; omega
  · simp
end Go.Proofs.YtpledhipdiephaaDoor
