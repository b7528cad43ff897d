/- sha: Sum. sha: a hash as a text, in digits. -/
import Derived.Test.YtpledhipdiephaaDoorSt3
import Derived.Test.YtpledhipdiephaaDoorSha5
import Derived.Test.YtpledhipdiephaaDoorRows2
import Derived.WalkKit
import Derived.ProofKit
import Derived.Handy
import Derived.Below
import Derived.Lib.Hide
import Derived.IntWalk
import Derived.Outline
import Derived.WalkLawsBesides
import Derived.WalkSpells
namespace Go.Proofs.YtpledhipdiephaaDoor
open Go.RowKit
attribute [local go_sem] strV
set_option linter.unusedVariables false
/-- The bytes of texts, one behind the other. -/
def flat (ss : List ByteArray) : List UInt8 := ss.flatMap fun s => s.data.toList
def sval (s : ByteArray) : List Value := [Value.string s]
theorem flat_take {ss : List ByteArray} {k : Nat} (hk : k < ss.length) : flat (ss.take (k + 1)) = flat (ss.take k) ++ ss[k].data.toList := by
  unfold flat
  rw [List.take_add_one, List.getElem?_eq_getElem hk, List.flatMap_append]
  simp
theorem flat_len {ss : List ByteArray} {k : Nat} : (flat (ss.take k)).length ≤ (flat ss).length := by
  have : flat ss = flat (ss.take k) ++ flat (ss.drop k) := by unfold flat; rw [← List.flatMap_append, List.take_append_drop]
  rw [this, List.length_append]; omega
theorem Kept.cell {b : Nat} {w w' : World} (h : Kept b w w') {p : Addr} (hp : p.block < w.heap.size) (hne : p.block ≠ b) : w'.cell? p = w.cell? p := World.cell?_of_block (w := w) (h.block p.block hp hne)
theorem dg_new {b : Nat} {w : World} (hr : w.heap[b]? = some (.cells (drow stab (List.replicate 64 0) 0 0) 156 (0, 0))) : DG b w [] 0 (List.replicate 64 0) 0 0 :=
  ⟨rfl, by decide, by simp, by simp, hr⟩
theorem drow_nostr {S : List Int} {B : List UInt8} {u z : Int} {j : Nat} {s : ByteArray} (h : (drow S B u z)[j]? = some (.string s)) : False := by
  have hm := Array.mem_of_getElem? h
  unfold drow at hm
  simp [Lib.byteCells] at hm
set_option maxRecDepth 100000 in
set_option maxHeartbeats 6400000 in
theorem sum_any (a : Option Addr) (n c : Nat) (ss : List ByteArray) (w : World) (hr : RowAt w a (ss.flatMap sval)) (hn : ss.length = n) (hW : SW w) (hz : (flat ss).length ≤ 1000000000000) (hnm : n ≤ maxLen) :
    Calls Tryd.prog 83 #[.slice a n c] w fun e w' => e = .returned (.agg (hrow (shaF (flat ss)))) ∧ Below w.heap.size w w' := by
  have hsz := hW.size
  unfold maxLen at hnm
  have HN := Lib.hid hn
  have hrg : ∀ W : World, SW W → W.rangeAt 0 0 (stab.map (Value.int .u32)) := fun W h j v hv => by
    have hj : j < 8 := by have := (List.getElem?_eq_some_iff.1 hv).1; rw [List.length_map] at this; exact this
    have hc := h.1.cell sw_g0 j (by rw [show stab.length = 8 from rfl]; exact hj)
    rw [Nat.zero_add, hc]
    rw [List.getElem?_map, get_some (show j < stab.length by rw [show stab.length = 8 from rfl]; exact hj)] at hv
    exact hv
  have g0 : (w.alloc (.cells #[Value.int .u8 0, Value.int .u8 0, Value.int .u8 0, Value.int .u8 0, Value.int .u8 0, Value.int .u8 0, Value.int .u8 0, Value.int .u8 0, Value.int .u8 0, Value.int .u8 0, Value.int .u8 0, Value.int .u8 0, Value.int .u8 0, Value.int .u8 0, Value.int .u8 0, Value.int .u8 0, Value.int .u8 0, Value.int .u8 0, Value.int .u8 0, Value.int .u8 0, Value.int .u8 0, Value.int .u8 0, Value.int .u8 0, Value.int .u8 0, Value.int .u8 0, Value.int .u8 0, Value.int .u8 0, Value.int .u8 0, Value.int .u8 0, Value.int .u8 0, Value.int .u8 0, Value.int .u8 0] 35)).heap[w.heap.size]? = some (.cells #[Value.int .u8 0, Value.int .u8 0, Value.int .u8 0, Value.int .u8 0, Value.int .u8 0, Value.int .u8 0, Value.int .u8 0, Value.int .u8 0, Value.int .u8 0, Value.int .u8 0, Value.int .u8 0, Value.int .u8 0, Value.int .u8 0, Value.int .u8 0, Value.int .u8 0, Value.int .u8 0, Value.int .u8 0, Value.int .u8 0, Value.int .u8 0, Value.int .u8 0, Value.int .u8 0, Value.int .u8 0, Value.int .u8 0, Value.int .u8 0, Value.int .u8 0, Value.int .u8 0, Value.int .u8 0, Value.int .u8 0, Value.int .u8 0, Value.int .u8 0, Value.int .u8 0, Value.int .u8 0] 35 (0, 0)) := heap_push _ _ _
  have hbA : Below w.heap.size w (w.alloc (.cells #[Value.int .u8 0, Value.int .u8 0, Value.int .u8 0, Value.int .u8 0, Value.int .u8 0, Value.int .u8 0, Value.int .u8 0, Value.int .u8 0, Value.int .u8 0, Value.int .u8 0, Value.int .u8 0, Value.int .u8 0, Value.int .u8 0, Value.int .u8 0, Value.int .u8 0, Value.int .u8 0, Value.int .u8 0, Value.int .u8 0, Value.int .u8 0, Value.int .u8 0, Value.int .u8 0, Value.int .u8 0, Value.int .u8 0, Value.int .u8 0, Value.int .u8 0, Value.int .u8 0, Value.int .u8 0, Value.int .u8 0, Value.int .u8 0, Value.int .u8 0, Value.int .u8 0, Value.int .u8 0] 35)) := Below.alloc (Below.refl _ _) (Nat.le_refl _) _
  go_enter Tryd.func83, Tryd.ntmps83
  go_upto_region 1 with fail
  refine wp_nameE _ (fun W1 hX => ?_)
  have y0 : W1.heap[w.heap.size]? = some (.cells #[Value.int .u8 0, Value.int .u8 0, Value.int .u8 0, Value.int .u8 0, Value.int .u8 0, Value.int .u8 0, Value.int .u8 0, Value.int .u8 0, Value.int .u8 0, Value.int .u8 0, Value.int .u8 0, Value.int .u8 0, Value.int .u8 0, Value.int .u8 0, Value.int .u8 0, Value.int .u8 0, Value.int .u8 0, Value.int .u8 0, Value.int .u8 0, Value.int .u8 0, Value.int .u8 0, Value.int .u8 0, Value.int .u8 0, Value.int .u8 0, Value.int .u8 0, Value.int .u8 0, Value.int .u8 0, Value.int .u8 0, Value.int .u8 0, Value.int .u8 0, Value.int .u8 0, Value.int .u8 0] 35 (0, 0)) := by rw [hX]; exact g0
  have hb1 : Below w.heap.size w W1 := by rw [hX]; exact hbA
  have hW1 := hW.below hb1
  have hl1 : w.heap.size < W1.heap.size := (Array.getElem?_eq_some_iff.1 y0).1
  clear hX g0 hbA
  have hrg1 := hrg W1 hW1
  have hone : (drow stab (List.replicate 64 0) 0 0).all (·.oneCell') = true := by kernel_rfl
  go_upto_region 2 with (first | (refine wpList_load_mid rfl 153 (.global 0) rfl 0 0 (by rfl) _ _ hrg1 Tryd.underlying153 rfl (by kernel_rfl) ?_) | (refine wpList_storeRowTo rfl (.tmp 3) (.tmp 7) 156 rfl (by kernel_rfl) rfl (Z := drow stab (List.replicate 64 0) 0 0) (by rfl) (heap_push _ _ _) (by kernel_rfl) hone ?_))
  refine wp_nameE _ (fun W2 hX => ?_)
  obtain ⟨b, hb⟩ : ∃ b, W1.heap.size = b := ⟨_, rfl⟩
  have hrow : W2.heap[b]? = some (.cells (drow stab (List.replicate 64 0) 0 0) 156 (0, 0)) := by rw [hX, ← hb]; exact setRow_heap _ _ _ _ _ _ (heap_push _ _ _)
  have hb2 : Below b W1 W2 := by rw [hX, ← hb]; exact below_setRow (Below.alloc (Below.refl _ _) (Nat.le_refl _) _) (Nat.le_refl _) _
  have hbel : Below w.heap.size w W2 := hb1.trans (hb2.mono (by omega))
  have y0 : W2.heap[w.heap.size]? = some (.cells #[Value.int .u8 0, Value.int .u8 0, Value.int .u8 0, Value.int .u8 0, Value.int .u8 0, Value.int .u8 0, Value.int .u8 0, Value.int .u8 0, Value.int .u8 0, Value.int .u8 0, Value.int .u8 0, Value.int .u8 0, Value.int .u8 0, Value.int .u8 0, Value.int .u8 0, Value.int .u8 0, Value.int .u8 0, Value.int .u8 0, Value.int .u8 0, Value.int .u8 0, Value.int .u8 0, Value.int .u8 0, Value.int .u8 0, Value.int .u8 0, Value.int .u8 0, Value.int .u8 0, Value.int .u8 0, Value.int .u8 0, Value.int .u8 0, Value.int .u8 0, Value.int .u8 0, Value.int .u8 0] 35 (0, 0)) := by rw [hb2.block _ (by omega)]; exact y0
  have hW2 := hW.below hbel
  have hG := dg_new hrow
  have hG0 := hrow
  have hbw : 2 < b := by omega
  have hr := hr.below hbel
  have hlb : b < W2.heap.size := (Array.getElem?_eq_some_iff.1 hrow).1
  have hwb : w.heap.size < b := by omega
  have hl2 : w.heap.size < W2.heap.size := by omega
  rw [hb]
  clear hX hrg hrg1 hone hb1 hW1 hl1 hb2 hrow hsz hW hb
  go_upto_region 3 with fail
  go_loopw [10] (fun v wr => ∃ (k : Nat) (B : List UInt8) (q u : Nat), k ≤ n ∧ DG b wr (flat (ss.take k)) ((flat (ss.take k)).length : Int) B q u ∧ Kept b W2 wr ∧ v = .int .i64 k) (fun v _ => n - (intOf v).toNat)
  case atStart => exact ⟨0, _, 0, 0, Nat.zero_le _, by simpa [flat] using hG, Kept.of (Below.refl _ _), rfl⟩
  case round =>
    clear hG
    obtain ⟨k, B, q, u, hk, hG, hK, rfl⟩ := hrel
    have hfl := flat_len (ss := ss) (k := k)
    by_cases hlt : k < n
    · have d1 : decide ((k : Int) < (n : Int)) = true := decide_eq_true (by omega)
      have hks : k < ss.length := by have := HN.out; omega
      obtain ⟨b0, off, ha, hb0, hc⟩ := hr.elem (f := sval) (c := 1) (fun _ => rfl) hks (by decide)
      have hc0 := hc 0 (by decide)
      subst ha
      obtain ⟨s, hs⟩ : ∃ s, ss[k] = s := ⟨_, rfl⟩
      have hft := flat_take hks
      rw [hs] at hc0 hft
      have hfl2 := flat_len (ss := ss) (k := k + 1)
      rw [hft, List.length_append, str_len] at hfl2
      have hne : b0 ≠ b := fun e => by
        subst e
        have h1 := cell_heap hG0 (off + (k * 1 + 0))
        rw [hc0] at h1
        exact drow_nostr h1.symm
      have c0 : wr.cell? ⟨b0, off + k, none⟩ = some (.string s) := by
        rw [hK.cell (p := ⟨b0, off + k, none⟩) hb0 hne]
        rw [show off + k = off + (k * 1 + 0) by omega, hc0]; rfl
      have n0 : (0 : Int) ≤ (k : Int) := by omega
      have n1 : (k : Int) < (n : Int) := by omega
      have n2 : ((k : Nat) : Int).toNat = k := by omega
      have CA := add_any b wr _ _ B q u s hG (hW2.kept hbw hK) hbw (by omega) (by omega)
      go_wp2_with (go_at_call 103; refine CA.mono ?_; rintro e w4 ⟨rfl, hG4, hK4⟩)
      obtain ⟨B4, q4, u4', hG4⟩ := hG4
      go_roundw
      case rel => exact ⟨k + 1, B4, q4, u4', by omega, by rw [hft, List.length_append, str_len, Int.natCast_add]; exact hG4, hK.trans hK4, by go_num⟩
      case measure => (simp [intOf]) <;> omega
    · obtain rfl : k = n := by omega
      have d1 : decide ((k : Int) < (k : Int)) = false := decide_eq_false (by omega)
      rw [List.take_of_length_le (by have := HN.out; omega)] at hG
      have CE := end_any b wr _ B q u hG (hW2.kept hbw hK) hbw (by omega)
      have hl := shaF_len (flat ss)
      have hsz : (hrow (shaF (flat ss))).size = 32 := by rw [hrow_size]; exact hl
      have hone := hrow_one (shaF (flat ss))
      have y0 : wr.heap[w.heap.size]? = some (.cells #[Value.int .u8 0, Value.int .u8 0, Value.int .u8 0, Value.int .u8 0, Value.int .u8 0, Value.int .u8 0, Value.int .u8 0, Value.int .u8 0, Value.int .u8 0, Value.int .u8 0, Value.int .u8 0, Value.int .u8 0, Value.int .u8 0, Value.int .u8 0, Value.int .u8 0, Value.int .u8 0, Value.int .u8 0, Value.int .u8 0, Value.int .u8 0, Value.int .u8 0, Value.int .u8 0, Value.int .u8 0, Value.int .u8 0, Value.int .u8 0, Value.int .u8 0, Value.int .u8 0, Value.int .u8 0, Value.int .u8 0, Value.int .u8 0, Value.int .u8 0, Value.int .u8 0, Value.int .u8 0] 35 (0, 0)) := by rw [hK.block _ hl2 (by omega)]; exact y0
      have hl3 : w.heap.size < wr.heap.size := (Array.getElem?_eq_some_iff.1 y0).1
      go_wp2_with (first | (go_at_call 104; refine CE.mono ?_; rintro e w5 ⟨rfl, hK5⟩; have y5 : w5.heap[w.heap.size]? = some (.cells #[Value.int .u8 0, Value.int .u8 0, Value.int .u8 0, Value.int .u8 0, Value.int .u8 0, Value.int .u8 0, Value.int .u8 0, Value.int .u8 0, Value.int .u8 0, Value.int .u8 0, Value.int .u8 0, Value.int .u8 0, Value.int .u8 0, Value.int .u8 0, Value.int .u8 0, Value.int .u8 0, Value.int .u8 0, Value.int .u8 0, Value.int .u8 0, Value.int .u8 0, Value.int .u8 0, Value.int .u8 0, Value.int .u8 0, Value.int .u8 0, Value.int .u8 0, Value.int .u8 0, Value.int .u8 0, Value.int .u8 0, Value.int .u8 0, Value.int .u8 0, Value.int .u8 0, Value.int .u8 0] 35 (0, 0)) := (by rw [hK5.block _ hl3 (by omega)]; exact y0)) | (refine wpList_storeRowTo rfl (.tmp 2) (.tmp 17) 35 rfl (by rw [hsz]; kernel_rfl) rfl rfl y5 (by rw [hsz]; rfl) hone ?_))
      refine bodyPost_ret (v := .agg (hrow (shaF (flat ss)))) ?_ rfl ?_
      · simp [results, Tryd.results83, Act.put, asAddr]
        exact run_loadVar_row _ _ 35 35 _ (0, 0) _ (setRow_heap _ _ _ _ _ _ y5) Tryd.underlying35 rfl (by rw [hsz]; kernel_rfl)
      have hKK := hK.trans hK5
      exact ⟨rfl, below_setRow (hbel.trans (hKK.below (by omega) (by omega))) (Nat.le_refl _) _⟩
end Go.Proofs.YtpledhipdiephaaDoor
namespace Go.Proofs.YtpledhipdiephaaDoor
open Go.RowKit
attribute [local go_sem] strV
set_option linter.unusedVariables false
theorem hrow_get {q : List UInt8} {k : Nat} {x : UInt8} (h : q[k]? = some x) : (hrow q)[k]? = some (.int .u8 (x.toNat : Int)) := by
  simp [hrow, Lib.byteCells, h]
theorem conv_row {w : World} {g N : Nat} {q : List UInt8} {t : TypeId} (hg : w.heap[g]? = some (.cells (hrow q) t (0, 0))) (hq : q.length = N) :
    (convert 159 9 (.slice (some ⟨g, 0, none⟩) N N)).run Tryd.prog w = .ok (.string ⟨q.toArray⟩) w := by
  have := run_convert_bytes_back (P := Tryd.prog) w 159 9 5 ⟨g, 0, none⟩ N q Tryd.underlying159 Tryd.underlying5 Tryd.underlying9 (fun j hj => by
    have hadd : (⟨g, 0, none⟩ : Addr).add j = ⟨g, j, none⟩ := by unfold Addr.add; by_cases h : j = 0 <;> simp [h]
    rw [hadd, cell_heap hg, hrow_get (List.getElem?_eq_getElem hj)])
  rwa [hq] at this
set_option maxRecDepth 100000 in
set_option maxHeartbeats 6400000 in
theorem shaText_any (q : List UInt8) (w : World) (hq : q.length = 32) :
    Calls Tryd.prog 85 #[.agg (hrow q)] w fun e w' => e = .returned (.string ⟨q.toArray⟩) ∧ Below w.heap.size w w' := by
  have hg0 : (w.alloc (.cells (hrow q) 35)).heap[w.heap.size]? = some (.cells (hrow q) 35 (0, 0)) := heap_push _ _ _
  have hcv := conv_row hg0 hq
  go_enter Tryd.func85, Tryd.ntmps85
  go_wp2
  go_ret
  exact ⟨rfl, Below.alloc (Below.refl _ _) (Nat.le_refl _) _⟩
end Go.Proofs.YtpledhipdiephaaDoor
