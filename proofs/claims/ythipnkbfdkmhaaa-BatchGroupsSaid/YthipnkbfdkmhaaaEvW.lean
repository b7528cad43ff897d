/- Packets in bytes: Write. -/
import Derived.Test.YthipnkbfdkmhaaaWriterK
import Derived.Test.YthipnkbfdkmhaaaPacket
import Derived.Test.YthipnkbfdkmhaaaGD
import Derived.Deep.MidRow
import Derived.Deep.Cut
import Derived.WalkKit
import Derived.ProofKit
import Derived.Handy
import Derived.Below
import Derived.BigQuiet
import Derived.Lib.Hide
import Derived.IntWalk
import Derived.Outline
import Derived.WalkLawsBesides
import Derived.WalkSpells
namespace Go.Proofs.Ythipnkbfdkmhaaa
open Go.RowKit
attribute [local go_sem] strV
set_option linter.unusedVariables false
theorem KW.row2 {b g : Nat} {w w' : World} {C : Array Value} {e : TypeId} {fz : Nat × Nat} (h : KW b w w') (hg : w.heap[g]? = some (.cells C e fz)) (hb : g ≠ b) (he : e ≠ 5) : w'.heap[g]? = some (.cells C e fz) := by
  rw [h.keep g (Array.getElem?_eq_some_iff.1 hg).1 hb (fun cur fz' e2 => by rw [hg] at e2; simp only [Option.some.injEq, Obj.cells.injEq] at e2; exact he e2.2.1)]; exact hg
def endBy (p : ByteArray) (c : Int) : List UInt8 := (putL (p.size : Int) ++ p.data.toList) ++ putL c
theorem endBy_len (p : ByteArray) (c : Int) (hp : p.size ≤ 12) : (endBy p c).length ≤ 28 := by
  unfold endBy
  have := putL_len' (p.size : Int); have := putL_len' c
  simp only [List.length_append, str_len]; omega
def pkBy (sp : ByteArray) (sc : Int) (dp : ByteArray) (dc sq : Int) (da : ByteArray) (th ta : Int) : List UInt8 := endBy sp sc ++ endBy dp dc ++ putL sq ++ (putL (da.size : Int) ++ da.data.toList) ++ putL th ++ putL ta
theorem pkBy_len (sp : ByteArray) (sc : Int) (dp : ByteArray) (dc sq : Int) (da : ByteArray) (th ta : Int) (h1 : sp.size ≤ 12) (h2 : dp.size ≤ 12) (h3 : da.size ≤ 200) : (pkBy sp sc dp dc sq da th ta).length ≤ 288 := by
  unfold pkBy
  have := endBy_len sp sc h1; have := endBy_len dp dc h2
  have := putL_len' (da.size : Int); have := putL_len' sq; have := putL_len' th; have := putL_len' ta
  simp only [List.length_append, str_len]; omega
set_option maxRecDepth 100000 in
set_option maxHeartbeats 1600000 in
theorem writeEnd_any (B b : Nat) (w : World) (l : List UInt8) (p : ByteArray) (cN : Nat) (hW : WAt B b w l 0) (hBw : B ≤ w.heap.size) (hp : p.size ≤ 12) (hc : cN ≤ 999) (hl : l.length ≤ 800000) :
    Calls Try.prog 117 #[.pointer (some ⟨b, 0, none⟩), .agg #[.string p, .int .i64 (cN : Int)]] w fun e w' => e = .returned (.tuple #[]) ∧ WAt B b w' (l ++ endBy p cN) 0 ∧ Below B w w' ∧ KW b w w' := by
  have hg0 : (w.alloc (.cells #[.string p, .int .i64 (cN : Int)] 27)).heap[w.heap.size]? = some (.cells #[.string p, .int .i64 (cN : Int)] 27 (0, 0)) := by
    show (w.heap.push _)[w.heap.size]? = _
    rw [Array.getElem?_push_size]
  have hbA : Below w.heap.size w (w.alloc (.cells #[.string p, .int .i64 (cN : Int)] 27)) := Below.alloc (Below.refl _ _) (Nat.le_refl _) _
  have a1 := putL_len' (p.size : Int)
  go_enter Try.func117, Try.ntmps117
  go_upto_region 1 with fail
  refine wp_nameE _ (fun W1 hW1 => ?_)
  have hg := hg0
  rw [← hW1] at hg
  have hb1 : Below w.heap.size w W1 := by rw [hW1]; exact hbA
  have hbel : Below B w W1 := hb1.mono hBw
  have hkw : KW b w W1 := KW.of hb1
  have hgb : w.heap.size ≠ b := by have := hW.lt; omega
  have hW := hW.below hb1
  have hBw := Nat.le_trans hBw hb1.size
  clear hW1 hg0 hbA hb1
  have q0 := cell_heap hg 0; have q1 := cell_heap hg 1
  go_wp2_with (first | (go_at_call 77; refine (wtext_k B b _ _ p hW hBw ?_ ?_).mono ?_; omega; (first | omega | (simp only [List.length_append]; omega) | (simp only [List.length_append, str_len]; omega)); rintro e w2 ⟨rfl, hW, hb2, hk2⟩; have hg := hk2.row2 hg hgb (by decide); have hBw := Nat.le_trans hBw hk2.size; have hbel := hbel.trans hb2; have hkw := hkw.trans hk2; have q0 := cell_heap hg 0; have q1 := cell_heap hg 1) | (go_at_call 76; refine (wnum_k B b _ _ cN hW hBw ?_ ?_).mono ?_; omega; (first | omega | (simp only [List.length_append]; omega) | (simp only [List.length_append, str_len]; omega)); rintro e w3 ⟨rfl, hW, hb3, hk3⟩; have hg := hk3.row2 hg hgb (by decide); have hBw := Nat.le_trans hBw hk3.size; have hbel := hbel.trans hb3; have hkw := hkw.trans hk3))
  go_returns
  exact ⟨rfl, by unfold endBy; simpa only [List.append_assoc] using hW, hbel, hkw⟩
set_option maxRecDepth 100000 in
set_option maxHeartbeats 6400000 in
theorem pkWrite_any (B b : Nat) (w : World) (l : List UInt8) (sp : ByteArray) (scN : Nat) (dp : ByteArray) (dcN sqN : Nat) (da : ByteArray) (thN taN : Nat) (hW : WAt B b w l 0) (hBw : B ≤ w.heap.size) (h1 : sp.size ≤ 12) (h2 : dp.size ≤ 12) (h3 : da.size ≤ 200) (c1 : scN ≤ 999) (c2 : dcN ≤ 999) (c3 : sqN ≤ 1099511627776) (c4 : thN ≤ 1099511627776) (c5 : taN ≤ 1099511627776) (hl : l.length ≤ 700000) :
    Calls Try.prog 93 #[.pointer (some ⟨b, 0, none⟩), .agg #[.string sp, .int .i64 (scN : Int), .string dp, .int .i64 (dcN : Int), .int .i64 (sqN : Int), .string da, .int .i64 (thN : Int), .int .i64 (taN : Int)]] w fun e w' => e = .returned (.tuple #[]) ∧ WAt B b w' (l ++ pkBy sp scN dp dcN sqN da thN taN) 0 ∧ Below B w w' ∧ KW b w w' := by
  have hg0 : (w.alloc (.cells #[.string sp, .int .i64 (scN : Int), .string dp, .int .i64 (dcN : Int), .int .i64 (sqN : Int), .string da, .int .i64 (thN : Int), .int .i64 (taN : Int)] 29)).heap[w.heap.size]? = some (.cells #[.string sp, .int .i64 (scN : Int), .string dp, .int .i64 (dcN : Int), .int .i64 (sqN : Int), .string da, .int .i64 (thN : Int), .int .i64 (taN : Int)] 29 (0, 0)) := by
    show (w.heap.push _)[w.heap.size]? = _
    rw [Array.getElem?_push_size]
  have hbA : Below w.heap.size w (w.alloc (.cells #[.string sp, .int .i64 (scN : Int), .string dp, .int .i64 (dcN : Int), .int .i64 (sqN : Int), .string da, .int .i64 (thN : Int), .int .i64 (taN : Int)] 29)) := Below.alloc (Below.refl _ _) (Nat.le_refl _) _
  have a1 := endBy_len sp scN h1; have a2 := endBy_len dp dcN h2
  have a3 := putL_len' (da.size : Int); have a4 := putL_len' (sqN : Int); have a5 := putL_len' (thN : Int); have a6 := putL_len' (taN : Int)
  go_enter Try.func93, Try.ntmps93
  go_upto_region 1 with fail
  refine wp_nameE _ (fun W1 hW1 => ?_)
  have hg := hg0
  rw [← hW1] at hg
  have hb1 : Below w.heap.size w W1 := by rw [hW1]; exact hbA
  have hbel : Below B w W1 := hb1.mono hBw
  have hkw : KW b w W1 := KW.of hb1
  have hgb : w.heap.size ≠ b := by have := hW.lt; omega
  have hW := hW.below hb1
  have hBw := Nat.le_trans hBw hb1.size
  clear hW1 hg0 hbA hb1
  have q0 := cell_heap hg 0; have q1 := cell_heap hg 1; have q2 := cell_heap hg 2; have q3 := cell_heap hg 3; have q4 := cell_heap hg 4; have q5 := cell_heap hg 5; have q6 := cell_heap hg 6; have q7 := cell_heap hg 7
  go_upto_region 2 with (go_at_call 117; refine (writeEnd_any B b _ _ sp scN hW hBw ?_ ?_ ?_).mono ?_; omega; omega; (first | omega | (simp only [List.length_append]; omega) | (simp only [List.length_append, str_len]; omega)); rintro e w2 ⟨rfl, hW, hb2, hk2⟩; have hg := hk2.row2 hg hgb (by decide); have hBw := Nat.le_trans hBw hk2.size; have hbel := hbel.trans hb2; have hkw := hkw.trans hk2; have q0 := cell_heap hg 0; have q1 := cell_heap hg 1; have q2 := cell_heap hg 2; have q3 := cell_heap hg 3; have q4 := cell_heap hg 4; have q5 := cell_heap hg 5; have q6 := cell_heap hg 6; have q7 := cell_heap hg 7)
  go_upto_region 3 with (go_at_call 117; refine (writeEnd_any B b _ _ dp dcN hW hBw ?_ ?_ ?_).mono ?_; omega; omega; (first | omega | (simp only [List.length_append]; omega) | (simp only [List.length_append, str_len]; omega)); rintro e w3 ⟨rfl, hW, hb2, hk2⟩; have hg := hk2.row2 hg hgb (by decide); have hBw := Nat.le_trans hBw hk2.size; have hbel := hbel.trans hb2; have hkw := hkw.trans hk2; have q0 := cell_heap hg 0; have q1 := cell_heap hg 1; have q2 := cell_heap hg 2; have q3 := cell_heap hg 3; have q4 := cell_heap hg 4; have q5 := cell_heap hg 5; have q6 := cell_heap hg 6; have q7 := cell_heap hg 7)
  go_upto_region 4 with (go_at_call 76; refine (wnum_k B b _ _ sqN hW hBw ?_ ?_).mono ?_; omega; (first | omega | (simp only [List.length_append]; omega) | (simp only [List.length_append, str_len]; omega)); rintro e w4 ⟨rfl, hW, hb2, hk2⟩; have hg := hk2.row2 hg hgb (by decide); have hBw := Nat.le_trans hBw hk2.size; have hbel := hbel.trans hb2; have hkw := hkw.trans hk2; have q0 := cell_heap hg 0; have q1 := cell_heap hg 1; have q2 := cell_heap hg 2; have q3 := cell_heap hg 3; have q4 := cell_heap hg 4; have q5 := cell_heap hg 5; have q6 := cell_heap hg 6; have q7 := cell_heap hg 7)
  go_upto_region 5 with (go_at_call 77; refine (wtext_k B b _ _ da hW hBw ?_ ?_).mono ?_; omega; (first | omega | (simp only [List.length_append]; omega) | (simp only [List.length_append, str_len]; omega)); rintro e w5 ⟨rfl, hW, hb2, hk2⟩; have hg := hk2.row2 hg hgb (by decide); have hBw := Nat.le_trans hBw hk2.size; have hbel := hbel.trans hb2; have hkw := hkw.trans hk2; have q0 := cell_heap hg 0; have q1 := cell_heap hg 1; have q2 := cell_heap hg 2; have q3 := cell_heap hg 3; have q4 := cell_heap hg 4; have q5 := cell_heap hg 5; have q6 := cell_heap hg 6; have q7 := cell_heap hg 7)
  go_upto_region 6 with (go_at_call 76; refine (wnum_k B b _ _ thN hW hBw ?_ ?_).mono ?_; omega; (first | omega | (simp only [List.length_append]; omega) | (simp only [List.length_append, str_len]; omega)); rintro e w6 ⟨rfl, hW, hb2, hk2⟩; have hg := hk2.row2 hg hgb (by decide); have hBw := Nat.le_trans hBw hk2.size; have hbel := hbel.trans hb2; have hkw := hkw.trans hk2; have q0 := cell_heap hg 0; have q1 := cell_heap hg 1; have q2 := cell_heap hg 2; have q3 := cell_heap hg 3; have q4 := cell_heap hg 4; have q5 := cell_heap hg 5; have q6 := cell_heap hg 6; have q7 := cell_heap hg 7)
  go_wp2_with (go_at_call 76; refine (wnum_k B b _ _ taN hW hBw ?_ ?_).mono ?_; omega; (first | omega | (simp only [List.length_append]; omega) | (simp only [List.length_append, str_len]; omega)); rintro e w7 ⟨rfl, hW, hb2, hk2⟩; have hg := hk2.row2 hg hgb (by decide); have hBw := Nat.le_trans hBw hk2.size; have hbel := hbel.trans hb2; have hkw := hkw.trans hk2; have q0 := cell_heap hg 0; have q1 := cell_heap hg 1; have q2 := cell_heap hg 2; have q3 := cell_heap hg 3; have q4 := cell_heap hg 4; have q5 := cell_heap hg 5; have q6 := cell_heap hg 6; have q7 := cell_heap hg 7)
  go_returns
  exact ⟨rfl, by unfold pkBy; simpa only [List.append_assoc] using hW, hbel, hkw⟩
end Go.Proofs.Ythipnkbfdkmhaaa
