/- liglaw4.write: things put into a Writer, and the document's bytes beside it. -/
import Derived.Test.YtngohpkkajcalaaRefText
import Derived.Deep.Cut
import Derived.WalkKit
import Derived.ProofKit
import Derived.Handy
import Derived.Below
import Derived.BigQuiet
import Derived.Lib.Hide
import Derived.IntWalk
import Derived.Outline
import Derived.WalkLawsBesides
import Derived.WalkSpells
namespace Go.Proofs.Ytngohpkkajcalaa
open Go.RowKit
attribute [local go_sem] strV
theorem KW.row {b g : Nat} {w w' : World} {C : Array Value} {e : TypeId} {fz : Nat × Nat} (h : KW b w w') (hg : w.heap[g]? = some (.cells C e fz)) (hb : g ≠ b) (he : e ≠ 5) : w'.heap[g]? = some (.cells C e fz) := by
  rw [h.keep g (Array.getElem?_eq_some_iff.1 hg).1 hb (fun cur fz' e2 => by rw [hg] at e2; simp only [Option.some.injEq, Obj.cells.injEq] at e2; exact he e2.2.1)]; exact hg
theorem Pt.cell0 {w : World} {g : Nat} {p : Pt} {e : TypeId} {fz : Nat × Nat} (h : w.heap[g]? = some (.cells p.cells.toArray e fz)) : w.cell? ⟨g, 0, none⟩ = some (.int .i64 p.kd) := Pt.at0 (rangeAt_row h)
theorem Pt.cell1 {w : World} {g : Nat} {p : Pt} {e : TypeId} {fz : Nat × Nat} (h : w.heap[g]? = some (.cells p.cells.toArray e fz)) : w.cell? ⟨g, 1, none⟩ = some (.int .i64 p.n) := by simpa using Pt.at1 (rangeAt_row h)
theorem Pt.cell2 {w : World} {g : Nat} {p : Pt} {e : TypeId} {fz : Nat × Nat} (h : w.heap[g]? = some (.cells p.cells.toArray e fz)) : w.cell? ⟨g, 2, none⟩ = some (.string p.s) := by simpa using Pt.at2 (rangeAt_row h)
theorem Pt.range3 {w : World} {g : Nat} {p : Pt} {e : TypeId} {fz : Nat × Nat} (h : w.heap[g]? = some (.cells p.cells.toArray e fz)) : w.rangeAt g 3 (Lib.byteCells p.h) := by simpa using Pt.at3 (rangeAt_row h)
theorem ba_append (l m : List UInt8) : (⟨l.toArray⟩ : ByteArray) ++ ⟨m.toArray⟩ = ⟨(l ++ m).toArray⟩ := by
  apply ByteArray.ext; simp
theorem hrow_list (l : List UInt8) : (Lib.byteCells l).toArray = hrow l := rfl
set_option maxRecDepth 100000 in
set_option maxHeartbeats 6400000 in
theorem write_any (B b : Nat) (a : Option Addr) (n cap : Nat) (ps : List Pt) (w : World) (hr : RowAt w a (ps.flatMap Pt.cells)) (hra : ps ≠ [] → ∀ x, a = some x → x.block < B) (hn : ps.length = n) (h30 : n ≤ 30) (hss : ∀ p ∈ ps, p.s.size ≤ 300) (hW : WP B b w []) (hBw : B ≤ w.heap.size) :
    Calls Try.prog 11 #[.pointer (some ⟨b, 0, none⟩), .slice a n cap] w fun e w' => e = .returned (.tuple #[.string (bif anyBad ps then ⟨#[]⟩ else ⟨(outs ps).toArray⟩), .int .i64 (bif anyBad ps then 1 else 0)]) ∧ WP B b w' ps ∧ Below B w w' := by
  have HN := Lib.hid hn; clear hn
  go_enter Try.func11, Try.ntmps11
  go_wp2
  go_loopw [6, 7, 8] (fun s e i W => ∃ k : Nat, k ≤ n ∧ s = .string ⟨(outs (ps.take k)).toArray⟩ ∧ e = .int .i64 (bif anyBad (ps.take k) then 1 else 0) ∧ i = .int .i64 k ∧ WP B b W (ps.take k) ∧ Below B w W) (fun _ _ i _ => n - (intOf i).toNat)
  case atStart => exact ⟨0, by omega, rfl, rfl, rfl, by simpa using hW, Below.refl _ _⟩
  case round =>
    clear hW
    obtain ⟨k, hk, rfl, rfl, rfl, hW, hbel⟩ := hrel
    by_cases hlt : k < n
    rotate_left
    · obtain rfl : k = n := by omega
      have ht : ps.take k = ps := List.take_of_length_le (by rw [HN.out]; exact Nat.le_refl _)
      rw [ht] at hW ⊢
      cases hb : anyBad ps
      · go_wp2
        go_returns
        exact ⟨by rw [hb]; rfl, hW, hbel⟩
      · go_wp2
        go_returns
        exact ⟨by rw [hb]; rfl, hW, hbel⟩
    have hkl : k < ps.length := by rw [HN.out]; exact hlt
    have hr2 : RowAt wr a (ps.flatMap Pt.cells) := by
      rcases hr with h | ⟨b', off, rfl, hb', hc⟩
      · exact .inl h
      · have hbB := hra (fun e => by rw [e] at hkl; simp at hkl) _ rfl
        exact .inr ⟨b', off, rfl, Nat.lt_of_lt_of_le hb' hbel.size, fun j hj => by rw [hbel.cell (p := ⟨b', off + j, none⟩) hbB]; exact hc j hj⟩
    obtain ⟨c, off, rfl, hcl, hrg⟩ := pt_at hr2 hkl
    obtain ⟨p, hp⟩ : ∃ p, ps[k] = p := ⟨_, rfl⟩
    have hps : p.s.size ≤ 300 := hss p (by rw [← hp]; exact List.getElem_mem _)
    have hp6 : p.s.size ≤ 1000000 := Nat.le_trans hps (by decide)
    have htk : ps.take (k + 1) = ps.take k ++ [p] := by rw [List.take_add_one, List.getElem?_eq_getElem hkl, hp]; rfl
    have hpss : ∀ q ∈ ps.take k, q.s.size ≤ 300 := fun q hq => hss q (List.mem_of_mem_take hq)
    have hl30 : (ps.take k).length ≤ 30 := by rw [List.length_take]; omega
    have hlo := outs_len _ hpss
    rw [hp] at hrg
    have c0 := Pt.at0 hrg
    have hbelB : B ≤ wr.heap.size := Nat.le_trans hBw hbel.size
    have hz0 : (wr.alloc (.cells #[.int .i64 0, .int .i64 0, .string ⟨#[]⟩, .int .u8 0, .int .u8 0, .int .u8 0, .int .u8 0, .int .u8 0, .int .u8 0, .int .u8 0, .int .u8 0, .int .u8 0, .int .u8 0, .int .u8 0, .int .u8 0, .int .u8 0, .int .u8 0, .int .u8 0, .int .u8 0, .int .u8 0, .int .u8 0, .int .u8 0, .int .u8 0, .int .u8 0, .int .u8 0, .int .u8 0, .int .u8 0, .int .u8 0, .int .u8 0, .int .u8 0, .int .u8 0, .int .u8 0, .int .u8 0, .int .u8 0, .int .u8 0] 49)).heap[wr.heap.size]? = some (.cells #[.int .i64 0, .int .i64 0, .string ⟨#[]⟩, .int .u8 0, .int .u8 0, .int .u8 0, .int .u8 0, .int .u8 0, .int .u8 0, .int .u8 0, .int .u8 0, .int .u8 0, .int .u8 0, .int .u8 0, .int .u8 0, .int .u8 0, .int .u8 0, .int .u8 0, .int .u8 0, .int .u8 0, .int .u8 0, .int .u8 0, .int .u8 0, .int .u8 0, .int .u8 0, .int .u8 0, .int .u8 0, .int .u8 0, .int .u8 0, .int .u8 0, .int .u8 0, .int .u8 0, .int .u8 0, .int .u8 0, .int .u8 0] 49 (0, 0)) := by
      show (wr.heap.push _)[wr.heap.size]? = _
      rw [Array.getElem?_push_size]
    have hYZ : (#[.int .i64 0, .int .i64 0, .string ⟨#[]⟩, .int .u8 0, .int .u8 0, .int .u8 0, .int .u8 0, .int .u8 0, .int .u8 0, .int .u8 0, .int .u8 0, .int .u8 0, .int .u8 0, .int .u8 0, .int .u8 0, .int .u8 0, .int .u8 0, .int .u8 0, .int .u8 0, .int .u8 0, .int .u8 0, .int .u8 0, .int .u8 0, .int .u8 0, .int .u8 0, .int .u8 0, .int .u8 0, .int .u8 0, .int .u8 0, .int .u8 0, .int .u8 0, .int .u8 0, .int .u8 0, .int .u8 0, .int .u8 0] : Array Value).size = p.cells.toArray.size := by rw [show p.cells.toArray.size = 35 from by rw [List.size_toArray, Pt.cells_len]]; rfl
    have hiZ : (Try.prog.info? 49).map (·.size) = some p.cells.toArray.size := by rw [List.size_toArray, Pt.cells_len]; kernel_rfl
    go_upto_region 6 with (first | (refine wpList_load_mid rfl 49 (.tmp 18) rfl c _ rfl p.cells _ hrg Try.underlying49 rfl (by rw [Pt.cells_len]; kernel_rfl) ?_) | (refine wpList_storeRowTo rfl (.tmp 9) (.tmp 19) 49 rfl hiZ rfl rfl hz0 hYZ p.row_one ?_))
    refine wp_nameR _ (fun W9 hW9 => ?_)
    have hg9 : W9.heap[wr.heap.size]? = some (.cells p.cells.toArray 49 (0, 0)) := by rw [hW9]; exact setRow_heap _ _ _ _ _ _ hz0
    have hb9 : Below wr.heap.size wr W9 := by rw [hW9]; exact below_setRow (Below.alloc (Below.refl _ _) (Nat.le_refl _) _) (Nat.le_refl _) _
    have hWW : WP B b W9 (ps.take k) := hW.below hb9
    have hgb : wr.heap.size ≠ b := by have := hW.lt; omega
    have hB9 : B ≤ W9.heap.size := Nat.le_trans hbelB hb9.size
    have hbw9 : Below B w W9 := hbel.trans (hb9.mono hbelB)
    have hiH : (Try.prog.info? 42).map (·.size) = some (Lib.byteCells p.h).length := by rw [Lib.byteCells_length, p.hl]; kernel_rfl
    have HT := Lib.hid htk
    clear htk hp hkl hr hra hr2 hcl
    clear hW9 hz0 hYZ hiZ hW hbel hrg c0
    have e0 := Pt.cell0 hg9
    have e1 := Pt.cell1 hg9
    have e2 := Pt.cell2 hg9
    have hle := putL_len p.n
    have hle2 := putL_len (p.s.size : Int)
    by_cases k0 : p.kd = 0
    · rw [k0] at e0
      have hbb : p.bytes = putL p.n := by rw [Pt.bytes, if_pos k0]
      have hcat : ¬ 9223372036854775807 < (outs (ps.take k)).length + (putL p.n).length := by omega
      by_cases n1 : p.n < 0
      · have d1 : decide (p.n < 0) = true := decide_eq_true n1
        have hbad : p.bad = true := by rw [Pt.bad, k0, show encB p.n = false from decide_eq_false (by omega)]; rfl
        have HB := Lib.hid hbb
        have HD := Lib.hid hbad
        clear hbb hbad
        go_wp2_with (first | (go_at_call 26; refine (put_num B b _ (ps.take k) p hWW hB9 k0 hpss hl30).mono ?_; rintro e w1 ⟨rfl, hW1, hb1, hk1⟩; have hg1 := hk1.row hg9 hgb (by decide); have f1 := Pt.cell1 hg1) | (go_at_call 34; refine (putNum_any _ _).mono ?_; rintro e w2 ⟨rfl, hb2⟩))
        go_roundw
        case rel => exact ⟨k + 1, by omega, by rw [HT.out, outs_snoc, HB.out, ba_append], by rw [HT.out, anyBad_snoc, HD.out]; first | rfl | simp, by go_num, by rw [HT.out]; exact hW1.below hb2, (hbw9.trans hb1).trans (hb2.mono (Nat.le_trans hB9 hk1.size))⟩
        case measure => (simp [intOf]) <;> omega
      have d1 : decide (p.n < 0) = false := decide_eq_false n1
      by_cases n2 : 72057594037927935 < p.n
      · have d2 : decide (72057594037927935 < p.n) = true := decide_eq_true n2
        have hbad : p.bad = true := by rw [Pt.bad, k0, show encB p.n = false from decide_eq_false (by omega)]; rfl
        have HB := Lib.hid hbb
        have HD := Lib.hid hbad
        clear hbb hbad
        go_wp2_with (first | (go_at_call 26; refine (put_num B b _ (ps.take k) p hWW hB9 k0 hpss hl30).mono ?_; rintro e w1 ⟨rfl, hW1, hb1, hk1⟩; have hg1 := hk1.row hg9 hgb (by decide); have f1 := Pt.cell1 hg1) | (go_at_call 34; refine (putNum_any _ _).mono ?_; rintro e w2 ⟨rfl, hb2⟩))
        go_roundw
        case rel => exact ⟨k + 1, by omega, by rw [HT.out, outs_snoc, HB.out, ba_append], by rw [HT.out, anyBad_snoc, HD.out]; first | rfl | simp, by go_num, by rw [HT.out]; exact hW1.below hb2, (hbw9.trans hb1).trans (hb2.mono (Nat.le_trans hB9 hk1.size))⟩
        case measure => (simp [intOf]) <;> omega
      · have d2 : decide (72057594037927935 < p.n) = false := decide_eq_false n2
        have hbad : p.bad = false := by rw [Pt.bad, k0, show encB p.n = true from decide_eq_true (by omega)]; rfl
        have HB := Lib.hid hbb
        have HD := Lib.hid hbad
        clear hbb hbad
        go_wp2_with (first | (go_at_call 26; refine (put_num B b _ (ps.take k) p hWW hB9 k0 hpss hl30).mono ?_; rintro e w1 ⟨rfl, hW1, hb1, hk1⟩; have hg1 := hk1.row hg9 hgb (by decide); have f1 := Pt.cell1 hg1) | (go_at_call 34; refine (putNum_any _ _).mono ?_; rintro e w2 ⟨rfl, hb2⟩))
        go_roundw
        case rel => exact ⟨k + 1, by omega, by rw [HT.out, outs_snoc, HB.out, ba_append], by rw [HT.out, anyBad_snoc, HD.out]; first | rfl | simp, by go_num, by rw [HT.out]; exact hW1.below hb2, (hbw9.trans hb1).trans (hb2.mono (Nat.le_trans hB9 hk1.size))⟩
        case measure => (simp [intOf]) <;> omega
    have q0 : (p.kd == 0) = false := beq_eq_false_iff_ne.2 k0
    have hbad : p.bad = false := by rw [Pt.bad, q0]; rfl
    by_cases k1 : p.kd = 1
    · have hbb : p.bytes = putL (p.s.size : Int) ++ p.s.data.toList := by rw [Pt.bytes, if_neg k0, if_pos k1]
      rw [k1] at e0
      have hlx : (putL (p.s.size : Int) ++ p.s.data.toList).length ≤ 308 := by rw [← hbb]; exact p.bytes_len hps
      have hcat : ¬ 9223372036854775807 < (outs (ps.take k)).length + (putL (p.s.size : Int) ++ p.s.data.toList).length := by omega
      have HB := Lib.hid hbb
      have HD := Lib.hid hbad
      clear hbb hbad
      go_wp2_with (first | (go_at_call 27; refine (put_text B b _ (ps.take k) p hWW hB9 k1 hps hpss hl30).mono ?_; rintro e w1 ⟨rfl, hW1, hb1, hk1⟩; have hg1 := hk1.row hg9 hgb (by decide); have f2 := Pt.cell2 hg1) | (go_at_call 35; refine (refPutText_any p.s _ hp6).mono ?_; rintro e w2 ⟨rfl, hb2⟩))
      go_roundw
      case rel => exact ⟨k + 1, by omega, by rw [HT.out, outs_snoc, HB.out, ba_append], by rw [HT.out, anyBad_snoc, HD.out]; first | rfl | simp, by go_num, by rw [HT.out]; exact hW1.below hb2, (hbw9.trans hb1).trans (hb2.mono (Nat.le_trans hB9 hk1.size))⟩
      case measure => (simp [intOf]) <;> omega
    have q1 : (p.kd == 1) = false := beq_eq_false_iff_ne.2 k1
    have hbb : p.bytes = p.h := by rw [Pt.bytes, if_neg k0, if_neg k1]
    have hph := p.hl
    have hcat : ¬ 9223372036854775807 < (outs (ps.take k)).length + p.h.length := by omega
    have HB := Lib.hid hbb
    have HD := Lib.hid hbad
    clear hbb hbad
    go_upto_region 9 with fail
    go_wp2_with (first | (refine wpList_load_mid rfl 42 (.tmp 36) rfl wr.heap.size 3 rfl (Lib.byteCells p.h) _ (Pt.range3 hg9) Try.underlying42 rfl hiH ?_; rw [hrow_list]) | (go_at_call 28; refine (put_hash B b _ (ps.take k) p hWW hB9 k0 k1 hpss hl30).mono ?_; rintro e w1 ⟨rfl, hW1, hb1, hk1⟩; have hg1 := hk1.row hg9 hgb (by decide)) | (refine wpList_load_mid rfl 42 (.tmp 40) rfl wr.heap.size 3 rfl (Lib.byteCells p.h) _ (Pt.range3 hg1) Try.underlying42 rfl hiH ?_; rw [hrow_list]) | (go_at_call 36; refine (refText_any _ p.h p.hl).mono ?_; rintro e w2 ⟨rfl, hb2⟩))
    go_roundw
    case rel => exact ⟨k + 1, by omega, by rw [HT.out, outs_snoc, HB.out, ba_append], by rw [HT.out, anyBad_snoc, HD.out]; first | rfl | simp, by go_num, by rw [HT.out]; exact hW1.below hb2, (hbw9.trans hb1).trans (hb2.mono (Nat.le_trans hB9 hk1.size))⟩
    case measure => (simp [intOf]) <;> omega
end Go.Proofs.Ytngohpkkajcalaa
