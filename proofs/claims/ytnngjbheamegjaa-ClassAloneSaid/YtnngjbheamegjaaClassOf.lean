/- class.Of: the classes of a list of packets. -/
import Derived.Test.YtnngjbheamegjaaClassL
import Derived.WalkKit
import Derived.ProofKit
import Derived.Handy
import Derived.Below
import Derived.Lib.Hide
import Derived.IntWalk
import Derived.Outline
import Derived.WalkLawsBesides
import Derived.WalkSpells
namespace Go.Proofs.Ytnngjbheamegjaa
open Go.RowKit

theorem Try.infoI : (Try.prog.info? 3).map (fun i => (i.zero, i.size, i.bytes)) = some (some (.int .i64 0), 1, 8) := by kernel_rfl
/-- A channel in the box of block B. -/
structure ChnAt (w : World) (B : Nat) (c : Chn) : Prop where
  f0 : w.cell? ⟨B, 0, none⟩ = some (.bool c.ordered)
  f1 : w.cell? ⟨B, 1, none⟩ = some (.bool c.opn)
  f2 : w.cell? ⟨B, 2, none⟩ = some (.bool c.otherOpen)
  f3 : w.cell? ⟨B, 3, none⟩ = some (.bool c.otherClosed)
  f4 : w.cell? ⟨B, 4, none⟩ = some (.int .i64 c.stop)
  f5 : w.cell? ⟨B, 5, none⟩ = some (.int .i64 c.nextRecv)
  f6 : w.cell? ⟨B, 6, none⟩ = some (.int .i64 c.nextDone)
  f7 : w.cell? ⟨B, 7, none⟩ = some (.int .i64 c.nextAck)
  f8 : w.cell? ⟨B, 8, none⟩ = some (.int .i64 c.height)
  f9 : w.cell? ⟨B, 9, none⟩ = some (.int .i64 c.time)
  f10 : w.cell? ⟨B, 10, none⟩ = some (.int .i64 c.atHeight)
  f11 : w.cell? ⟨B, 11, none⟩ = some (.int .i64 c.atTime)
  f12 : w.cell? ⟨B, 12, none⟩ = some (.int .i64 c.srcHeight)

theorem ChnAt.below {w w' : World} {B : Nat} {c : Chn} (h : ChnAt w B c) {D : Nat} (hb : Below D w w') (hB : B < D) : ChnAt w' B c :=
  ⟨(hb.cell (p := ⟨B, 0, none⟩) hB).trans h.f0, (hb.cell (p := ⟨B, 1, none⟩) hB).trans h.f1, (hb.cell (p := ⟨B, 2, none⟩) hB).trans h.f2, (hb.cell (p := ⟨B, 3, none⟩) hB).trans h.f3, (hb.cell (p := ⟨B, 4, none⟩) hB).trans h.f4, (hb.cell (p := ⟨B, 5, none⟩) hB).trans h.f5, (hb.cell (p := ⟨B, 6, none⟩) hB).trans h.f6, (hb.cell (p := ⟨B, 7, none⟩) hB).trans h.f7, (hb.cell (p := ⟨B, 8, none⟩) hB).trans h.f8, (hb.cell (p := ⟨B, 9, none⟩) hB).trans h.f9, (hb.cell (p := ⟨B, 10, none⟩) hB).trans h.f10, (hb.cell (p := ⟨B, 11, none⟩) hB).trans h.f11, (hb.cell (p := ⟨B, 12, none⟩) hB).trans h.f12⟩
theorem ownsRow_mono {w : World} {base base' : Nat} {e : TypeId} {size n : Nat} {v : Value} {xs : List Value} (h : w.ownsRow base e size v n xs) (hb : base' ≤ base) : w.ownsRow base' e size v n xs := by
  obtain ⟨h1, h2⟩ := h
  refine ⟨h1, ?_⟩
  rcases h2 with h | ⟨g, cap, cur, h3, h4, h5⟩
  · exact .inl h
  · exact .inr ⟨g, cap, cur, h3, Nat.le_trans hb h4, h5⟩
theorem own_below {w w' : World} {base : Nat} {e : TypeId} {size n : Nat} {v : Value} {xs : List Value} (h : w.ownsRow base e size v n xs) (hb : Below w.heap.size w w') : w'.ownsRow base e size v n xs := by
  obtain ⟨h1, h2⟩ := h
  refine ⟨h1, ?_⟩
  rcases h2 with h | ⟨g, cap, cur, h3, h4, h5, h6⟩
  · exact .inl h
  · exact .inr ⟨g, cap, cur, h3, h4, (hb.block g (Array.getElem?_eq_some_iff.1 h5).1).trans h5, h6⟩
/-- One round of the classes. -/
theorem cls_round {c : Chn} {ps : List Pk} {na nr NA NR : Int} {k : Nat} {out : List Int} {p : Pk} (hk : k < ps.length) (hp : ps[k] = p) (h : out ++ clsL c NA NR (ps.drop k) = clsL c na nr ps) :
    (p.kept = false → (out ++ [0]) ++ clsL c NA NR (ps.drop (k + 1)) = clsL c na nr ps) ∧
    (p.kept = true → acksB c p NA = true → (out ++ [2]) ++ clsL c (wrap64 (p.seq + 1)) NR (ps.drop (k + 1)) = clsL c na nr ps) ∧
    (p.kept = true → acksB c p NA = false → recvB c p NR = true → (out ++ [1]) ++ clsL c NA (wrap64 (p.seq + 1)) (ps.drop (k + 1)) = clsL c na nr ps) ∧
    (p.kept = true → acksB c p NA = false → recvB c p NR = false → lostB c p = true → (out ++ [endI c p]) ++ clsL c NA NR (ps.drop (k + 1)) = clsL c na nr ps) ∧
    (p.kept = true → acksB c p NA = false → recvB c p NR = false → lostB c p = false → (out ++ [5]) ++ clsL c NA NR (ps.drop (k + 1)) = clsL c na nr ps) := by
  rw [clsL_drop hk, hp] at h
  refine ⟨fun h1 => ?_, fun h1 h2 => ?_, fun h1 h2 h3 => ?_, fun h1 h2 h3 h4 => ?_, fun h1 h2 h3 h4 => ?_⟩
  · rw [if_pos h1] at h; rw [List.append_assoc]; exact h
  · rw [if_neg (by rw [h1]; decide), if_pos h2] at h; rw [List.append_assoc]; exact h
  · rw [if_neg (by rw [h1]; decide), if_neg (by rw [h2]; decide), if_pos h3] at h; rw [List.append_assoc]; exact h
  · rw [if_neg (by rw [h1]; decide), if_neg (by rw [h2]; decide), if_neg (by rw [h3]; decide), if_pos h4] at h; rw [List.append_assoc]; exact h
  · rw [if_neg (by rw [h1]; decide), if_neg (by rw [h2]; decide), if_neg (by rw [h3]; decide), if_neg (by rw [h4]; decide)] at h; rw [List.append_assoc]; exact h

set_option maxRecDepth 100000 in
set_option maxHeartbeats 6400000 in
theorem of_any (o opn oo oc : Bool) (st nr nd na ht tm ah at_ sh : Int) (a : Option Addr) (cap n : Nat) (ps : List Pk) (w : World) (hr : RowAt w a (ps.flatMap Pk.cells)) (hn : ps.length = n) (hl : n ≤ maxLen) (h8 : n ≤ 1000000) :
    Calls Try.prog 26 #[.agg #[.bool o, .bool opn, .bool oo, .bool oc, .int .i64 st, .int .i64 nr, .int .i64 nd, .int .i64 na, .int .i64 ht, .int .i64 tm, .int .i64 ah, .int .i64 at_, .int .i64 sh], .slice a n cap] w fun e w' => ∃ v, e = .returned v ∧ w'.ownsRow w.heap.size 3 1 v (ofL ⟨o, opn, oo, oc, st, nr, nd, na, ht, tm, ah, at_, sh⟩ ps).length ((ofL ⟨o, opn, oo, oc, st, nr, nd, na, ht, tm, ah, at_, sh⟩ ps).map (Value.int .i64)) ∧ Below w.heap.size w w' := by
  have hl' := hl; unfold maxLen at hl'
  obtain ⟨i0, hi, hz0, hz1, hz2⟩ := info_parts Try.infoI
  have HN := Lib.hid hn; clear hn
  have hbA := (Below.refl w.heap.size w).alloc (Nat.le_refl _) (.cells #[.bool o, .bool opn, .bool oo, .bool oc, .int .i64 st, .int .i64 nr, .int .i64 nd, .int .i64 na, .int .i64 ht, .int .i64 tm, .int .i64 ah, .int .i64 at_, .int .i64 sh] 33)
  have hrA := hr.below hbA
  have hcA : ChnAt (w.alloc (.cells #[.bool o, .bool opn, .bool oo, .bool oc, .int .i64 st, .int .i64 nr, .int .i64 nd, .int .i64 na, .int .i64 ht, .int .i64 tm, .int .i64 ah, .int .i64 at_, .int .i64 sh] 33)) w.heap.size ⟨o, opn, oo, oc, st, nr, nd, na, ht, tm, ah, at_, sh⟩ := by constructor <;> go_simp
  by_cases hrise : riseB ps = true
  · have HO : Hid (ofL ⟨o, opn, oo, oc, st, nr, nd, na, ht, tm, ah, at_, sh⟩ ps = clsL ⟨o, opn, oo, oc, st, nr, nd, na, ht, tm, ah, at_, sh⟩ na nr ps) := Lib.hid (by unfold ofL; rw [if_pos hrise])
    rw [HO.out]
    have hlen : (clsL ⟨o, opn, oo, oc, st, nr, nd, na, ht, tm, ah, at_, sh⟩ na nr ps).length = n := by rw [clsL_len, HN.out]
    have HR := Lib.hid hrise; have HL := Lib.hid hlen; clear hrise hlen
    go_enter Try.func26, Try.ntmps26
    go_wp2_with (go_at_call 20; refine (rise_n hrA HN.out hl).mono ?_; rintro e w1 ⟨rfl, hb1⟩; rw [HR.out]; obtain ⟨hcc, hff⟩ := bcell hb1; have hzA : w.heap.size < w1.heap.size := (by have := hb1.size; simp at this; omega))
    go_quiet (fail)
    go_wp2
    have hb2 : Below w.heap.size w (w1.drewN nq) := (hbA.trans (hb1.mono (by simp))).trans ((drewN_below _ _).mono (by omega))
    have hc2 : ChnAt (w1.drewN nq) w.heap.size ⟨o, opn, oo, oc, st, nr, nd, na, ht, tm, ah, at_, sh⟩ := (hcA.below hb1 (by simp)).below (drewN_below _ _) hzA
    have hz2' : w.heap.size < (w1.drewN nq).heap.size := hzA
    clear hcc hff hcA hrA hbA hb1 hzA
    generalize w1.drewN nq = w2 at hb2 hc2 hz2' ⊢
    go_loopw [5, 6, 7, 20] (fun v x y i wr => ∃ (k : Nat) (out : List Int) (NA NR : Int), k ≤ n ∧ Hid (out.length = k) ∧ Hid (out ++ clsL ⟨o, opn, oo, oc, st, nr, nd, na, ht, tm, ah, at_, sh⟩ NA NR (ps.drop k) = clsL ⟨o, opn, oo, oc, st, nr, nd, na, ht, tm, ah, at_, sh⟩ na nr ps) ∧ wr.ownsRow (w.heap.size + 1) 3 1 v k (out.map (Value.int .i64)) ∧ Below w.heap.size w wr ∧ ChnAt wr w.heap.size ⟨o, opn, oo, oc, st, nr, nd, na, ht, tm, ah, at_, sh⟩ ∧ w.heap.size < wr.heap.size ∧ x = .int .i64 NA ∧ y = .int .i64 NR ∧ i = .int .i64 k) (fun _ _ _ i _ => n - (intOf i).toNat)
    case atStart => exact ⟨0, [], na, nr, by omega, Lib.hid rfl, Lib.hid rfl, World.ownsRow_nil _ _ _ _, hb2, hc2, hz2', rfl, rfl, rfl⟩
    case round =>
      clear hb2 hc2 hz2'
      obtain ⟨k, out, NA, NR, hk, HOL, HC0, hown, hbel, hchn, hwz, rfl, rfl, rfl⟩ := hrel
      by_cases hlt : k < n
      · obtain ⟨b, off, rfl, hbl, hp⟩ := pk_at (hr.below hbel) (k := k) (by rw [HN.out]; exact hlt)
        have hround := cls_round (by rw [HN.out]; exact hlt) rfl HC0.out
        generalize ps[k]'(by rw [HN.out]; exact hlt) = p at hp hround
        obtain ⟨sq, pth, pta, kp, shn, rcv, dn, ack⟩ := p
        obtain ⟨p0, p1, p2, p3, p4, p5, p6, p7⟩ := hp
        have HCH := Lib.hid hchn
        obtain ⟨f0, f1, f2, f3, f4, f5, f6, f7, f8, f9, f10, f11, f12⟩ := hchn
        simp only at p0 p1 p2 p3 p4 p5 p6 p7 f0 f1 f2 f3 f4 f5 f6 f7 f8 f9 f10 f11 f12 hround
        cases kp
        · have hbelA : Below wr.heap.size wr (wr.alloc (.cells #[.int .i64 sq, .int .i64 pth, .int .i64 pta, .bool false, .bool shn, .bool rcv, .bool dn, .bool ack] 46)) := (Below.refl _ _).alloc (Nat.le_refl _) _
          have hownA := hown.alloc (.cells #[.int .i64 sq, .int .i64 pth, .int .i64 pta, .bool false, .bool shn, .bool rcv, .bool dn, .bool ack] 46)
          have hzS : w.heap.size + 1 ≤ (wr.alloc (.cells #[.int .i64 sq, .int .i64 pth, .int .i64 pta, .bool false, .bool shn, .bool rcv, .bool dn, .bool ack] 46)).heap.size := by simp; omega
          have HC1 := Lib.hid (hround.1 rfl)
          clear hround
          go_wp2_with (first | (at_builtin; refine wpList_pushG rfl (.tmp 51) (.tmp 53) 26 rfl 3 i0 (.int .i64 0) 1 8 Try.underlying26 hi hz0 hz1 hz2 rfl (by decide) hownA rfl [_] rfl (by first | rfl | simp) rfl rfl (by unfold maxLen; omega) (by omega) hzS ?_; intro b1 w9 hown1 hbel1))
          go_roundw
          case rel => exact ⟨k + 1, out ++ [0], NA, NR, by omega, Lib.hid (by simp [HOL.out]), HC1.out, by rw [List.map_append]; exact hown1, (hbel.trans (hbelA.mono hbel.size)).trans (hbel1.mono (by omega)), (HCH.out.below hbelA hwz).below hbel1 (by omega), Nat.lt_of_lt_of_le hzS hbel1.size, by go_num, by go_num, by go_num⟩
          case measure => simp [intOf]; omega
        · have hbelA : Below wr.heap.size wr (wr.alloc (.cells #[.int .i64 sq, .int .i64 pth, .int .i64 pta, .bool true, .bool shn, .bool rcv, .bool dn, .bool ack] 46)) := (Below.refl _ _).alloc (Nat.le_refl _) _
          have hownA := hown.alloc (.cells #[.int .i64 sq, .int .i64 pth, .int .i64 pta, .bool true, .bool shn, .bool rcv, .bool dn, .bool ack] 46)
          have hzS : w.heap.size + 1 ≤ (wr.alloc (.cells #[.int .i64 sq, .int .i64 pth, .int .i64 pta, .bool true, .bool shn, .bool rcv, .bool dn, .bool ack] 46)).heap.size := by simp; omega
          cases hA : acksB ⟨o, opn, oo, oc, st, nr, nd, na, ht, tm, ah, at_, sh⟩ ⟨sq, pth, pta, true, shn, rcv, dn, ack⟩ NA
          rotate_left
          · skip
            have HA := Lib.hid hA
            have HC1 := Lib.hid (hround.2.1 rfl hA)
            clear hround
            go_wp2_with (first | (go_at_call 32; refine acks_any.mono ?_; rintro e w1 ⟨rfl, hb⟩; rw [HA.out]; obtain ⟨hcc, hff⟩ := bcell hb; have hownA := own_below hownA hb; have hbelA := bch hbelA hb; have hzA : w.heap.size < w1.heap.size := (by have := hb.size; (try simp at this); omega); have hzB : wr.heap.size < w1.heap.size := (by have := hb.size; (try simp at this); omega); have hzS : w.heap.size + 1 ≤ w1.heap.size := hzA) | (at_builtin; refine wpList_pushG rfl (.tmp 51) (.tmp 53) 26 rfl 3 i0 (.int .i64 0) 1 8 Try.underlying26 hi hz0 hz1 hz2 rfl (by decide) hownA rfl [_] rfl (by first | rfl | simp) rfl rfl (by unfold maxLen; omega) (by omega) hzS ?_; intro b1 w9 hown1 hbel1))
            go_quiet (fail)
            have hownA := own_below hownA (drewN_below _ nq)
            have hbelA := bch hbelA (drewN_below _ nq)
            have hzS : w.heap.size + 1 ≤ (w1.drewN nq).heap.size := hzS
            go_wp2_with (first | (go_at_call 32; refine acks_any.mono ?_; rintro e w1 ⟨rfl, hb⟩; rw [HA.out]; obtain ⟨hcc, hff⟩ := bcell hb; have hownA := own_below hownA hb; have hbelA := bch hbelA hb; have hzA : w.heap.size < w1.heap.size := (by have := hb.size; (try simp at this); omega); have hzB : wr.heap.size < w1.heap.size := (by have := hb.size; (try simp at this); omega); have hzS : w.heap.size + 1 ≤ w1.heap.size := hzA) | (at_builtin; refine wpList_pushG rfl (.tmp 51) (.tmp 53) 26 rfl 3 i0 (.int .i64 0) 1 8 Try.underlying26 hi hz0 hz1 hz2 rfl (by decide) hownA rfl [_] rfl (by first | rfl | simp) rfl rfl (by unfold maxLen; omega) (by omega) hzS ?_; intro b1 w9 hown1 hbel1))
            go_roundw
            case rel => exact ⟨k + 1, out ++ [2], wrap64 (sq + 1), NR, by omega, Lib.hid (by simp [HOL.out]), HC1.out, by rw [List.map_append]; exact hown1, (hbel.trans (hbelA.mono hbel.size)).trans (hbel1.mono (by omega)), (HCH.out.below hbelA hwz).below hbel1 (by omega), Nat.lt_of_lt_of_le hzS hbel1.size, by go_num, by go_num, by go_num⟩
            case measure => simp [intOf]; omega
          · cases hB : recvB ⟨o, opn, oo, oc, st, nr, nd, na, ht, tm, ah, at_, sh⟩ ⟨sq, pth, pta, true, shn, rcv, dn, ack⟩ NR
            rotate_left
            · skip
              have HA := Lib.hid hA; have HB := Lib.hid hB
              have HC1 := Lib.hid (hround.2.2.1 rfl hA hB)
              clear hround
              go_wp2_with (first | (go_at_call 32; refine acks_any.mono ?_; rintro e w1 ⟨rfl, hb⟩; rw [HA.out]; obtain ⟨hcc, hff⟩ := bcell hb; have hownA := own_below hownA hb; have hbelA := bch hbelA hb; have hzA : w.heap.size < w1.heap.size := (by have := hb.size; (try simp at this); omega); have hzB : wr.heap.size < w1.heap.size := (by have := hb.size; (try simp at this); omega); have hzS : w.heap.size + 1 ≤ w1.heap.size := hzA) | (go_at_call 33; refine receives_any.mono ?_; rintro e w1 ⟨rfl, hb⟩; rw [HB.out]; obtain ⟨hcc, hff⟩ := bcell hb; have hownA := own_below hownA hb; have hbelA := bch hbelA hb; have hzA : w.heap.size < w1.heap.size := (by have := hb.size; (try simp at this); omega); have hzB : wr.heap.size < w1.heap.size := (by have := hb.size; (try simp at this); omega); have hzS : w.heap.size + 1 ≤ w1.heap.size := hzA) | (at_builtin; refine wpList_pushG rfl (.tmp 51) (.tmp 53) 26 rfl 3 i0 (.int .i64 0) 1 8 Try.underlying26 hi hz0 hz1 hz2 rfl (by decide) hownA rfl [_] rfl (by first | rfl | simp) rfl rfl (by unfold maxLen; omega) (by omega) hzS ?_; intro b1 w9 hown1 hbel1))
              go_quiet (fail)
              have hownA := own_below hownA (drewN_below _ nq)
              have hbelA := bch hbelA (drewN_below _ nq)
              have hzS : w.heap.size + 1 ≤ (w1.drewN nq).heap.size := hzS
              go_wp2_with (first | (go_at_call 32; refine acks_any.mono ?_; rintro e w1 ⟨rfl, hb⟩; rw [HA.out]; obtain ⟨hcc, hff⟩ := bcell hb; have hownA := own_below hownA hb; have hbelA := bch hbelA hb; have hzA : w.heap.size < w1.heap.size := (by have := hb.size; (try simp at this); omega); have hzB : wr.heap.size < w1.heap.size := (by have := hb.size; (try simp at this); omega); have hzS : w.heap.size + 1 ≤ w1.heap.size := hzA) | (go_at_call 33; refine receives_any.mono ?_; rintro e w1 ⟨rfl, hb⟩; rw [HB.out]; obtain ⟨hcc, hff⟩ := bcell hb; have hownA := own_below hownA hb; have hbelA := bch hbelA hb; have hzA : w.heap.size < w1.heap.size := (by have := hb.size; (try simp at this); omega); have hzB : wr.heap.size < w1.heap.size := (by have := hb.size; (try simp at this); omega); have hzS : w.heap.size + 1 ≤ w1.heap.size := hzA) | (at_builtin; refine wpList_pushG rfl (.tmp 51) (.tmp 53) 26 rfl 3 i0 (.int .i64 0) 1 8 Try.underlying26 hi hz0 hz1 hz2 rfl (by decide) hownA rfl [_] rfl (by first | rfl | simp) rfl rfl (by unfold maxLen; omega) (by omega) hzS ?_; intro b1 w9 hown1 hbel1))
              go_roundw
              case rel => exact ⟨k + 1, out ++ [1], NA, wrap64 (sq + 1), by omega, Lib.hid (by simp [HOL.out]), HC1.out, by rw [List.map_append]; exact hown1, (hbel.trans (hbelA.mono hbel.size)).trans (hbel1.mono (by omega)), (HCH.out.below hbelA hwz).below hbel1 (by omega), Nat.lt_of_lt_of_le hzS hbel1.size, by go_num, by go_num, by go_num⟩
              case measure => simp [intOf]; omega
            · cases hD : lostB ⟨o, opn, oo, oc, st, nr, nd, na, ht, tm, ah, at_, sh⟩ ⟨sq, pth, pta, true, shn, rcv, dn, ack⟩
              rotate_left
              · skip
                have HA := Lib.hid hA; have HB := Lib.hid hB; have HD := Lib.hid hD
                have HC1 := Lib.hid (hround.2.2.2.1 rfl hA hB hD)
                clear hround
                go_wp2_with (first | (go_at_call 32; refine acks_any.mono ?_; rintro e w1 ⟨rfl, hb⟩; rw [HA.out]; obtain ⟨hcc, hff⟩ := bcell hb; have hownA := own_below hownA hb; have hbelA := bch hbelA hb; have hzA : w.heap.size < w1.heap.size := (by have := hb.size; (try simp at this); omega); have hzB : wr.heap.size < w1.heap.size := (by have := hb.size; (try simp at this); omega); have hzS : w.heap.size + 1 ≤ w1.heap.size := hzA) | (go_at_call 33; refine receives_any.mono ?_; rintro e w1 ⟨rfl, hb⟩; rw [HB.out]; obtain ⟨hcc, hff⟩ := bcell hb; have hownA := own_below hownA hb; have hbelA := bch hbelA hb; have hzA : w.heap.size < w1.heap.size := (by have := hb.size; (try simp at this); omega); have hzB : wr.heap.size < w1.heap.size := (by have := hb.size; (try simp at this); omega); have hzS : w.heap.size + 1 ≤ w1.heap.size := hzA) | (go_at_call 34; refine lost_any.mono ?_; rintro e w1 ⟨rfl, hb⟩; rw [HD.out]; obtain ⟨hcc, hff⟩ := bcell hb; have hownA := own_below hownA hb; have hbelA := bch hbelA hb; have hzA : w.heap.size < w1.heap.size := (by have := hb.size; (try simp at this); omega); have hzB : wr.heap.size < w1.heap.size := (by have := hb.size; (try simp at this); omega); have hzS : w.heap.size + 1 ≤ w1.heap.size := hzA) | (go_at_call 35; refine ending_any.mono ?_; rintro e w1 ⟨rfl, hb⟩; obtain ⟨hcc, hff⟩ := bcell hb; have hownA := own_below hownA hb; have hbelA := bch hbelA hb; have hzA : w.heap.size < w1.heap.size := (by have := hb.size; (try simp at this); omega); have hzB : wr.heap.size < w1.heap.size := (by have := hb.size; (try simp at this); omega); have hzS : w.heap.size + 1 ≤ w1.heap.size := hzA) | (at_builtin; refine wpList_pushG rfl (.tmp 51) (.tmp 53) 26 rfl 3 i0 (.int .i64 0) 1 8 Try.underlying26 hi hz0 hz1 hz2 rfl (by decide) hownA rfl [_] rfl (by first | rfl | simp) rfl rfl (by unfold maxLen; omega) (by omega) hzS ?_; intro b1 w9 hown1 hbel1))
                go_roundw
                case rel => exact ⟨k + 1, out ++ [endI ⟨o, opn, oo, oc, st, nr, nd, na, ht, tm, ah, at_, sh⟩ ⟨sq, pth, pta, true, shn, rcv, dn, ack⟩], NA, NR, by omega, Lib.hid (by simp [HOL.out]), HC1.out, by rw [List.map_append]; exact hown1, (hbel.trans (hbelA.mono hbel.size)).trans (hbel1.mono (by omega)), (HCH.out.below hbelA hwz).below hbel1 (by omega), Nat.lt_of_lt_of_le hzS hbel1.size, by go_num, by go_num, by go_num⟩
                case measure => simp [intOf]; omega
              · skip
                have HA := Lib.hid hA; have HB := Lib.hid hB; have HD := Lib.hid hD
                have HC1 := Lib.hid (hround.2.2.2.2 rfl hA hB hD)
                clear hround
                go_wp2_with (first | (go_at_call 32; refine acks_any.mono ?_; rintro e w1 ⟨rfl, hb⟩; rw [HA.out]; obtain ⟨hcc, hff⟩ := bcell hb; have hownA := own_below hownA hb; have hbelA := bch hbelA hb; have hzA : w.heap.size < w1.heap.size := (by have := hb.size; (try simp at this); omega); have hzB : wr.heap.size < w1.heap.size := (by have := hb.size; (try simp at this); omega); have hzS : w.heap.size + 1 ≤ w1.heap.size := hzA) | (go_at_call 33; refine receives_any.mono ?_; rintro e w1 ⟨rfl, hb⟩; rw [HB.out]; obtain ⟨hcc, hff⟩ := bcell hb; have hownA := own_below hownA hb; have hbelA := bch hbelA hb; have hzA : w.heap.size < w1.heap.size := (by have := hb.size; (try simp at this); omega); have hzB : wr.heap.size < w1.heap.size := (by have := hb.size; (try simp at this); omega); have hzS : w.heap.size + 1 ≤ w1.heap.size := hzA) | (go_at_call 34; refine lost_any.mono ?_; rintro e w1 ⟨rfl, hb⟩; rw [HD.out]; obtain ⟨hcc, hff⟩ := bcell hb; have hownA := own_below hownA hb; have hbelA := bch hbelA hb; have hzA : w.heap.size < w1.heap.size := (by have := hb.size; (try simp at this); omega); have hzB : wr.heap.size < w1.heap.size := (by have := hb.size; (try simp at this); omega); have hzS : w.heap.size + 1 ≤ w1.heap.size := hzA) | (at_builtin; refine wpList_pushG rfl (.tmp 51) (.tmp 53) 26 rfl 3 i0 (.int .i64 0) 1 8 Try.underlying26 hi hz0 hz1 hz2 rfl (by decide) hownA rfl [_] rfl (by first | rfl | simp) rfl rfl (by unfold maxLen; omega) (by omega) hzS ?_; intro b1 w9 hown1 hbel1))
                go_roundw
                case rel => exact ⟨k + 1, out ++ [5], NA, NR, by omega, Lib.hid (by simp [HOL.out]), HC1.out, by rw [List.map_append]; exact hown1, (hbel.trans (hbelA.mono hbel.size)).trans (hbel1.mono (by omega)), (HCH.out.below hbelA hwz).below hbel1 (by omega), Nat.lt_of_lt_of_le hzS hbel1.size, by go_num, by go_num, by go_num⟩
                case measure => simp [intOf]; omega
      · have hkn : k = n := by omega
        have HE : Hid (clsL ⟨o, opn, oo, oc, st, nr, nd, na, ht, tm, ah, at_, sh⟩ na nr ps = out) := Lib.hid (by rw [← HC0.out, List.drop_eq_nil_of_le (by rw [HN.out]; omega)]; simp [clsL])
        go_wp2
        go_ret
        exact ⟨_, rfl, by rw [HE.out, HOL.out]; exact ownsRow_mono hown (by omega), hbel⟩
  · have HO : Hid (ofL ⟨o, opn, oo, oc, st, nr, nd, na, ht, tm, ah, at_, sh⟩ ps = []) := Lib.hid (by unfold ofL; rw [if_neg hrise])
    rw [HO.out]
    have HR : Hid (riseB ps = false) := Lib.hid (by simpa using hrise)
    clear hrise
    go_enter Try.func26, Try.ntmps26
    go_wp2_with (go_at_call 20; refine (rise_n hrA HN.out hl).mono ?_; rintro e w1 ⟨rfl, hb1⟩; rw [HR.out])
    go_ret
    exact ⟨_, rfl, World.ownsRow_nil _ _ _ _, hbA.trans (hb1.mono (by simp))⟩
end Go.Proofs.Ytnngjbheamegjaa
