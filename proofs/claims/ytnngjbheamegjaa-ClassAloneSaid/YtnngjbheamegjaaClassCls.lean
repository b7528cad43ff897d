/- ligref22.Class: the document's classes of a list of packets. -/
import Derived.Test.YtnngjbheamegjaaClassDoc
import Derived.WalkKit
import Derived.ProofKit
import Derived.Handy
import Derived.Below
import Derived.Lib.Hide
import Derived.IntWalk
import Derived.Outline
import Derived.WalkLawsBesides
import Derived.WalkSpells
import Derived.Deep.LoopGhost
import Derived.Lib.SliceRun
import Derived.Deep.CutRange
import Derived.Deep.DeepCutAuto
namespace Go.Proofs.Ytnngjbheamegjaa
open Go.RowKit

theorem late_cases {c : Chn} {p : Pk} {ps : List Pk} {na nr NA NR : Int} {k : Nat} {out : List Int} (h4 : lostB c p = true → (out ++ [endI c p]) ++ clsL c NA NR (ps.drop (k + 1)) = clsL c na nr ps) (h5 : lostB c p = false → (out ++ [5]) ++ clsL c NA NR (ps.drop (k + 1)) = clsL c na nr ps) :
    (out ++ [lateI c p]) ++ clsL c NA NR (ps.drop (k + 1)) = clsL c na nr ps := by
  unfold lateI
  cases h : lostB c p
  · exact h5 h
  · exact h4 h
/-- A channel in a box that was laid just now. -/
theorem chn_new (w : World) (c : Chn) (t : TypeId) : ChnAt (w.alloc (.cells #[.bool c.ordered, .bool c.opn, .bool c.otherOpen, .bool c.otherClosed, .int .i64 c.stop, .int .i64 c.nextRecv, .int .i64 c.nextDone, .int .i64 c.nextAck, .int .i64 c.height, .int .i64 c.time, .int .i64 c.atHeight, .int .i64 c.atTime, .int .i64 c.srcHeight] t)) w.heap.size c := by constructor <;> go_simp

theorem wpList_pushH {P : Program} {w : World} {ops : Array Oper} {rest : List Oper} {o : Oper} {a : Act} {Q : Exit → Act → World → Prop} (hgd : o.guard = none) (s x : Operand) (t : TypeId)
    (ho : o.op = .call { callee := .builtin .append, args := #[s, x], argTypes := #[t, t] })
    {base : Nat} (e : TypeId) (i : TypeInfo) (z : Value) (size bytes : Nat) (ht : P.underlying t = some (.slice e)) (hi : P.info? e = some i) (hz : i.zero = some z)
    (hsize : i.size = size) (hby : i.bytes = bytes) (hzs : z.cells.size = size) (hsz : 0 < size)
    {v : Value} {n : Nat} {xs : List Value} (hown : w.ownsRow base e size v n xs) (hs : a.eval s = v)
    (us : List Value) {g : Nat} (hx : a.eval x = .slice (some ⟨g, 0, none⟩) 1 1) (hg : g = w.heap.size) (hl : us.length = size) (h1 : us.all Value.oneCell' = true)
    (h63 : n + 1 ≤ maxLen) (hbytes : (n + 1) * bytes ≤ 140737488355328) (hbase : base ≤ w.heap.size)
    (h : ∀ v' w', w'.ownsRow base e size v' (n + 1) (xs ++ us) → Below base w w' → (∀ (p : Addr) (y : Value), w.cell? p = some y → v.ownBlock ≠ some p.block → w'.cell? p = some y) → wpList P ops Q rest (a.put o.dst v') w') :
    wpList P ops Q (o :: rest) a (w.alloc (.cells us.toArray e)) := by
  subst hg
  refine wpList_append_own _ hgd s x t ho base e i z size bytes ht hi hz hsize hby hzs hsz v n xs hs (hown.alloc _) ⟨w.heap.size, 0, none⟩ 1 1 us hx (by omega) ?_ (fun u hu => (List.all_eq_true.1 h1) u hu) h63 hbytes (by simp; omega) ?_
  · intro j y hj
    have hjl : j < us.length := (List.getElem?_eq_some_iff.1 hj).1
    rw [show (⟨w.heap.size, 0, none⟩ : Addr).add j = ⟨w.heap.size, j, none⟩ from by unfold Addr.add; split <;> simp_all]
    rw [World.cell?_alloc_at _ _ _ _ rfl]; simpa using hj
  · intro v' w' h2 h3 _
    refine h v' w' h2 ?_ ?_
    · have hb := below_grown (hown.alloc (.cells us.toArray e)) h3 (by simp; omega)
      exact ((Below.refl base w).alloc hbase _).trans hb
    · intro p y hp hne
      exact h3.cell (Lib.cell?_alloc_some _ hp) (fun e => hne e.symm)

set_option maxRecDepth 100000 in
set_option maxHeartbeats 6400000 in
theorem class_any (o opn oo oc : Bool) (st nr nd na ht tm ah at_ sh : Int) {a : Option Addr} {cap n : Nat} {ps : List Pk} {w : World} (hr : RowAt w a (ps.flatMap Pk.cells)) (hn : ps.length = n) (hl : n ≤ maxLen) (h8 : n ≤ 1000000) :
    Calls Try.prog 27 #[.agg #[.bool o, .bool opn, .bool oo, .bool oc, .int .i64 st, .int .i64 nr, .int .i64 nd, .int .i64 na, .int .i64 ht, .int .i64 tm, .int .i64 ah, .int .i64 at_, .int .i64 sh], .slice a n cap] w fun e w' => ∃ v, e = .returned v ∧ w'.ownsRow w.heap.size 3 1 v (ofL ⟨o, opn, oo, oc, st, nr, nd, na, ht, tm, ah, at_, sh⟩ ps).length ((ofL ⟨o, opn, oo, oc, st, nr, nd, na, ht, tm, ah, at_, sh⟩ ps).map (Value.int .i64)) ∧ Below w.heap.size w w' := by
  have hl' := hl; unfold maxLen at hl'
  obtain ⟨i0, hi, hz0, hz1, hz2⟩ := info_parts Try.infoI
  have HN := Lib.hid hn; clear hn
  have hbA := (Below.refl w.heap.size w).alloc (Nat.le_refl _) (.cells #[.bool o, .bool opn, .bool oo, .bool oc, .int .i64 st, .int .i64 nr, .int .i64 nd, .int .i64 na, .int .i64 ht, .int .i64 tm, .int .i64 ah, .int .i64 at_, .int .i64 sh] 42)
  have hrA := hr.below hbA
  have hcA : ChnAt (w.alloc (.cells #[.bool o, .bool opn, .bool oo, .bool oc, .int .i64 st, .int .i64 nr, .int .i64 nd, .int .i64 na, .int .i64 ht, .int .i64 tm, .int .i64 ah, .int .i64 at_, .int .i64 sh] 42)) w.heap.size ⟨o, opn, oo, oc, st, nr, nd, na, ht, tm, ah, at_, sh⟩ := chn_new w ⟨o, opn, oo, oc, st, nr, nd, na, ht, tm, ah, at_, sh⟩ _
  by_cases hrise : riseB ps = true
  · have HO : Hid (ofL ⟨o, opn, oo, oc, st, nr, nd, na, ht, tm, ah, at_, sh⟩ ps = clsL ⟨o, opn, oo, oc, st, nr, nd, na, ht, tm, ah, at_, sh⟩ na nr ps) := Lib.hid (by unfold ofL; rw [if_pos hrise])
    rw [HO.out]
    have hlen : (clsL ⟨o, opn, oo, oc, st, nr, nd, na, ht, tm, ah, at_, sh⟩ na nr ps).length = n := by rw [clsL_len, HN.out]
    have HR := Lib.hid hrise; have HL := Lib.hid hlen; clear hrise hlen
    go_enter Try.func27, Try.ntmps27
    go_wp2_with (go_at_call 21; refine (refRise_n hrA HN.out hl).mono ?_; rintro e w1 ⟨rfl, hb1⟩; rw [HR.out]; obtain ⟨hcc, hff⟩ := bcell hb1; have hzA : w.heap.size < w1.heap.size := (by have := hb1.size; simp at this; omega))
    go_quiet (fail)
    go_wp2
    have hb2 : Below w.heap.size w (w1.drewN nq) := (hbA.trans (hb1.mono (by simp))).trans ((drewN_below _ _).mono (by omega))
    have hc2 : ChnAt (w1.drewN nq) w.heap.size ⟨o, opn, oo, oc, st, nr, nd, na, ht, tm, ah, at_, sh⟩ := (hcA.below hb1 (by simp)).below (drewN_below _ _) hzA
    have hz2' : w.heap.size < (w1.drewN nq).heap.size := hzA
    clear hcc hff hcA hrA hbA hb1 hzA
    generalize w1.drewN nq = w2 at hb2 hc2 hz2' ⊢
    go_loopw [5, 6, 7, 8] (fun v x y i wr => ∃ (k : Nat) (out : List Int) (NA NR : Int), k ≤ n ∧ Hid (out.length = k) ∧ Hid (out ++ clsL ⟨o, opn, oo, oc, st, nr, nd, na, ht, tm, ah, at_, sh⟩ NA NR (ps.drop k) = clsL ⟨o, opn, oo, oc, st, nr, nd, na, ht, tm, ah, at_, sh⟩ na nr ps) ∧ wr.ownsRow (w.heap.size + 1) 3 1 v k (out.map (Value.int .i64)) ∧ Below w.heap.size w wr ∧ ChnAt wr w.heap.size ⟨o, opn, oo, oc, st, nr, nd, na, ht, tm, ah, at_, sh⟩ ∧ w.heap.size < wr.heap.size ∧ x = .int .i64 NA ∧ y = .int .i64 NR ∧ i = .int .i64 k) (fun _ _ _ i _ => n - (intOf i).toNat)
    case atStart => exact ⟨0, [], na, nr, by omega, Lib.hid rfl, Lib.hid rfl, World.ownsRow_nil _ _ _ _, hb2, hc2, hz2', rfl, rfl, rfl⟩
    case round =>
      clear hb2 hc2 hz2'
      obtain ⟨k, out, NA, NR, hk, HOL, HC0, hown, hbel, hchn, hwz, rfl, rfl, rfl⟩ := hrel
      by_cases hlt : k < n
      · obtain ⟨b, off, rfl, hbl, hp⟩ := pk_at (hr.below hbel) (k := k) (by rw [HN.out]; exact hlt)
        have hround := cls_round (by rw [HN.out]; exact hlt) rfl HC0.out
        generalize ps[k]'(by rw [HN.out]; exact hlt) = p at hp hround
        obtain ⟨sq, pth, pta, kp, shn, rcv, dn, ack⟩ := p
        obtain ⟨p0, p1, p2, p3, p4, p5, p6, p7⟩ := hp
        have HCH := Lib.hid hchn
        obtain ⟨f0, f1, f2, f3, f4, f5, f6, f7, f8, f9, f10, f11, f12⟩ := hchn
        simp only at p0 p1 p2 p3 p4 p5 p6 p7 f0 f1 f2 f3 f4 f5 f6 f7 f8 f9 f10 f11 f12 hround
        have hbelA : Below wr.heap.size wr (wr.alloc (.cells #[.int .i64 sq, .int .i64 pth, .int .i64 pta, .bool kp, .bool shn, .bool rcv, .bool dn, .bool ack] 51)) := (Below.refl _ _).alloc (Nat.le_refl _) _
        have hownA := hown.alloc (.cells #[.int .i64 sq, .int .i64 pth, .int .i64 pta, .bool kp, .bool shn, .bool rcv, .bool dn, .bool ack] 51)
        have hzS : w.heap.size + 1 ≤ (wr.alloc (.cells #[.int .i64 sq, .int .i64 pth, .int .i64 pta, .bool kp, .bool shn, .bool rcv, .bool dn, .bool ack] 51)).heap.size := by simp; omega
        have hseq : (wr.alloc (.cells #[.int .i64 sq, .int .i64 pth, .int .i64 pta, .bool kp, .bool shn, .bool rcv, .bool dn, .bool ack] 51)).cell? ⟨wr.heap.size, 0, none⟩ = some (.int .i64 sq) := by go_simp
        have HSEQ := Lib.hid hseq; clear hseq
        have hneB : ∀ v xs j, wr.ownsRow (w.heap.size + 1) 3 1 v j xs → v.ownBlock ≠ some wr.heap.size := fun v xs j h e => by have := (h.lt _ e).2; omega
        have HNE := Lib.hid (hneB _ _ _ hown); clear hneB
        have hHR := Lib.hid hround
        clear hround
        go_upto_region 9 with fail
        go_cut [10] from 19 to 118 (fun s wx => s = .bool (acksB ⟨o, opn, oo, oc, st, nr, nd, na, ht, tm, ah, at_, sh⟩ ⟨sq, pth, pta, kp, shn, rcv, dn, ack⟩ NA) ∧ wx = wr.alloc (.cells #[.int .i64 sq, .int .i64 pth, .int .i64 pta, .bool kp, .bool shn, .bool rcv, .bool dn, .bool ack] 51))
        case first =>
          cases hAH : (ah != 0)
          · go_wp2
            go_meet
            exact ⟨by first | rfl | (simp [acksB, turnB, *]; done), rfl⟩
          · cases ack
            · go_wp2
              go_meet
              exact ⟨by first | rfl | (simp [acksB, turnB, *]; done), rfl⟩
            · cases o
              · go_wp2
                go_meet
                exact ⟨by first | rfl | (simp [acksB, turnB, *]; done), rfl⟩
              · go_wp2
                go_meet
                exact ⟨by first | rfl | (simp [acksB, turnB, *]; done), rfl⟩
        case rest =>
          obtain ⟨rfl, rfl⟩ := hcut
          go_upto_region 10 with fail
          go_cut [11] from 19 to 118 (fun s wx => s = .bool (recvB ⟨o, opn, oo, oc, st, nr, nd, na, ht, tm, ah, at_, sh⟩ ⟨sq, pth, pta, kp, shn, rcv, dn, ack⟩ NR) ∧ wx = wr.alloc (.cells #[.int .i64 sq, .int .i64 pth, .int .i64 pta, .bool kp, .bool shn, .bool rcv, .bool dn, .bool ack] 51))
          case first =>
            cases hSH : (sh != 0)
            · go_wp2
              go_meet
              exact ⟨by first | rfl | (simp [recvB, turnB, overB, *]; done), rfl⟩
            · cases shn
              · go_wp2
                go_meet
                exact ⟨by first | rfl | (simp [recvB, turnB, overB, *]; done), rfl⟩
              · cases oo
                · go_wp2
                  go_meet
                  exact ⟨by first | rfl | (simp [recvB, turnB, overB, *]; done), rfl⟩
                · cases hOv : (rchB pth ht || rchB pta tm)
                  rotate_left
                  · go_wp2_with (go_at_call 29; refine refOver_any.mono ?_; rintro e wx ⟨rfl, rfl⟩; rw [hOv])
                    go_meet
                    exact ⟨by first | rfl | (simp [recvB, turnB, overB, *]; done), rfl⟩
                  · cases o
                    · cases rcv
                      · go_wp2_with (go_at_call 29; refine refOver_any.mono ?_; rintro e wx ⟨rfl, rfl⟩; rw [hOv])
                        go_meet
                        exact ⟨by first | rfl | (simp [recvB, turnB, overB, *]; done), rfl⟩
                      · go_wp2_with (go_at_call 29; refine refOver_any.mono ?_; rintro e wx ⟨rfl, rfl⟩; rw [hOv])
                        go_meet
                        exact ⟨by first | rfl | (simp [recvB, turnB, overB, *]; done), rfl⟩
                    · go_wp2_with (go_at_call 29; refine refOver_any.mono ?_; rintro e wx ⟨rfl, rfl⟩; rw [hOv])
                      go_meet
                      exact ⟨by first | rfl | (simp [recvB, turnB, overB, *]; done), rfl⟩
          case rest =>
            obtain ⟨rfl, rfl⟩ := hcut
            have hround := hHR.out
            cases kp
            · skip
              have HC1 := Lib.hid (hround.1 rfl)
              clear hround
              go_wp2_with (first | (go_at_call 36; refine late_any.mono ?_; rintro e w1 ⟨rfl, hb⟩; have hownA := own_below hownA hb; have hbelA := bch hbelA hb; have hzS : w.heap.size + 1 ≤ w1.heap.size := Nat.le_trans hzS hb.size) | (first | (at_builtin; refine wpList_pushH rfl (.tmp 100) (.tmp 101) 26 rfl 3 i0 (.int .i64 0) 1 8 Try.underlying26 hi hz0 hz1 hz2 rfl (by decide) hownA rfl [_] rfl (by first | rfl | simp) rfl rfl (by unfold maxLen; omega) (by omega) hzS ?_; intro b1 w9 hown1 hbel1 hcell1; try have q0 := hcell1 ⟨wr.heap.size, 0, none⟩ _ HSEQ.out HNE.out) | (at_builtin; refine wpList_pushH rfl (.tmp 105) (.tmp 106) 26 rfl 3 i0 (.int .i64 0) 1 8 Try.underlying26 hi hz0 hz1 hz2 rfl (by decide) hownA rfl [_] rfl (by first | rfl | simp) rfl rfl (by unfold maxLen; omega) (by omega) hzS ?_; intro b1 w9 hown1 hbel1 hcell1; try have q0 := hcell1 ⟨wr.heap.size, 0, none⟩ _ HSEQ.out HNE.out) | (at_builtin; refine wpList_pushH rfl (.tmp 113) (.tmp 114) 26 rfl 3 i0 (.int .i64 0) 1 8 Try.underlying26 hi hz0 hz1 hz2 rfl (by decide) hownA rfl [_] rfl (by first | rfl | simp) rfl rfl (by unfold maxLen; omega) (by omega) hzS ?_; intro b1 w9 hown1 hbel1 hcell1; try have q0 := hcell1 ⟨wr.heap.size, 0, none⟩ _ HSEQ.out HNE.out) | (at_builtin; refine wpList_pushH rfl (.tmp 90) (.tmp 94) 26 rfl 3 i0 (.int .i64 0) 1 8 Try.underlying26 hi hz0 hz1 hz2 rfl (by decide) hownA rfl [_] rfl (by first | rfl | simp) rfl rfl (by unfold maxLen; omega) (by omega) hzS ?_; intro b1 w9 hown1 hbel1 hcell1; try have q0 := hcell1 ⟨wr.heap.size, 0, none⟩ _ HSEQ.out HNE.out)))
              go_roundw
              case rel => first | exact ⟨k + 1, out ++ [0], NA, NR, by omega, Lib.hid (by simp [HOL.out]), HC1.out, by rw [List.map_append]; exact hown1, (hbel.trans (hbelA.mono hbel.size)).trans (hbel1.mono (by omega)), (HCH.out.below hbelA hwz).below hbel1 (by omega), Nat.lt_of_lt_of_le hzS hbel1.size, by go_num, by go_num, by go_num⟩ | ((repeat apply Exists.intro); exact ⟨⟨k + 1, out ++ [0], NA, NR, by omega, Lib.hid (by simp [HOL.out]), HC1.out, by rw [List.map_append]; exact hown1, (hbel.trans (hbelA.mono hbel.size)).trans (hbel1.mono (by omega)), (HCH.out.below hbelA hwz).below hbel1 (by omega), Nat.lt_of_lt_of_le hzS hbel1.size, by go_num, by go_num, by go_num⟩, rfl⟩)
              case measure => simp [intOf]; omega
            · cases hA : acksB ⟨o, opn, oo, oc, st, nr, nd, na, ht, tm, ah, at_, sh⟩ ⟨sq, pth, pta, true, shn, rcv, dn, ack⟩ NA
              rotate_left
              · skip
                have HC1 := Lib.hid (hround.2.1 rfl hA)
                clear hround
                go_wp2_with (first | (go_at_call 36; refine late_any.mono ?_; rintro e w1 ⟨rfl, hb⟩; have hownA := own_below hownA hb; have hbelA := bch hbelA hb; have hzS : w.heap.size + 1 ≤ w1.heap.size := Nat.le_trans hzS hb.size) | (first | (at_builtin; refine wpList_pushH rfl (.tmp 100) (.tmp 101) 26 rfl 3 i0 (.int .i64 0) 1 8 Try.underlying26 hi hz0 hz1 hz2 rfl (by decide) hownA rfl [_] rfl (by first | rfl | simp) rfl rfl (by unfold maxLen; omega) (by omega) hzS ?_; intro b1 w9 hown1 hbel1 hcell1; try have q0 := hcell1 ⟨wr.heap.size, 0, none⟩ _ HSEQ.out HNE.out) | (at_builtin; refine wpList_pushH rfl (.tmp 105) (.tmp 106) 26 rfl 3 i0 (.int .i64 0) 1 8 Try.underlying26 hi hz0 hz1 hz2 rfl (by decide) hownA rfl [_] rfl (by first | rfl | simp) rfl rfl (by unfold maxLen; omega) (by omega) hzS ?_; intro b1 w9 hown1 hbel1 hcell1; try have q0 := hcell1 ⟨wr.heap.size, 0, none⟩ _ HSEQ.out HNE.out) | (at_builtin; refine wpList_pushH rfl (.tmp 113) (.tmp 114) 26 rfl 3 i0 (.int .i64 0) 1 8 Try.underlying26 hi hz0 hz1 hz2 rfl (by decide) hownA rfl [_] rfl (by first | rfl | simp) rfl rfl (by unfold maxLen; omega) (by omega) hzS ?_; intro b1 w9 hown1 hbel1 hcell1; try have q0 := hcell1 ⟨wr.heap.size, 0, none⟩ _ HSEQ.out HNE.out) | (at_builtin; refine wpList_pushH rfl (.tmp 90) (.tmp 94) 26 rfl 3 i0 (.int .i64 0) 1 8 Try.underlying26 hi hz0 hz1 hz2 rfl (by decide) hownA rfl [_] rfl (by first | rfl | simp) rfl rfl (by unfold maxLen; omega) (by omega) hzS ?_; intro b1 w9 hown1 hbel1 hcell1; try have q0 := hcell1 ⟨wr.heap.size, 0, none⟩ _ HSEQ.out HNE.out)))
                go_roundw
                case rel => first | exact ⟨k + 1, out ++ [2], wrap64 (sq + 1), NR, by omega, Lib.hid (by simp [HOL.out]), HC1.out, by rw [List.map_append]; exact hown1, (hbel.trans (hbelA.mono hbel.size)).trans (hbel1.mono (by omega)), (HCH.out.below hbelA hwz).below hbel1 (by omega), Nat.lt_of_lt_of_le hzS hbel1.size, by go_num, by go_num, by go_num⟩ | ((repeat apply Exists.intro); exact ⟨⟨k + 1, out ++ [2], wrap64 (sq + 1), NR, by omega, Lib.hid (by simp [HOL.out]), HC1.out, by rw [List.map_append]; exact hown1, (hbel.trans (hbelA.mono hbel.size)).trans (hbel1.mono (by omega)), (HCH.out.below hbelA hwz).below hbel1 (by omega), Nat.lt_of_lt_of_le hzS hbel1.size, by go_num, by go_num, by go_num⟩, rfl⟩)
                case measure => simp [intOf]; omega
              · cases hB : recvB ⟨o, opn, oo, oc, st, nr, nd, na, ht, tm, ah, at_, sh⟩ ⟨sq, pth, pta, true, shn, rcv, dn, ack⟩ NR
                rotate_left
                · skip
                  have HC1 := Lib.hid (hround.2.2.1 rfl hA hB)
                  clear hround
                  go_wp2_with (first | (go_at_call 36; refine late_any.mono ?_; rintro e w1 ⟨rfl, hb⟩; have hownA := own_below hownA hb; have hbelA := bch hbelA hb; have hzS : w.heap.size + 1 ≤ w1.heap.size := Nat.le_trans hzS hb.size) | (first | (at_builtin; refine wpList_pushH rfl (.tmp 100) (.tmp 101) 26 rfl 3 i0 (.int .i64 0) 1 8 Try.underlying26 hi hz0 hz1 hz2 rfl (by decide) hownA rfl [_] rfl (by first | rfl | simp) rfl rfl (by unfold maxLen; omega) (by omega) hzS ?_; intro b1 w9 hown1 hbel1 hcell1; try have q0 := hcell1 ⟨wr.heap.size, 0, none⟩ _ HSEQ.out HNE.out) | (at_builtin; refine wpList_pushH rfl (.tmp 105) (.tmp 106) 26 rfl 3 i0 (.int .i64 0) 1 8 Try.underlying26 hi hz0 hz1 hz2 rfl (by decide) hownA rfl [_] rfl (by first | rfl | simp) rfl rfl (by unfold maxLen; omega) (by omega) hzS ?_; intro b1 w9 hown1 hbel1 hcell1; try have q0 := hcell1 ⟨wr.heap.size, 0, none⟩ _ HSEQ.out HNE.out) | (at_builtin; refine wpList_pushH rfl (.tmp 113) (.tmp 114) 26 rfl 3 i0 (.int .i64 0) 1 8 Try.underlying26 hi hz0 hz1 hz2 rfl (by decide) hownA rfl [_] rfl (by first | rfl | simp) rfl rfl (by unfold maxLen; omega) (by omega) hzS ?_; intro b1 w9 hown1 hbel1 hcell1; try have q0 := hcell1 ⟨wr.heap.size, 0, none⟩ _ HSEQ.out HNE.out) | (at_builtin; refine wpList_pushH rfl (.tmp 90) (.tmp 94) 26 rfl 3 i0 (.int .i64 0) 1 8 Try.underlying26 hi hz0 hz1 hz2 rfl (by decide) hownA rfl [_] rfl (by first | rfl | simp) rfl rfl (by unfold maxLen; omega) (by omega) hzS ?_; intro b1 w9 hown1 hbel1 hcell1; try have q0 := hcell1 ⟨wr.heap.size, 0, none⟩ _ HSEQ.out HNE.out)))
                  go_roundw
                  case rel => first | exact ⟨k + 1, out ++ [1], NA, wrap64 (sq + 1), by omega, Lib.hid (by simp [HOL.out]), HC1.out, by rw [List.map_append]; exact hown1, (hbel.trans (hbelA.mono hbel.size)).trans (hbel1.mono (by omega)), (HCH.out.below hbelA hwz).below hbel1 (by omega), Nat.lt_of_lt_of_le hzS hbel1.size, by go_num, by go_num, by go_num⟩ | ((repeat apply Exists.intro); exact ⟨⟨k + 1, out ++ [1], NA, wrap64 (sq + 1), by omega, Lib.hid (by simp [HOL.out]), HC1.out, by rw [List.map_append]; exact hown1, (hbel.trans (hbelA.mono hbel.size)).trans (hbel1.mono (by omega)), (HCH.out.below hbelA hwz).below hbel1 (by omega), Nat.lt_of_lt_of_le hzS hbel1.size, by go_num, by go_num, by go_num⟩, rfl⟩)
                  case measure => simp [intOf]; omega
                · skip
                  have HC1 := Lib.hid (late_cases (hround.2.2.2.1 rfl hA hB) (hround.2.2.2.2 rfl hA hB))
                  clear hround
                  go_wp2_with (first | (go_at_call 36; refine late_any.mono ?_; rintro e w1 ⟨rfl, hb⟩; have hownA := own_below hownA hb; have hbelA := bch hbelA hb; have hzS : w.heap.size + 1 ≤ w1.heap.size := Nat.le_trans hzS hb.size) | (first | (at_builtin; refine wpList_pushH rfl (.tmp 100) (.tmp 101) 26 rfl 3 i0 (.int .i64 0) 1 8 Try.underlying26 hi hz0 hz1 hz2 rfl (by decide) hownA rfl [_] rfl (by first | rfl | simp) rfl rfl (by unfold maxLen; omega) (by omega) hzS ?_; intro b1 w9 hown1 hbel1 hcell1; try have q0 := hcell1 ⟨wr.heap.size, 0, none⟩ _ HSEQ.out HNE.out) | (at_builtin; refine wpList_pushH rfl (.tmp 105) (.tmp 106) 26 rfl 3 i0 (.int .i64 0) 1 8 Try.underlying26 hi hz0 hz1 hz2 rfl (by decide) hownA rfl [_] rfl (by first | rfl | simp) rfl rfl (by unfold maxLen; omega) (by omega) hzS ?_; intro b1 w9 hown1 hbel1 hcell1; try have q0 := hcell1 ⟨wr.heap.size, 0, none⟩ _ HSEQ.out HNE.out) | (at_builtin; refine wpList_pushH rfl (.tmp 113) (.tmp 114) 26 rfl 3 i0 (.int .i64 0) 1 8 Try.underlying26 hi hz0 hz1 hz2 rfl (by decide) hownA rfl [_] rfl (by first | rfl | simp) rfl rfl (by unfold maxLen; omega) (by omega) hzS ?_; intro b1 w9 hown1 hbel1 hcell1; try have q0 := hcell1 ⟨wr.heap.size, 0, none⟩ _ HSEQ.out HNE.out) | (at_builtin; refine wpList_pushH rfl (.tmp 90) (.tmp 94) 26 rfl 3 i0 (.int .i64 0) 1 8 Try.underlying26 hi hz0 hz1 hz2 rfl (by decide) hownA rfl [_] rfl (by first | rfl | simp) rfl rfl (by unfold maxLen; omega) (by omega) hzS ?_; intro b1 w9 hown1 hbel1 hcell1; try have q0 := hcell1 ⟨wr.heap.size, 0, none⟩ _ HSEQ.out HNE.out)))
                  go_roundw
                  case rel => first | exact ⟨k + 1, out ++ [lateI ⟨o, opn, oo, oc, st, nr, nd, na, ht, tm, ah, at_, sh⟩ ⟨sq, pth, pta, true, shn, rcv, dn, ack⟩], NA, NR, by omega, Lib.hid (by simp [HOL.out]), HC1.out, by rw [List.map_append]; exact hown1, (hbel.trans (hbelA.mono hbel.size)).trans (hbel1.mono (by omega)), (HCH.out.below hbelA hwz).below hbel1 (by omega), Nat.lt_of_lt_of_le hzS hbel1.size, by go_num, by go_num, by go_num⟩ | ((repeat apply Exists.intro); exact ⟨⟨k + 1, out ++ [lateI ⟨o, opn, oo, oc, st, nr, nd, na, ht, tm, ah, at_, sh⟩ ⟨sq, pth, pta, true, shn, rcv, dn, ack⟩], NA, NR, by omega, Lib.hid (by simp [HOL.out]), HC1.out, by rw [List.map_append]; exact hown1, (hbel.trans (hbelA.mono hbel.size)).trans (hbel1.mono (by omega)), (HCH.out.below hbelA hwz).below hbel1 (by omega), Nat.lt_of_lt_of_le hzS hbel1.size, by go_num, by go_num, by go_num⟩, rfl⟩)
                  case measure => simp [intOf]; omega
      · have hkn : k = n := by omega
        have HE : Hid (clsL ⟨o, opn, oo, oc, st, nr, nd, na, ht, tm, ah, at_, sh⟩ na nr ps = out) := Lib.hid (by rw [← HC0.out, List.drop_eq_nil_of_le (by rw [HN.out]; omega)]; simp [clsL])
        go_wp2
        go_ret
        exact ⟨_, rfl, by rw [HE.out, HOL.out]; exact ownsRow_mono hown (by omega), hbel⟩
  · have HO : Hid (ofL ⟨o, opn, oo, oc, st, nr, nd, na, ht, tm, ah, at_, sh⟩ ps = []) := Lib.hid (by unfold ofL; rw [if_neg hrise])
    rw [HO.out]
    have HR : Hid (riseB ps = false) := Lib.hid (by simpa using hrise)
    clear hrise
    go_enter Try.func27, Try.ntmps27
    go_wp2_with (go_at_call 21; refine (refRise_n hrA HN.out hl).mono ?_; rintro e w1 ⟨rfl, hb1⟩; rw [HR.out])
    go_ret
    exact ⟨_, rfl, World.ownsRow_nil _ _ _ _, hbA.trans (hb1.mono (by simp))⟩
end Go.Proofs.Ytnngjbheamegjaa
