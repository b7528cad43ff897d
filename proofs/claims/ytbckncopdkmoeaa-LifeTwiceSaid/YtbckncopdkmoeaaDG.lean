/- ligref22.Table.Fold. Same, of the document's table as it is told. Get and Stage of the document's table as it is told. -/
import Derived.Test.YtbckncopdkmoeaaDB
import Derived.Test.YtbckncopdkmoeaaFo1
import Derived.Test.YtbckncopdkmoeaaDE
import Derived.Test.YtbckncopdkmoeaaDF
import Derived.WalkKit
import Derived.ProofKit
import Derived.Handy
import Derived.Below
import Derived.Lib.Hide
import Derived.IntWalk
import Derived.Outline
import Derived.WalkLawsBesides
import Derived.WalkSpells
import Derived.Test.YtbckncopdkmoeaaDA
import Derived.Test.YtbckncopdkmoeaaLr5
import Derived.Test.YtbckncopdkmoeaaLf9
namespace Go.Proofs.Ytbckncopdkmoeaa
open Go.RowKit
attribute [local go_sem] strV
set_option linter.unusedVariables false
theorem refFold_any (B d m : Nat) (s : Tb) (e : Ev) (w : World) (hs : SzE e) (hD : DocOf w B d s m) (hm : m ≤ 1000) (hB : B ≤ w.heap.size) :
    Calls Try.prog 33 #[.pointer (some ⟨d, 0, none⟩), .agg e.row] w fun r w' => r = .returned (.int .i64 (foldA s.f s.cl e)) ∧ DocOf w' B d (stepT s e) (m + 1) ∧ GrD B w w' := by
  obtain ⟨ks, qs, h1, h2, h3, h4, h5⟩ := hD
  cases hM : mayEv e
  · refine (refFoldNo_any d e w hs hM).mono ?_
    rintro r w' ⟨rfl, hb⟩
    rw [(fold_no (s := s)).1 hM, step_no (.inl hM)]
    exact ⟨rfl, ⟨ks, qs, h1, h2, by omega, by omega, h5.kept hb⟩, GrD.of_below h5 hb⟩
  by_cases h7 : e.kd = 7
  · refine (refFoldUp_any d e w hs hM h7).mono ?_
    rintro r w' ⟨rfl, hb⟩
    rw [(fold_no (s := s)).2 hM h7, step_no (.inr h7)]
    exact ⟨rfl, ⟨ks, qs, h1, h2, by omega, by omega, h5.kept hb⟩, GrD.of_below h5 hb⟩
  by_cases h6 : e.kd = 6
  · refine (refFoldCl_any B d ks (entsF s.f ks) qs e w hs hM h6 h5 (by omega) hB).mono ?_
    rintro r w' ⟨rfl, hD2, hg2⟩
    obtain ⟨c1, c2⟩ := close_says hM h6 h2
    obtain ⟨k0, _, _, _, _, _, _, kd, _⟩ := h5
    refine ⟨by rw [c1], ⟨ks, _, keysOf_f h1 (close_f h6), c2, by omega, ?_, by rw [close_f h6]; exact hD2⟩, ⟨d, _, _, k0, kd, by decide, hg2⟩⟩
    split
    · omega
    · rw [List.length_append, List.length_cons, List.length_take, List.length_drop]; omega
  have hp := may_hasP hM h6 h7
  have hk : 1 ≤ e.kd ∧ e.kd ≤ 5 := by
    unfold hasP at hp
    rw [Bool.and_eq_true, decide_eq_true_eq, decide_eq_true_eq] at hp
    exact hp
  have key : Calls Try.prog 33 #[.pointer (some ⟨d, 0, none⟩), .agg e.row] w fun r w' => r = .returned (.int .i64 (foldA s.f s.cl e)) ∧ (∃ ks', KeysOf (stepT s e) ks' ∧ ks'.length ≤ ks.length + 1 ∧ DocAt w' B d ks' (entsF (stepT s e).f ks') qs) ∧ GrD B w w' := by
    by_cases k1 : e.kd = 1
    · exact refFoldPk1_any B d s ks qs e w k1 hs hM h1 (by omega) h5 hB
    by_cases k2 : e.kd = 2
    · exact refFoldPk2_any B d s ks qs e w k2 hs hM h1 (by omega) h5 hB
    by_cases k3 : e.kd = 3
    · exact refFoldPk3_any B d s ks qs e w k3 hs hM h1 (by omega) h5 hB
    by_cases k4 : e.kd = 4
    · exact refFoldPk4_any B d s ks qs e w k4 hs hM h1 (by omega) h5 hB
    exact refFoldPk5_any B d s ks qs e w (by omega) hs hM h1 (by omega) h5 hB
  refine key.mono ?_
  rintro r w' ⟨rfl, ⟨ks', q1, q2, q3⟩, hg⟩
  exact ⟨rfl, ⟨ks', qs, q1, endsOf_cl h2 (pk_f hM hp).2.1, by omega, by omega, q3⟩, hg⟩
end Go.Proofs.Ytbckncopdkmoeaa
namespace Go.Proofs.Ytbckncopdkmoeaa
open Go.RowKit
attribute [local go_sem] strV
set_option linter.unusedVariables false
theorem sameD_any (g b c n B d m : Nat) (s : Tb) (w : World) (hT : TabAt w g b c n s.f s.cl) (hn : n ≤ 100000) (hD : DocOf w B d s m) :
    Calls Try.prog 38 #[.pointer (some ⟨g, 0, none⟩), .pointer (some ⟨d, 0, none⟩)] w fun e w' => e = .returned (.bool true) ∧ Below w.heap.size w w' := by
  obtain ⟨ks, qs, h1, h2, _, _, _, ak, ck, ae, ce, ac, cc, h5, h6, h7, h8⟩ := hD
  obtain ⟨_, _, e6, r6, _⟩ := own_sliceN h6
  cases e6
  obtain ⟨_, _, e7, r7, _⟩ := own_sliceN h7
  cases e7
  obtain ⟨_, _, e8, r8, _⟩ := own_sliceN h8
  cases e8
  rw [entsF_len] at h5
  exact same_any g b c n s.f s.cl d ak ck ae ce ac cc ks qs w hT hn h1 h2 h5 r6 r7 r8
theorem build_tab (W : World) : (Instr.build 71 #[]).run Try.prog W = .ok (.agg #[.slice none 0 0, .slice none 0 0, .slice none 0 0]) W := by kernel_rfl
end Go.Proofs.Ytbckncopdkmoeaa
namespace Go.Proofs.Ytbckncopdkmoeaa
open Go.RowKit
attribute [local go_sem] strV
set_option linter.unusedVariables false
theorem getD_any (B d m : Nat) (s : Tb) (k : Lk) (hk : k.wf) (w : World) (hm : m ≤ 100000) (hD : DocOf w B d s m) :
    Calls Try.prog 35 #[.pointer (some ⟨d, 0, none⟩), .agg k.row] w fun e w' => e = .returned (.tuple #[.agg ((s.f k).getD zeroEnt).row, .bool (s.f k).isSome]) ∧ Below w.heap.size w w' := by
  obtain ⟨ks, qs, h1, h2, h3, _, _, ak, ck, ae, ce, ac, cc, h5, h6, h7, h8⟩ := hD
  obtain ⟨_, _, e6, r6, _⟩ := own_sliceN h6
  cases e6
  obtain ⟨_, _, e7, r7, _⟩ := own_sliceN h7
  cases e7
  obtain ⟨g1, g2⟩ := getE_of (f := s.f) (cl := s.cl) h1 hk
  have := refGet_any d ak ks.length ck ae (entsF s.f ks).length ce (.slice ac qs.length cc) ks (entsF s.f ks) k w h5 r6 r7 rfl rfl (entsF_len _ _).symm (by omega)
  unfold entsF at this
  rw [g1, g2] at this
  exact this
theorem stageD_any (B d m : Nat) (s : Tb) (k : Lk) (hk : k.wf) (w : World) (hm : m ≤ 100000) (hD : DocOf w B d s m) :
    Calls Try.prog 37 #[.pointer (some ⟨d, 0, none⟩), .agg k.row] w fun e w' => e = .returned (.int .i64 (stgF (s.f k) k.ou)) ∧ Below w.heap.size w w' := by
  obtain ⟨ks, qs, h1, h2, h3, _, _, ak, ck, ae, ce, ac, cc, h5, h6, h7, h8⟩ := hD
  obtain ⟨_, _, e6, r6, _⟩ := own_sliceN h6
  cases e6
  obtain ⟨_, _, e7, r7, _⟩ := own_sliceN h7
  cases e7
  obtain ⟨g1, g2⟩ := getE_of (f := s.f) (cl := s.cl) h1 hk
  have := refStage_any d ak ks.length ck ae (entsF s.f ks).length ce (.slice ac qs.length cc) ks (entsF s.f ks) k w h5 r6 r7 rfl rfl (entsF_len _ _).symm (by omega)
  unfold entsF at this
  rw [g1, g2] at this
  exact this
theorem exec_eqPkE {o : Oper} {a : Act} {w : World} (i j : Nat) (ho : o.op = .binOp .eql 74 (.tmp i) (.tmp j) 74) (e : Ent) (hx : a.eval (.tmp i) = .agg e.pkL.toArray) (hy : a.eval (.tmp j) = .agg e.pkL.toArray) : (execOp a.eval o).run Try.prog w = .ok (.value (.bool true)) w := by
  obtain ⟨sp, sc, dp, dc, sq, da, th, ta, ack, se, re, wr, ac, ti⟩ := e
  simp only [execOp, ho]
  rw [hx, hy]
  simp [Ent.pkL, go_sem, Result.andThen]
theorem lk_rowR {w : World} {g : Nat} {k : Lk} {t : TypeId} (h : w.heap[g]? = some (.cells k.row t (0, 0))) : w.rangeAt g 0 k.L := row_range4 h
end Go.Proofs.Ytbckncopdkmoeaa
