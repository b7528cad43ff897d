/-
  No cell of these rows narrows 'for every input' (looked for: loops, veiled, ifaces, maps, wideKeys, modest, calm, conditions, laid).
  DERIVED. THE GIVEN ROWS OF THIS SEAT. 5 by the template 'for every input the law returns true; each argument reads behind the call as it read before'; 0 by the template 'total and deterministic' (their statements: YtejplaffpaoadaaTotals.lean).
  GIVEN WITH THE SEED: the statements are not yours to turn. If you find one false, say at which input.
  Laid BY PROGRAM, IN A SANDBOX (cutbox-rows.mjs): the forced cells as the released guide's own fill.sh prints them over the translation 2c879a7549fb22f2… (all of the seat's roots in one cut). By AI agents, Wed Nov 11 2026. No macro, syntax, notation, axiom, sorry.
-/
import Derived.Test.YtejplaffpaoadaaChecked
import GoSem.Claim
import GoSem.ClaimJoined
import GoSem.ClaimMapViews
import Derived.JoinedTies
import Derived.KernelRfl
namespace Go.Proofs.Ytejplaffpaoadaa
/- THE CELL 'sum', in the pinned program and in every row, IS THE sha256 OF THE DUMP (.gsa) THAT YtejplaffpaoadaaProg.lean LOADS. Nothing in Lean hashes anything: it is a label: what it is worth is what the hold of that sum in a sandbox is worth. -/
noncomputable def Try.pinned : Pinned := { name := "ytejplaffpaoadaa", sum := "2c879a7549fb22f24cd7d96f4c1b53a99d0ece254ce3dca746f9a51404762a9e", checked := Try.checked }
namespace Rows
def none {H : Type} : Left H := { results := [], args := [] }

/-- 'liglaw1.LebTells': WHATEVER THE INPUT: true; the input reads as it did. -/
def lebTellsSpec : ChangeSpec := { name := "lebTells", fn := fun _ => fun
  | [d1, d2, d3] => { results := [.lit (.bool true)], args := [d1, d2, d3] }
  | _ => none }
def lebTellsRow : OpenClaim := { program := "ytejplaffpaoadaa", sum := "2c879a7549fb22f24cd7d96f4c1b53a99d0ece254ce3dca746f9a51404762a9e", func := "lighterman/liglaw1.LebTells", spec := "lebTells", apart := false }
def LebTellsSaid : Prop := lebTellsRow.holds Try.pinned (OpenSpec.ofChange lebTellsSpec)

/-- ITS FALSE NEIGHBOUR: 'it returns false'. Refute it at one input. -/
def lebTellsWrong : ChangeSpec := { name := "lebTells", fn := fun _ => fun
  | [d1, d2, d3] => { results := [.lit (.bool false)], args := [d1, d2, d3] }
  | _ => none }
def LebTellsWrongFalsely : Prop := lebTellsRow.holds Try.pinned (OpenSpec.ofChange lebTellsWrong)

/-- 'liglaw1.LebBack': WHATEVER THE INPUT: true; the input reads as it did. -/
def lebBackSpec : ChangeSpec := { name := "lebBack", fn := fun _ => fun
  | [d1, d2, d3] => { results := [.lit (.bool true)], args := [d1, d2, d3] }
  | _ => none }
def lebBackRow : OpenClaim := { program := "ytejplaffpaoadaa", sum := "2c879a7549fb22f24cd7d96f4c1b53a99d0ece254ce3dca746f9a51404762a9e", func := "lighterman/liglaw1.LebBack", spec := "lebBack", apart := false }
def LebBackSaid : Prop := lebBackRow.holds Try.pinned (OpenSpec.ofChange lebBackSpec)

/-- ITS FALSE NEIGHBOUR: 'it returns false'. Refute it at one input. -/
def lebBackWrong : ChangeSpec := { name := "lebBack", fn := fun _ => fun
  | [d1, d2, d3] => { results := [.lit (.bool false)], args := [d1, d2, d3] }
  | _ => none }
def LebBackWrongFalsely : Prop := lebBackRow.holds Try.pinned (OpenSpec.ofChange lebBackWrong)

/-- 'liglaw1.LebOne': WHATEVER THE INPUT: true; the input reads as it did. -/
def lebOneSpec : ChangeSpec := { name := "lebOne", fn := fun _ => fun
  | [d1, d2] => { results := [.lit (.bool true)], args := [d1, d2] }
  | _ => none }
def lebOneRow : OpenClaim := { program := "ytejplaffpaoadaa", sum := "2c879a7549fb22f24cd7d96f4c1b53a99d0ece254ce3dca746f9a51404762a9e", func := "lighterman/liglaw1.LebOne", spec := "lebOne", apart := false }
def LebOneSaid : Prop := lebOneRow.holds Try.pinned (OpenSpec.ofChange lebOneSpec)

/-- ITS FALSE NEIGHBOUR: 'it returns false'. Refute it at one input. -/
def lebOneWrong : ChangeSpec := { name := "lebOne", fn := fun _ => fun
  | [d1, d2] => { results := [.lit (.bool false)], args := [d1, d2] }
  | _ => none }
def LebOneWrongFalsely : Prop := lebOneRow.holds Try.pinned (OpenSpec.ofChange lebOneWrong)

/-- 'liglaw1.LebEight': WHATEVER THE INPUT: true; the input reads as it did. -/
def lebEightSpec : ChangeSpec := { name := "lebEight", fn := fun _ => fun
  | [d1, d2] => { results := [.lit (.bool true)], args := [d1, d2] }
  | _ => none }
def lebEightRow : OpenClaim := { program := "ytejplaffpaoadaa", sum := "2c879a7549fb22f24cd7d96f4c1b53a99d0ece254ce3dca746f9a51404762a9e", func := "lighterman/liglaw1.LebEight", spec := "lebEight", apart := false }
def LebEightSaid : Prop := lebEightRow.holds Try.pinned (OpenSpec.ofChange lebEightSpec)

/-- ITS FALSE NEIGHBOUR: 'it returns false'. Refute it at one input. -/
def lebEightWrong : ChangeSpec := { name := "lebEight", fn := fun _ => fun
  | [d1, d2] => { results := [.lit (.bool false)], args := [d1, d2] }
  | _ => none }
def LebEightWrongFalsely : Prop := lebEightRow.holds Try.pinned (OpenSpec.ofChange lebEightWrong)

/-- 'liglaw1.LebRises': WHATEVER THE INPUT: true; the input reads as it did. -/
def lebRisesSpec : ChangeSpec := { name := "lebRises", fn := fun _ => fun
  | [d1, d2] => { results := [.lit (.bool true)], args := [d1, d2] }
  | _ => none }
def lebRisesRow : OpenClaim := { program := "ytejplaffpaoadaa", sum := "2c879a7549fb22f24cd7d96f4c1b53a99d0ece254ce3dca746f9a51404762a9e", func := "lighterman/liglaw1.LebRises", spec := "lebRises", apart := false }
def LebRisesSaid : Prop := lebRisesRow.holds Try.pinned (OpenSpec.ofChange lebRisesSpec)

/-- ITS FALSE NEIGHBOUR: 'it returns false'. Refute it at one input. -/
def lebRisesWrong : ChangeSpec := { name := "lebRises", fn := fun _ => fun
  | [d1, d2] => { results := [.lit (.bool false)], args := [d1, d2] }
  | _ => none }
def LebRisesWrongFalsely : Prop := lebRisesRow.holds Try.pinned (OpenSpec.ofChange lebRisesWrong)

/- THE SECOND FORM. 'bulk': how many values and letters a reading holds, each counted each time it is reached (what is shared counts as often as it is met; a slice's spare places count too). A statement '..UptoSaid' is the law's where the arguments, and the package variables that the reading takes, are together of bulk at most 1048576: NARROWER than '..Said'. Prove '..Said' where nothing that the law and all that it calls make is longer than what came in: it says more and counts as full. Else prove '..UptoSaid'. A law counts once. -/
mutual
def uptoBulk {H : Type} : DataW H → Nat
  | .lit (.string bytes) => bytes.length + 1
  | .lit _ => 1
  | .nil => 1
  | .ptr d => uptoBulk d + 1
  | .slice elems spare => uptoBulkAll elems + uptoBulkAll spare + 1
  | .agg parts => uptoBulkAll parts + 1
  | .iface _ d => uptoBulk d + 1
  | .map entries => uptoBulkEntries entries + 1
  | .held _ => 1
def uptoBulkAll {H : Type} : List (DataW H) → Nat
  | [] => 0
  | d :: r => uptoBulk d + uptoBulkAll r
def uptoBulkEntries {H : Type} : List (Lit × DataW H) → Nat
  | [] => 0
  | x :: r => uptoBulkEntry x + uptoBulkEntries r
def uptoBulkEntry {H : Type} : Lit × DataW H → Nat
  | (.string bytes, d) => bytes.length + uptoBulk d + 1
  | (_, d) => uptoBulk d + 1
 end
def uptoSmall : (H : Type) → List (DataW H) → Bool := fun _ ds => decide (uptoBulkAll ds ≤ 1048576)
def OpenSpec.upto (s : _root_.Go.ChangeSpec) : _root_.Go.OpenSpec := { _root_.Go.OpenSpec.ofChange s with cond := some uptoSmall }

/-- 'liglaw1.LebTells', WHERE WHAT IT READS IS OF BULK AT MOST 1048576: true; the input reads as it did. -/
def lebTellsUptoRow : OpenClaim := { program := "ytejplaffpaoadaa", sum := "2c879a7549fb22f24cd7d96f4c1b53a99d0ece254ce3dca746f9a51404762a9e", func := "lighterman/liglaw1.LebTells", spec := "lebTells", apart := false, narrowed := true }
def LebTellsUptoSaid : Prop := lebTellsUptoRow.holds Try.pinned (OpenSpec.upto lebTellsSpec)

/-- 'liglaw1.LebBack', WHERE WHAT IT READS IS OF BULK AT MOST 1048576: true; the input reads as it did. -/
def lebBackUptoRow : OpenClaim := { program := "ytejplaffpaoadaa", sum := "2c879a7549fb22f24cd7d96f4c1b53a99d0ece254ce3dca746f9a51404762a9e", func := "lighterman/liglaw1.LebBack", spec := "lebBack", apart := false, narrowed := true }
def LebBackUptoSaid : Prop := lebBackUptoRow.holds Try.pinned (OpenSpec.upto lebBackSpec)

/-- 'liglaw1.LebOne', WHERE WHAT IT READS IS OF BULK AT MOST 1048576: true; the input reads as it did. -/
def lebOneUptoRow : OpenClaim := { program := "ytejplaffpaoadaa", sum := "2c879a7549fb22f24cd7d96f4c1b53a99d0ece254ce3dca746f9a51404762a9e", func := "lighterman/liglaw1.LebOne", spec := "lebOne", apart := false, narrowed := true }
def LebOneUptoSaid : Prop := lebOneUptoRow.holds Try.pinned (OpenSpec.upto lebOneSpec)

/-- 'liglaw1.LebEight', WHERE WHAT IT READS IS OF BULK AT MOST 1048576: true; the input reads as it did. -/
def lebEightUptoRow : OpenClaim := { program := "ytejplaffpaoadaa", sum := "2c879a7549fb22f24cd7d96f4c1b53a99d0ece254ce3dca746f9a51404762a9e", func := "lighterman/liglaw1.LebEight", spec := "lebEight", apart := false, narrowed := true }
def LebEightUptoSaid : Prop := lebEightUptoRow.holds Try.pinned (OpenSpec.upto lebEightSpec)

/-- 'liglaw1.LebRises', WHERE WHAT IT READS IS OF BULK AT MOST 1048576: true; the input reads as it did. -/
def lebRisesUptoRow : OpenClaim := { program := "ytejplaffpaoadaa", sum := "2c879a7549fb22f24cd7d96f4c1b53a99d0ece254ce3dca746f9a51404762a9e", func := "lighterman/liglaw1.LebRises", spec := "lebRises", apart := false, narrowed := true }
def LebRisesUptoSaid : Prop := lebRisesUptoRow.holds Try.pinned (OpenSpec.upto lebRisesSpec)

end Rows
end Go.Proofs.Ytejplaffpaoadaa
