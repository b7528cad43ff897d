/-
  No cell of these rows narrows 'for every input' (looked for: loops, veiled, ifaces, maps, wideKeys, modest, calm, conditions, laid).
  DERIVED. THE GIVEN ROWS OF THIS SEAT. 5 by the template 'for every input the law returns true; each argument reads behind the call as it read before'; 0 by the template 'total and deterministic' (their statements: YtekhmdjpkngglaaTotals.lean).
  GIVEN WITH THE SEED: the statements are not yours to turn. If you find one false, say at which input.
  Laid BY PROGRAM, IN A SANDBOX (cutbox-rows.mjs): the forced cells as the released guide's own fill.sh prints them over the translation 8e1b73cd839230a3… (all of the seat's roots in one cut). By AI agents, Wed Nov 11 2026. No macro, syntax, notation, axiom, sorry.
-/
import Derived.Test.YtekhmdjpkngglaaChecked
import GoSem.Claim
import GoSem.ClaimJoined
import GoSem.ClaimMapViews
import Derived.JoinedTies
import Derived.KernelRfl
namespace Go.Proofs.Ytekhmdjpkngglaa
/- THE CELL 'sum', in the pinned program and in every row, IS THE sha256 OF THE DUMP (.gsa) THAT YtekhmdjpkngglaaProg.lean LOADS. Nothing in Lean hashes anything: it is a label: what it is worth is what the hold of that sum in a sandbox is worth. -/
noncomputable def Try.pinned : Pinned := { name := "ytekhmdjpkngglaa", sum := "8e1b73cd839230a34b1656bd20f7768eb0250cd6ef23d40748e94940694121b6", checked := Try.checked }
namespace Rows
def none {H : Type} : Left H := { results := [], args := [] }

/-- 'liglaw9.EventBack': WHATEVER THE INPUT: true; the input reads as it did. -/
def eventBackSpec : ChangeSpec := { name := "eventBack", fn := fun _ => fun
  | [d1, d2, d3] => { results := [.lit (.bool true)], args := [d1, d2, d3] }
  | _ => none }
def eventBackRow : OpenClaim := { program := "ytekhmdjpkngglaa", sum := "8e1b73cd839230a34b1656bd20f7768eb0250cd6ef23d40748e94940694121b6", func := "lighterman/liglaw9.EventBack", spec := "eventBack", inPlace := ["internal/abi.NoEscape"], apart := false }
def EventBackSaid : Prop := eventBackRow.holds Try.pinned (OpenSpec.ofChange eventBackSpec)

/-- ITS FALSE NEIGHBOUR: 'it returns false'. Refute it at one input. -/
def eventBackWrong : ChangeSpec := { name := "eventBack", fn := fun _ => fun
  | [d1, d2, d3] => { results := [.lit (.bool false)], args := [d1, d2, d3] }
  | _ => none }
def EventBackWrongFalsely : Prop := eventBackRow.holds Try.pinned (OpenSpec.ofChange eventBackWrong)

/-- 'liglaw9.EventOwn': WHATEVER THE INPUT: true; the input reads as it did. -/
def eventOwnSpec : ChangeSpec := { name := "eventOwn", fn := fun _ => fun
  | [d1, d2, d3] => { results := [.lit (.bool true)], args := [d1, d2, d3] }
  | _ => none }
def eventOwnRow : OpenClaim := { program := "ytekhmdjpkngglaa", sum := "8e1b73cd839230a34b1656bd20f7768eb0250cd6ef23d40748e94940694121b6", func := "lighterman/liglaw9.EventOwn", spec := "eventOwn", inPlace := ["internal/abi.NoEscape"], apart := false }
def EventOwnSaid : Prop := eventOwnRow.holds Try.pinned (OpenSpec.ofChange eventOwnSpec)

/-- ITS FALSE NEIGHBOUR: 'it returns false'. Refute it at one input. -/
def eventOwnWrong : ChangeSpec := { name := "eventOwn", fn := fun _ => fun
  | [d1, d2, d3] => { results := [.lit (.bool false)], args := [d1, d2, d3] }
  | _ => none }
def EventOwnWrongFalsely : Prop := eventOwnRow.holds Try.pinned (OpenSpec.ofChange eventOwnWrong)

/-- 'liglaw9.EventApart': WHATEVER THE INPUT: true; the input reads as it did. -/
def eventApartSpec : ChangeSpec := { name := "eventApart", fn := fun _ => fun
  | [d1, d2] => { results := [.lit (.bool true)], args := [d1, d2] }
  | _ => none }
def eventApartRow : OpenClaim := { program := "ytekhmdjpkngglaa", sum := "8e1b73cd839230a34b1656bd20f7768eb0250cd6ef23d40748e94940694121b6", func := "lighterman/liglaw9.EventApart", spec := "eventApart", inPlace := ["internal/abi.NoEscape"], apart := false }
def EventApartSaid : Prop := eventApartRow.holds Try.pinned (OpenSpec.ofChange eventApartSpec)

/-- ITS FALSE NEIGHBOUR: 'it returns false'. Refute it at one input. -/
def eventApartWrong : ChangeSpec := { name := "eventApart", fn := fun _ => fun
  | [d1, d2] => { results := [.lit (.bool false)], args := [d1, d2] }
  | _ => none }
def EventApartWrongFalsely : Prop := eventApartRow.holds Try.pinned (OpenSpec.ofChange eventApartWrong)

/-- 'liglaw15.EndsTells': WHATEVER THE INPUT: true; the input reads as it did. -/
def endsTellsSpec : ChangeSpec := { name := "endsTells", fn := fun _ => fun
  | [d1, d2] => { results := [.lit (.bool true)], args := [d1, d2] }
  | _ => none }
def endsTellsRow : OpenClaim := { program := "ytekhmdjpkngglaa", sum := "8e1b73cd839230a34b1656bd20f7768eb0250cd6ef23d40748e94940694121b6", func := "lighterman/liglaw15.EndsTells", spec := "endsTells", inPlace := ["internal/abi.NoEscape"], apart := false }
def EndsTellsSaid : Prop := endsTellsRow.holds Try.pinned (OpenSpec.ofChange endsTellsSpec)

/-- ITS FALSE NEIGHBOUR: 'it returns false'. Refute it at one input. -/
def endsTellsWrong : ChangeSpec := { name := "endsTells", fn := fun _ => fun
  | [d1, d2] => { results := [.lit (.bool false)], args := [d1, d2] }
  | _ => none }
def EndsTellsWrongFalsely : Prop := endsTellsRow.holds Try.pinned (OpenSpec.ofChange endsTellsWrong)

/-- 'liglaw15.EndsBack': WHATEVER THE INPUT: true; the input reads as it did. -/
def endsBackSpec : ChangeSpec := { name := "endsBack", fn := fun _ => fun
  | [d1, d2] => { results := [.lit (.bool true)], args := [d1, d2] }
  | _ => none }
def endsBackRow : OpenClaim := { program := "ytekhmdjpkngglaa", sum := "8e1b73cd839230a34b1656bd20f7768eb0250cd6ef23d40748e94940694121b6", func := "lighterman/liglaw15.EndsBack", spec := "endsBack", inPlace := ["internal/abi.NoEscape"], apart := false }
def EndsBackSaid : Prop := endsBackRow.holds Try.pinned (OpenSpec.ofChange endsBackSpec)

/-- ITS FALSE NEIGHBOUR: 'it returns false'. Refute it at one input. -/
def endsBackWrong : ChangeSpec := { name := "endsBack", fn := fun _ => fun
  | [d1, d2] => { results := [.lit (.bool false)], args := [d1, d2] }
  | _ => none }
def EndsBackWrongFalsely : Prop := endsBackRow.holds Try.pinned (OpenSpec.ofChange endsBackWrong)

/- THE SECOND FORM. 'bulk': how many values and letters a reading holds, each counted each time it is reached (what is shared counts as often as it is met; a slice's spare places count too). A statement '..UptoSaid' is the law's where the arguments, and the package variables that the reading takes, are together of bulk at most 1048576: NARROWER than '..Said'. Prove '..Said' where nothing that the law and all that it calls make is longer than what came in: it says more and counts as full. Else prove '..UptoSaid'. A law counts once. -/
mutual
def uptoBulk {H : Type} : DataW H → Nat
  | .lit (.string bytes) => bytes.length + 1
  | .lit _ => 1
  | .nil => 1
  | .ptr d => uptoBulk d + 1
  | .slice elems spare => uptoBulkAll elems + uptoBulkAll spare + 1
  | .agg parts => uptoBulkAll parts + 1
  | .iface _ d => uptoBulk d + 1
  | .map entries => uptoBulkEntries entries + 1
  | .held _ => 1
def uptoBulkAll {H : Type} : List (DataW H) → Nat
  | [] => 0
  | d :: r => uptoBulk d + uptoBulkAll r
def uptoBulkEntries {H : Type} : List (Lit × DataW H) → Nat
  | [] => 0
  | x :: r => uptoBulkEntry x + uptoBulkEntries r
def uptoBulkEntry {H : Type} : Lit × DataW H → Nat
  | (.string bytes, d) => bytes.length + uptoBulk d + 1
  | (_, d) => uptoBulk d + 1
 end
def uptoSmall : (H : Type) → List (DataW H) → Bool := fun _ ds => decide (uptoBulkAll ds ≤ 1048576)
def OpenSpec.upto (s : _root_.Go.ChangeSpec) : _root_.Go.OpenSpec := { _root_.Go.OpenSpec.ofChange s with cond := some uptoSmall }

/-- 'liglaw9.EventBack', WHERE WHAT IT READS IS OF BULK AT MOST 1048576: true; the input reads as it did. -/
def eventBackUptoRow : OpenClaim := { program := "ytekhmdjpkngglaa", sum := "8e1b73cd839230a34b1656bd20f7768eb0250cd6ef23d40748e94940694121b6", func := "lighterman/liglaw9.EventBack", spec := "eventBack", inPlace := ["internal/abi.NoEscape"], apart := false, narrowed := true }
def EventBackUptoSaid : Prop := eventBackUptoRow.holds Try.pinned (OpenSpec.upto eventBackSpec)

/-- 'liglaw9.EventOwn', WHERE WHAT IT READS IS OF BULK AT MOST 1048576: true; the input reads as it did. -/
def eventOwnUptoRow : OpenClaim := { program := "ytekhmdjpkngglaa", sum := "8e1b73cd839230a34b1656bd20f7768eb0250cd6ef23d40748e94940694121b6", func := "lighterman/liglaw9.EventOwn", spec := "eventOwn", inPlace := ["internal/abi.NoEscape"], apart := false, narrowed := true }
def EventOwnUptoSaid : Prop := eventOwnUptoRow.holds Try.pinned (OpenSpec.upto eventOwnSpec)

/-- 'liglaw9.EventApart', WHERE WHAT IT READS IS OF BULK AT MOST 1048576: true; the input reads as it did. -/
def eventApartUptoRow : OpenClaim := { program := "ytekhmdjpkngglaa", sum := "8e1b73cd839230a34b1656bd20f7768eb0250cd6ef23d40748e94940694121b6", func := "lighterman/liglaw9.EventApart", spec := "eventApart", inPlace := ["internal/abi.NoEscape"], apart := false, narrowed := true }
def EventApartUptoSaid : Prop := eventApartUptoRow.holds Try.pinned (OpenSpec.upto eventApartSpec)

/-- 'liglaw15.EndsTells', WHERE WHAT IT READS IS OF BULK AT MOST 1048576: true; the input reads as it did. -/
def endsTellsUptoRow : OpenClaim := { program := "ytekhmdjpkngglaa", sum := "8e1b73cd839230a34b1656bd20f7768eb0250cd6ef23d40748e94940694121b6", func := "lighterman/liglaw15.EndsTells", spec := "endsTells", inPlace := ["internal/abi.NoEscape"], apart := false, narrowed := true }
def EndsTellsUptoSaid : Prop := endsTellsUptoRow.holds Try.pinned (OpenSpec.upto endsTellsSpec)

/-- 'liglaw15.EndsBack', WHERE WHAT IT READS IS OF BULK AT MOST 1048576: true; the input reads as it did. -/
def endsBackUptoRow : OpenClaim := { program := "ytekhmdjpkngglaa", sum := "8e1b73cd839230a34b1656bd20f7768eb0250cd6ef23d40748e94940694121b6", func := "lighterman/liglaw15.EndsBack", spec := "endsBack", inPlace := ["internal/abi.NoEscape"], apart := false, narrowed := true }
def EndsBackUptoSaid : Prop := endsBackUptoRow.holds Try.pinned (OpenSpec.upto endsBackSpec)

end Rows
end Go.Proofs.Ytekhmdjpkngglaa
