/-
  DERIVED. GIVEN WITH THE SEED: THE CARDS: each row of YtpledhipdiephaaDoorRows.lean that lists a variable, with what it lists TIED to the program's text (the seventh form; the later family's looks); each row that meets fmt, with fmt's text TOLD by the authors' own Lean function (tested against real Go, not proved from fmt's source: count such statements apart). THE CARD IS WHAT COUNTS. Prove the row's statement (the work); the ties are given (YtpledhipdiephaaDoorTie.lean); close each card by the builder's one call (the guide's Derived/Test/ToyasCard.lean, 'card_holds'). Laid BY PROGRAM, IN A SANDBOX (cutbox-door.mjs). By AI agents, Wed Nov 11 2026. No macro, syntax, notation, axiom, sorry.
-/
import Derived.Test.YtpledhipdiephaaDoorRows
import GoSem.ClaimSeven
namespace Go.Proofs.YtpledhipdiephaaDoor
namespace Rows

/-- THE TIED CARD OF 'liglaw12.StoreOrder'. -/
def storeOrderCard : Claim7 := { stood := { row := storeOrderRow, standIns := [], harness := (true, "79839a7a8728693a8044a08b7c31d5b8720ac379a279b14926a2d4621c228370"), looks := false }, kinds := [], alts := [], laidByText := true, laidKinds := [.data, .data], laidTests := true, laidLooks := .later }
def StoreOrderCardSaid : Prop := Claim7.holds Tryd.pinned (.plain (OpenSpec.ofChange storeOrderSpec)) storeOrderCard

/-- THE TIED CARD OF 'liglaw12.StoreCopies'. -/
def storeCopiesCard : Claim7 := { stood := { row := storeCopiesRow, standIns := [], harness := (true, "79839a7a8728693a8044a08b7c31d5b8720ac379a279b14926a2d4621c228370"), looks := false }, kinds := [], alts := [], laidByText := true, laidKinds := [.data, .data], laidTests := true, laidLooks := .later }
def StoreCopiesCardSaid : Prop := Claim7.holds Tryd.pinned (.plain (OpenSpec.ofChange storeCopiesSpec)) storeCopiesCard

/-- THE TIED CARD OF 'liglaw12.StoreProves'. -/
def storeProvesCard : Claim7 := { stood := { row := storeProvesRow, standIns := [], harness := (true, "79839a7a8728693a8044a08b7c31d5b8720ac379a279b14926a2d4621c228370"), looks := false }, kinds := [], alts := [], laidByText := true, laidKinds := [.data, .data], laidTests := true, laidLooks := .later }
def StoreProvesCardSaid : Prop := Claim7.holds Tryd.pinned (.plain (OpenSpec.ofChange storeProvesSpec)) storeProvesCard

/-- THE TIED CARD OF 'liglaw12.StorePlays'. -/
def storePlaysCard : Claim7 := { stood := { row := storePlaysRow, standIns := [], harness := (true, "79839a7a8728693a8044a08b7c31d5b8720ac379a279b14926a2d4621c228370"), looks := false }, kinds := [], alts := [], laidByText := true, laidKinds := [.data, .data], laidTests := true, laidLooks := .later }
def StorePlaysCardSaid : Prop := Claim7.holds Tryd.pinned (.plain (OpenSpec.ofChange storePlaysSpec)) storePlaysCard

/-- THE TIED CARD OF 'liglaw13.PastPlays'. -/
def pastPlaysCard : Claim7 := { stood := { row := pastPlaysRow, standIns := [], harness := (true, "79839a7a8728693a8044a08b7c31d5b8720ac379a279b14926a2d4621c228370"), looks := false }, kinds := [], alts := [], laidByText := true, laidKinds := [.data, .data], laidTests := true, laidLooks := .later }
def PastPlaysCardSaid : Prop := Claim7.holds Tryd.pinned (.plain (OpenSpec.ofChange pastPlaysSpec)) pastPlaysCard

/-- THE TIED CARD OF 'liglaw13.PastStays'. -/
def pastStaysCard : Claim7 := { stood := { row := pastStaysRow, standIns := [], harness := (true, "79839a7a8728693a8044a08b7c31d5b8720ac379a279b14926a2d4621c228370"), looks := false }, kinds := [], alts := [], laidByText := true, laidKinds := [.data, .data], laidTests := true, laidLooks := .later }
def PastStaysCardSaid : Prop := Claim7.holds Tryd.pinned (.plain (OpenSpec.ofChange pastStaysSpec)) pastStaysCard

/-- THE TIED CARD OF 'liglaw13.PastProves'. -/
def pastProvesCard : Claim7 := { stood := { row := pastProvesRow, standIns := [], harness := (true, "79839a7a8728693a8044a08b7c31d5b8720ac379a279b14926a2d4621c228370"), looks := false }, kinds := [], alts := [], laidByText := true, laidKinds := [.data, .data], laidTests := true, laidLooks := .later }
def PastProvesCardSaid : Prop := Claim7.holds Tryd.pinned (.plain (OpenSpec.ofChange pastProvesSpec)) pastProvesCard

/-- THE SECOND FORM's CARD OF 'liglaw12.StoreOrder'. -/
def storeOrderUptoCard : Claim7 := { stood := { row := storeOrderUptoRow, standIns := [], harness := (true, "79839a7a8728693a8044a08b7c31d5b8720ac379a279b14926a2d4621c228370"), looks := false }, kinds := [], alts := [], laidByText := true, laidKinds := [.data, .data], laidTests := true, laidLooks := .later }
def StoreOrderUptoCardSaid : Prop := Claim7.holds Tryd.pinned (.plain (OpenSpec.upto storeOrderSpec)) storeOrderUptoCard

/-- THE SECOND FORM's CARD OF 'liglaw12.StoreCopies'. -/
def storeCopiesUptoCard : Claim7 := { stood := { row := storeCopiesUptoRow, standIns := [], harness := (true, "79839a7a8728693a8044a08b7c31d5b8720ac379a279b14926a2d4621c228370"), looks := false }, kinds := [], alts := [], laidByText := true, laidKinds := [.data, .data], laidTests := true, laidLooks := .later }
def StoreCopiesUptoCardSaid : Prop := Claim7.holds Tryd.pinned (.plain (OpenSpec.upto storeCopiesSpec)) storeCopiesUptoCard

/-- THE SECOND FORM's CARD OF 'liglaw12.StoreProves'. -/
def storeProvesUptoCard : Claim7 := { stood := { row := storeProvesUptoRow, standIns := [], harness := (true, "79839a7a8728693a8044a08b7c31d5b8720ac379a279b14926a2d4621c228370"), looks := false }, kinds := [], alts := [], laidByText := true, laidKinds := [.data, .data], laidTests := true, laidLooks := .later }
def StoreProvesUptoCardSaid : Prop := Claim7.holds Tryd.pinned (.plain (OpenSpec.upto storeProvesSpec)) storeProvesUptoCard

/-- THE SECOND FORM's CARD OF 'liglaw12.StorePlays'. -/
def storePlaysUptoCard : Claim7 := { stood := { row := storePlaysUptoRow, standIns := [], harness := (true, "79839a7a8728693a8044a08b7c31d5b8720ac379a279b14926a2d4621c228370"), looks := false }, kinds := [], alts := [], laidByText := true, laidKinds := [.data, .data], laidTests := true, laidLooks := .later }
def StorePlaysUptoCardSaid : Prop := Claim7.holds Tryd.pinned (.plain (OpenSpec.upto storePlaysSpec)) storePlaysUptoCard

/-- THE SECOND FORM's CARD OF 'liglaw13.PastPlays'. -/
def pastPlaysUptoCard : Claim7 := { stood := { row := pastPlaysUptoRow, standIns := [], harness := (true, "79839a7a8728693a8044a08b7c31d5b8720ac379a279b14926a2d4621c228370"), looks := false }, kinds := [], alts := [], laidByText := true, laidKinds := [.data, .data], laidTests := true, laidLooks := .later }
def PastPlaysUptoCardSaid : Prop := Claim7.holds Tryd.pinned (.plain (OpenSpec.upto pastPlaysSpec)) pastPlaysUptoCard

/-- THE SECOND FORM's CARD OF 'liglaw13.PastStays'. -/
def pastStaysUptoCard : Claim7 := { stood := { row := pastStaysUptoRow, standIns := [], harness := (true, "79839a7a8728693a8044a08b7c31d5b8720ac379a279b14926a2d4621c228370"), looks := false }, kinds := [], alts := [], laidByText := true, laidKinds := [.data, .data], laidTests := true, laidLooks := .later }
def PastStaysUptoCardSaid : Prop := Claim7.holds Tryd.pinned (.plain (OpenSpec.upto pastStaysSpec)) pastStaysUptoCard

/-- THE SECOND FORM's CARD OF 'liglaw13.PastProves'. -/
def pastProvesUptoCard : Claim7 := { stood := { row := pastProvesUptoRow, standIns := [], harness := (true, "79839a7a8728693a8044a08b7c31d5b8720ac379a279b14926a2d4621c228370"), looks := false }, kinds := [], alts := [], laidByText := true, laidKinds := [.data, .data], laidTests := true, laidLooks := .later }
def PastProvesUptoCardSaid : Prop := Claim7.holds Tryd.pinned (.plain (OpenSpec.upto pastProvesSpec)) pastProvesUptoCard
end Rows
end Go.Proofs.YtpledhipdiephaaDoor
