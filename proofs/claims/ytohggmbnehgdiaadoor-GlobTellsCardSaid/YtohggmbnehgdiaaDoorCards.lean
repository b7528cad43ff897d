/-
  DERIVED. GIVEN WITH THE SEED: THE CARDS: each row of YtohggmbnehgdiaaDoorRows.lean that lists a variable, with what it lists TIED to the program's text (the seventh form; the later family's looks); each row that meets fmt, with fmt's text TOLD by the authors' own Lean function (tested against real Go, not proved from fmt's source: count such statements apart). THE CARD IS WHAT COUNTS. Prove the row's statement (the work); the ties are given (YtohggmbnehgdiaaDoorTie.lean); close each card by the builder's one call (the guide's Derived/Test/ToyasCard.lean, 'card_holds'). Laid BY PROGRAM, IN A SANDBOX (cutbox-door.mjs). By AI agents, Wed Nov 11 2026. No macro, syntax, notation, axiom, sorry.
-/
import Derived.Test.YtohggmbnehgdiaaDoorRows
import GoSem.ClaimSeven
namespace Go.Proofs.YtohggmbnehgdiaaDoor
namespace Rows

/-- THE TIED CARD OF 'liglaw20.GlobTells'. -/
def globTellsCard : Claim7 := { stood := { row := globTellsRow, standIns := [], harness := (true, "cc82bd706e56e4e5a4ddac5682b46c04602404d7962791a2d939b813220ec7d4"), looks := false }, kinds := [], alts := [], laidByText := true, laidKinds := [.data, .pinned], laidTests := true, laidLooks := .later }
def GlobTellsCardSaid : Prop := Claim7.holds Tryd.pinned (.plain (OpenSpec.ofChange globTellsSpec)) globTellsCard

/-- THE TIED CARD OF 'liglaw20.GlobStars'. -/
def globStarsCard : Claim7 := { stood := { row := globStarsRow, standIns := [], harness := (true, "cc82bd706e56e4e5a4ddac5682b46c04602404d7962791a2d939b813220ec7d4"), looks := false }, kinds := [], alts := [], laidByText := true, laidKinds := [.data, .pinned], laidTests := true, laidLooks := .later }
def GlobStarsCardSaid : Prop := Claim7.holds Tryd.pinned (.plain (OpenSpec.ofChange globStarsSpec)) globStarsCard

/-- THE TIED CARD OF 'liglaw20.GlobPlain'. -/
def globPlainCard : Claim7 := { stood := { row := globPlainRow, standIns := [], harness := (true, "cc82bd706e56e4e5a4ddac5682b46c04602404d7962791a2d939b813220ec7d4"), looks := false }, kinds := [], alts := [], laidByText := true, laidKinds := [.data, .pinned], laidTests := true, laidLooks := .later }
def GlobPlainCardSaid : Prop := Claim7.holds Tryd.pinned (.plain (OpenSpec.ofChange globPlainSpec)) globPlainCard

/-- THE TIED CARD OF 'liglaw20.GlobParts'. -/
def globPartsCard : Claim7 := { stood := { row := globPartsRow, standIns := [], harness := (true, "cc82bd706e56e4e5a4ddac5682b46c04602404d7962791a2d939b813220ec7d4"), looks := false }, kinds := [], alts := [], laidByText := true, laidKinds := [.data, .pinned], laidTests := true, laidLooks := .later }
def GlobPartsCardSaid : Prop := Claim7.holds Tryd.pinned (.plain (OpenSpec.ofChange globPartsSpec)) globPartsCard

/-- THE SECOND FORM's CARD OF 'liglaw20.GlobTells'. -/
def globTellsUptoCard : Claim7 := { stood := { row := globTellsUptoRow, standIns := [], harness := (true, "cc82bd706e56e4e5a4ddac5682b46c04602404d7962791a2d939b813220ec7d4"), looks := false }, kinds := [], alts := [], laidByText := true, laidKinds := [.data, .pinned], laidTests := true, laidLooks := .later }
def GlobTellsUptoCardSaid : Prop := Claim7.holds Tryd.pinned (.plain (OpenSpec.upto globTellsSpec)) globTellsUptoCard

/-- THE SECOND FORM's CARD OF 'liglaw20.GlobStars'. -/
def globStarsUptoCard : Claim7 := { stood := { row := globStarsUptoRow, standIns := [], harness := (true, "cc82bd706e56e4e5a4ddac5682b46c04602404d7962791a2d939b813220ec7d4"), looks := false }, kinds := [], alts := [], laidByText := true, laidKinds := [.data, .pinned], laidTests := true, laidLooks := .later }
def GlobStarsUptoCardSaid : Prop := Claim7.holds Tryd.pinned (.plain (OpenSpec.upto globStarsSpec)) globStarsUptoCard

/-- THE SECOND FORM's CARD OF 'liglaw20.GlobPlain'. -/
def globPlainUptoCard : Claim7 := { stood := { row := globPlainUptoRow, standIns := [], harness := (true, "cc82bd706e56e4e5a4ddac5682b46c04602404d7962791a2d939b813220ec7d4"), looks := false }, kinds := [], alts := [], laidByText := true, laidKinds := [.data, .pinned], laidTests := true, laidLooks := .later }
def GlobPlainUptoCardSaid : Prop := Claim7.holds Tryd.pinned (.plain (OpenSpec.upto globPlainSpec)) globPlainUptoCard

/-- THE SECOND FORM's CARD OF 'liglaw20.GlobParts'. -/
def globPartsUptoCard : Claim7 := { stood := { row := globPartsUptoRow, standIns := [], harness := (true, "cc82bd706e56e4e5a4ddac5682b46c04602404d7962791a2d939b813220ec7d4"), looks := false }, kinds := [], alts := [], laidByText := true, laidKinds := [.data, .pinned], laidTests := true, laidLooks := .later }
def GlobPartsUptoCardSaid : Prop := Claim7.holds Tryd.pinned (.plain (OpenSpec.upto globPartsSpec)) globPartsUptoCard
end Rows
end Go.Proofs.YtohggmbnehgdiaaDoor
