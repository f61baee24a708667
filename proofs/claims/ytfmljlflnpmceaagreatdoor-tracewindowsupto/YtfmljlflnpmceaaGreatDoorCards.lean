/-
  DERIVED. GIVEN WITH THE SEED: THE CARDS: each row of YtfmljlflnpmceaaGreatDoorRows.lean that lists a variable, with what it lists TIED to the program's text (the seventh form; the later family's looks); each row that meets fmt, with fmt's text TOLD by the authors' own Lean function (tested against real Go, not proved from fmt's source: count such statements apart). THE CARD IS WHAT COUNTS. Prove the row's statement (the work); the ties are given (YtfmljlflnpmceaaGreatDoorTie.lean); close each card by the builder's one call (the guide's Derived/Test/ToyasCard.lean, 'card_holds'). Laid BY PROGRAM, IN A SANDBOX (cutbox-door.mjs). By AI agents, Wed Nov 11 2026. No macro, syntax, notation, axiom, sorry.
-/
import Derived.Test.YtfmljlflnpmceaaGreatDoorRows
import GoSem.ClaimSeven
namespace Go.Proofs.YtfmljlflnpmceaaGreatDoor
namespace Rows

/-- THE TIED CARD OF 'heraldlaw24.TraceFront'. -/
def traceFrontCard : Claim7 := { stood := { row := traceFrontRow, standIns := [], harness := (true, "0d39a91f346582337b899867ae7ae3e20fe3dc8984d3e3aed5ffba06f6a1612c"), looks := false }, kinds := [], alts := [], laidByText := true, laidKinds := [.data, .data], laidTests := true, laidLooks := .later }
def TraceFrontCardSaid : Prop := Claim7.holds Tryz.pinned (.plain (OpenSpec.ofChange traceFrontSpec)) traceFrontCard

/-- THE TIED CARD OF 'heraldlaw24.TraceTurned'. -/
def traceTurnedCard : Claim7 := { stood := { row := traceTurnedRow, standIns := [], harness := (true, "0d39a91f346582337b899867ae7ae3e20fe3dc8984d3e3aed5ffba06f6a1612c"), looks := false }, kinds := [], alts := [], laidByText := true, laidKinds := [.data, .data], laidTests := true, laidLooks := .later }
def TraceTurnedCardSaid : Prop := Claim7.holds Tryz.pinned (.plain (OpenSpec.ofChange traceTurnedSpec)) traceTurnedCard

/-- THE TIED CARD OF 'heraldlaw24.TraceRight'. -/
def traceRightCard : Claim7 := { stood := { row := traceRightRow, standIns := [], harness := (true, "0d39a91f346582337b899867ae7ae3e20fe3dc8984d3e3aed5ffba06f6a1612c"), looks := false }, kinds := [], alts := [], laidByText := true, laidKinds := [.data, .data], laidTests := true, laidLooks := .later }
def TraceRightCardSaid : Prop := Claim7.holds Tryz.pinned (.plain (OpenSpec.ofChange traceRightSpec)) traceRightCard

/-- THE TIED CARD OF 'heraldlaw24.TraceWindows'. -/
def traceWindowsCard : Claim7 := { stood := { row := traceWindowsRow, standIns := [], harness := (true, "0d39a91f346582337b899867ae7ae3e20fe3dc8984d3e3aed5ffba06f6a1612c"), looks := false }, kinds := [], alts := [], laidByText := true, laidKinds := [.data, .data], laidTests := true, laidLooks := .later }
def TraceWindowsCardSaid : Prop := Claim7.holds Tryz.pinned (.plain (OpenSpec.ofChange traceWindowsSpec)) traceWindowsCard

/-- THE TIED CARD OF 'heraldlaw24.TraceHonest'. -/
def traceHonestCard : Claim7 := { stood := { row := traceHonestRow, standIns := [], harness := (true, "0d39a91f346582337b899867ae7ae3e20fe3dc8984d3e3aed5ffba06f6a1612c"), looks := false }, kinds := [], alts := [], laidByText := true, laidKinds := [.data, .data], laidTests := true, laidLooks := .later }
def TraceHonestCardSaid : Prop := Claim7.holds Tryz.pinned (.plain (OpenSpec.ofChange traceHonestSpec)) traceHonestCard

/-- THE TIED CARD OF 'heraldlaw24.TraceSpoilt'. -/
def traceSpoiltCard : Claim7 := { stood := { row := traceSpoiltRow, standIns := [], harness := (true, "0d39a91f346582337b899867ae7ae3e20fe3dc8984d3e3aed5ffba06f6a1612c"), looks := false }, kinds := [], alts := [], laidByText := true, laidKinds := [.data, .data], laidTests := true, laidLooks := .later }
def TraceSpoiltCardSaid : Prop := Claim7.holds Tryz.pinned (.plain (OpenSpec.ofChange traceSpoiltSpec)) traceSpoiltCard

/-- THE SECOND FORM's CARD OF 'heraldlaw24.TraceFront'. -/
def traceFrontUptoCard : Claim7 := { stood := { row := traceFrontUptoRow, standIns := [], harness := (true, "0d39a91f346582337b899867ae7ae3e20fe3dc8984d3e3aed5ffba06f6a1612c"), looks := false }, kinds := [], alts := [], laidByText := true, laidKinds := [.data, .data], laidTests := true, laidLooks := .later }
def TraceFrontUptoCardSaid : Prop := Claim7.holds Tryz.pinned (.plain (OpenSpec.upto traceFrontSpec)) traceFrontUptoCard

/-- THE SECOND FORM's CARD OF 'heraldlaw24.TraceTurned'. -/
def traceTurnedUptoCard : Claim7 := { stood := { row := traceTurnedUptoRow, standIns := [], harness := (true, "0d39a91f346582337b899867ae7ae3e20fe3dc8984d3e3aed5ffba06f6a1612c"), looks := false }, kinds := [], alts := [], laidByText := true, laidKinds := [.data, .data], laidTests := true, laidLooks := .later }
def TraceTurnedUptoCardSaid : Prop := Claim7.holds Tryz.pinned (.plain (OpenSpec.upto traceTurnedSpec)) traceTurnedUptoCard

/-- THE SECOND FORM's CARD OF 'heraldlaw24.TraceRight'. -/
def traceRightUptoCard : Claim7 := { stood := { row := traceRightUptoRow, standIns := [], harness := (true, "0d39a91f346582337b899867ae7ae3e20fe3dc8984d3e3aed5ffba06f6a1612c"), looks := false }, kinds := [], alts := [], laidByText := true, laidKinds := [.data, .data], laidTests := true, laidLooks := .later }
def TraceRightUptoCardSaid : Prop := Claim7.holds Tryz.pinned (.plain (OpenSpec.upto traceRightSpec)) traceRightUptoCard

/-- THE SECOND FORM's CARD OF 'heraldlaw24.TraceWindows'. -/
def traceWindowsUptoCard : Claim7 := { stood := { row := traceWindowsUptoRow, standIns := [], harness := (true, "0d39a91f346582337b899867ae7ae3e20fe3dc8984d3e3aed5ffba06f6a1612c"), looks := false }, kinds := [], alts := [], laidByText := true, laidKinds := [.data, .data], laidTests := true, laidLooks := .later }
def TraceWindowsUptoCardSaid : Prop := Claim7.holds Tryz.pinned (.plain (OpenSpec.upto traceWindowsSpec)) traceWindowsUptoCard

/-- THE SECOND FORM's CARD OF 'heraldlaw24.TraceHonest'. -/
def traceHonestUptoCard : Claim7 := { stood := { row := traceHonestUptoRow, standIns := [], harness := (true, "0d39a91f346582337b899867ae7ae3e20fe3dc8984d3e3aed5ffba06f6a1612c"), looks := false }, kinds := [], alts := [], laidByText := true, laidKinds := [.data, .data], laidTests := true, laidLooks := .later }
def TraceHonestUptoCardSaid : Prop := Claim7.holds Tryz.pinned (.plain (OpenSpec.upto traceHonestSpec)) traceHonestUptoCard

/-- THE SECOND FORM's CARD OF 'heraldlaw24.TraceSpoilt'. -/
def traceSpoiltUptoCard : Claim7 := { stood := { row := traceSpoiltUptoRow, standIns := [], harness := (true, "0d39a91f346582337b899867ae7ae3e20fe3dc8984d3e3aed5ffba06f6a1612c"), looks := false }, kinds := [], alts := [], laidByText := true, laidKinds := [.data, .data], laidTests := true, laidLooks := .later }
def TraceSpoiltUptoCardSaid : Prop := Claim7.holds Tryz.pinned (.plain (OpenSpec.upto traceSpoiltSpec)) traceSpoiltUptoCard
end Rows
end Go.Proofs.YtfmljlflnpmceaaGreatDoor
