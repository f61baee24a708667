/-
  DERIVED. GIVEN WITH THE SEED: THE CARDS: each row of YtcadlpmopplkeaaDoorRows.lean that lists a variable, with what it lists TIED to the program's text (the seventh form; the later family's looks); each row that meets fmt, with fmt's text TOLD by the authors' own Lean function (tested against real Go, not proved from fmt's source: count such statements apart). THE CARD IS WHAT COUNTS. Prove the row's statement (the work); the ties are given (YtcadlpmopplkeaaDoorTie.lean); close each card by the builder's one call (the guide's Derived/Test/ToyasCard.lean, 'card_holds'). Laid BY PROGRAM, IN A SANDBOX (cutbox-door.mjs). By AI agents, Wed Nov 11 2026. No macro, syntax, notation, axiom, sorry.
-/
import Derived.Test.YtcadlpmopplkeaaDoorRows
import GoSem.ClaimSeven
namespace Go.Proofs.YtcadlpmopplkeaaDoor
namespace Rows

/-- THE TIED CARD OF 'heraldlaw17.SiteChooses'. -/
def siteChoosesCard : Claim7 := { stood := { row := siteChoosesRow, standIns := [], harness := (true, "66e38534012bd2ad3b7824c4ceefbd555c875668a0ba78269c4eabacb34a8947"), looks := false }, kinds := [], alts := [], laidByText := true, laidKinds := [.data, .data, .data, .data, .pinned], laidTests := true, laidLooks := .later }
def SiteChoosesCardSaid : Prop := Claim7.holds Tryd.pinned (.plain (OpenSpec.ofChange siteChoosesSpec)) siteChoosesCard

/-- THE TIED CARD OF 'heraldlaw17.SiteFull'. -/
def siteFullCard : Claim7 := { stood := { row := siteFullRow, standIns := [], harness := (true, "66e38534012bd2ad3b7824c4ceefbd555c875668a0ba78269c4eabacb34a8947"), looks := false }, kinds := [], alts := [], laidByText := true, laidKinds := [.data, .data, .data, .data, .pinned], laidTests := true, laidLooks := .later }
def SiteFullCardSaid : Prop := Claim7.holds Tryd.pinned (.plain (OpenSpec.ofChange siteFullSpec)) siteFullCard

/-- THE TIED CARD OF 'heraldlaw17.SiteVersions'. -/
def siteVersionsCard : Claim7 := { stood := { row := siteVersionsRow, standIns := [], harness := (true, "66e38534012bd2ad3b7824c4ceefbd555c875668a0ba78269c4eabacb34a8947"), looks := false }, kinds := [], alts := [], laidByText := true, laidKinds := [.data, .data, .data, .data, .pinned], laidTests := true, laidLooks := .later }
def SiteVersionsCardSaid : Prop := Claim7.holds Tryd.pinned (.plain (OpenSpec.ofChange siteVersionsSpec)) siteVersionsCard

/-- THE TIED CARD OF 'heraldlaw17.SitePlays'. -/
def sitePlaysCard : Claim7 := { stood := { row := sitePlaysRow, standIns := [], harness := (true, "66e38534012bd2ad3b7824c4ceefbd555c875668a0ba78269c4eabacb34a8947"), looks := false }, kinds := [], alts := [], laidByText := true, laidKinds := [.data, .data, .data, .data, .pinned], laidTests := true, laidLooks := .later }
def SitePlaysCardSaid : Prop := Claim7.holds Tryd.pinned (.plain (OpenSpec.ofChange sitePlaysSpec)) sitePlaysCard

/-- THE TIED CARD OF 'heraldlaw17.SiteHangs'. -/
def siteHangsCard : Claim7 := { stood := { row := siteHangsRow, standIns := [], harness := (true, "66e38534012bd2ad3b7824c4ceefbd555c875668a0ba78269c4eabacb34a8947"), looks := false }, kinds := [], alts := [], laidByText := true, laidKinds := [.data, .data, .data, .data, .pinned], laidTests := true, laidLooks := .later }
def SiteHangsCardSaid : Prop := Claim7.holds Tryd.pinned (.plain (OpenSpec.ofChange siteHangsSpec)) siteHangsCard

/-- THE SECOND FORM's CARD OF 'heraldlaw17.SiteChooses'. -/
def siteChoosesUptoCard : Claim7 := { stood := { row := siteChoosesUptoRow, standIns := [], harness := (true, "66e38534012bd2ad3b7824c4ceefbd555c875668a0ba78269c4eabacb34a8947"), looks := false }, kinds := [], alts := [], laidByText := true, laidKinds := [.data, .data, .data, .data, .pinned], laidTests := true, laidLooks := .later }
def SiteChoosesUptoCardSaid : Prop := Claim7.holds Tryd.pinned (.plain (OpenSpec.upto siteChoosesSpec)) siteChoosesUptoCard

/-- THE SECOND FORM's CARD OF 'heraldlaw17.SiteFull'. -/
def siteFullUptoCard : Claim7 := { stood := { row := siteFullUptoRow, standIns := [], harness := (true, "66e38534012bd2ad3b7824c4ceefbd555c875668a0ba78269c4eabacb34a8947"), looks := false }, kinds := [], alts := [], laidByText := true, laidKinds := [.data, .data, .data, .data, .pinned], laidTests := true, laidLooks := .later }
def SiteFullUptoCardSaid : Prop := Claim7.holds Tryd.pinned (.plain (OpenSpec.upto siteFullSpec)) siteFullUptoCard

/-- THE SECOND FORM's CARD OF 'heraldlaw17.SiteVersions'. -/
def siteVersionsUptoCard : Claim7 := { stood := { row := siteVersionsUptoRow, standIns := [], harness := (true, "66e38534012bd2ad3b7824c4ceefbd555c875668a0ba78269c4eabacb34a8947"), looks := false }, kinds := [], alts := [], laidByText := true, laidKinds := [.data, .data, .data, .data, .pinned], laidTests := true, laidLooks := .later }
def SiteVersionsUptoCardSaid : Prop := Claim7.holds Tryd.pinned (.plain (OpenSpec.upto siteVersionsSpec)) siteVersionsUptoCard

/-- THE SECOND FORM's CARD OF 'heraldlaw17.SitePlays'. -/
def sitePlaysUptoCard : Claim7 := { stood := { row := sitePlaysUptoRow, standIns := [], harness := (true, "66e38534012bd2ad3b7824c4ceefbd555c875668a0ba78269c4eabacb34a8947"), looks := false }, kinds := [], alts := [], laidByText := true, laidKinds := [.data, .data, .data, .data, .pinned], laidTests := true, laidLooks := .later }
def SitePlaysUptoCardSaid : Prop := Claim7.holds Tryd.pinned (.plain (OpenSpec.upto sitePlaysSpec)) sitePlaysUptoCard

/-- THE SECOND FORM's CARD OF 'heraldlaw17.SiteHangs'. -/
def siteHangsUptoCard : Claim7 := { stood := { row := siteHangsUptoRow, standIns := [], harness := (true, "66e38534012bd2ad3b7824c4ceefbd555c875668a0ba78269c4eabacb34a8947"), looks := false }, kinds := [], alts := [], laidByText := true, laidKinds := [.data, .data, .data, .data, .pinned], laidTests := true, laidLooks := .later }
def SiteHangsUptoCardSaid : Prop := Claim7.holds Tryd.pinned (.plain (OpenSpec.upto siteHangsSpec)) siteHangsUptoCard
end Rows
end Go.Proofs.YtcadlpmopplkeaaDoor
