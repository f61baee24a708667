/-
  DERIVED. GIVEN WITH THE SEED: THE CARDS: each row of YtfponcdhaefkdaaDoorRows.lean that lists a variable, with what it lists TIED to the program's text (the seventh form; the later family's looks); each row that meets fmt, with fmt's text TOLD by the authors' own Lean function (tested against real Go, not proved from fmt's source: count such statements apart). THE CARD IS WHAT COUNTS. Prove the row's statement (the work); the ties are given (YtfponcdhaefkdaaDoorTie.lean); close each card by the builder's one call (the guide's Derived/Test/ToyasCard.lean, 'card_holds'). Laid BY PROGRAM, IN A SANDBOX (cutbox-door.mjs). By AI agents, Wed Nov 11 2026. No macro, syntax, notation, axiom, sorry.
-/
import Derived.Test.YtfponcdhaefkdaaDoorRows
import GoSem.ClaimSeven
namespace Go.Proofs.YtfponcdhaefkdaaDoor
namespace Rows

/-- THE TIED CARD OF 'heraldlaw19.CacheEnds'. -/
def cacheEndsCard : Claim7 := { stood := { row := cacheEndsRow, standIns := [], harness := (true, "63b09e2953446fecf7f487aefd451ef0b00239836983d05ddc2af81512fcf106"), looks := false }, kinds := [], alts := [], laidByText := true, laidKinds := [.data, .pinned], laidTests := true, laidLooks := .later }
def CacheEndsCardSaid : Prop := Claim7.holds Tryd.pinned (.plain (OpenSpec.ofChange cacheEndsSpec)) cacheEndsCard

/-- THE TIED CARD OF 'heraldlaw19.CacheApart'. -/
def cacheApartCard : Claim7 := { stood := { row := cacheApartRow, standIns := [], harness := (true, "63b09e2953446fecf7f487aefd451ef0b00239836983d05ddc2af81512fcf106"), looks := false }, kinds := [], alts := [], laidByText := true, laidKinds := [.data, .data, .pinned], laidTests := true, laidLooks := .later }
def CacheApartCardSaid : Prop := Claim7.holds Tryd.pinned (.plain (OpenSpec.ofChange cacheApartSpec)) cacheApartCard

/-- THE TIED CARD OF 'heraldlaw19.CacheKeeps'. -/
def cacheKeepsCard : Claim7 := { stood := { row := cacheKeepsRow, standIns := [], harness := (true, "63b09e2953446fecf7f487aefd451ef0b00239836983d05ddc2af81512fcf106"), looks := false }, kinds := [], alts := [], laidByText := true, laidKinds := [.data, .pinned], laidTests := true, laidLooks := .later }
def CacheKeepsCardSaid : Prop := Claim7.holds Tryd.pinned (.plain (OpenSpec.ofChange cacheKeepsSpec)) cacheKeepsCard

/-- THE TIED CARD OF 'heraldlaw19.CachePlays'. -/
def cachePlaysCard : Claim7 := { stood := { row := cachePlaysRow, standIns := [], harness := (true, "63b09e2953446fecf7f487aefd451ef0b00239836983d05ddc2af81512fcf106"), looks := false }, kinds := [], alts := [], laidByText := true, laidKinds := [.data, .data, .pinned], laidTests := true, laidLooks := .later }
def CachePlaysCardSaid : Prop := Claim7.holds Tryd.pinned (.plain (OpenSpec.ofChange cachePlaysSpec)) cachePlaysCard

/-- THE SECOND FORM's CARD OF 'heraldlaw19.CacheEnds'. -/
def cacheEndsUptoCard : Claim7 := { stood := { row := cacheEndsUptoRow, standIns := [], harness := (true, "63b09e2953446fecf7f487aefd451ef0b00239836983d05ddc2af81512fcf106"), looks := false }, kinds := [], alts := [], laidByText := true, laidKinds := [.data, .pinned], laidTests := true, laidLooks := .later }
def CacheEndsUptoCardSaid : Prop := Claim7.holds Tryd.pinned (.plain (OpenSpec.upto cacheEndsSpec)) cacheEndsUptoCard

/-- THE SECOND FORM's CARD OF 'heraldlaw19.CacheApart'. -/
def cacheApartUptoCard : Claim7 := { stood := { row := cacheApartUptoRow, standIns := [], harness := (true, "63b09e2953446fecf7f487aefd451ef0b00239836983d05ddc2af81512fcf106"), looks := false }, kinds := [], alts := [], laidByText := true, laidKinds := [.data, .data, .pinned], laidTests := true, laidLooks := .later }
def CacheApartUptoCardSaid : Prop := Claim7.holds Tryd.pinned (.plain (OpenSpec.upto cacheApartSpec)) cacheApartUptoCard

/-- THE SECOND FORM's CARD OF 'heraldlaw19.CacheKeeps'. -/
def cacheKeepsUptoCard : Claim7 := { stood := { row := cacheKeepsUptoRow, standIns := [], harness := (true, "63b09e2953446fecf7f487aefd451ef0b00239836983d05ddc2af81512fcf106"), looks := false }, kinds := [], alts := [], laidByText := true, laidKinds := [.data, .pinned], laidTests := true, laidLooks := .later }
def CacheKeepsUptoCardSaid : Prop := Claim7.holds Tryd.pinned (.plain (OpenSpec.upto cacheKeepsSpec)) cacheKeepsUptoCard

/-- THE SECOND FORM's CARD OF 'heraldlaw19.CachePlays'. -/
def cachePlaysUptoCard : Claim7 := { stood := { row := cachePlaysUptoRow, standIns := [], harness := (true, "63b09e2953446fecf7f487aefd451ef0b00239836983d05ddc2af81512fcf106"), looks := false }, kinds := [], alts := [], laidByText := true, laidKinds := [.data, .data, .pinned], laidTests := true, laidLooks := .later }
def CachePlaysUptoCardSaid : Prop := Claim7.holds Tryd.pinned (.plain (OpenSpec.upto cachePlaysSpec)) cachePlaysUptoCard
end Rows
end Go.Proofs.YtfponcdhaefkdaaDoor
