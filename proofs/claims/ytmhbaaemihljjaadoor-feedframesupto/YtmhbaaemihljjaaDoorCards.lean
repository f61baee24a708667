/-
  DERIVED. GIVEN WITH THE SEED: THE CARDS: each row of YtmhbaaemihljjaaDoorRows.lean that lists a variable, with what it lists TIED to the program's text (the seventh form; the later family's looks); each row that meets fmt, with fmt's text TOLD by the authors' own Lean function (tested against real Go, not proved from fmt's source: count such statements apart). THE CARD IS WHAT COUNTS. Prove the row's statement (the work); the ties are given (YtmhbaaemihljjaaDoorTie.lean); close each card by the builder's one call (the guide's Derived/Test/ToyasCard.lean, 'card_holds'). Laid BY PROGRAM, IN A SANDBOX (cutbox-door.mjs). By AI agents, Wed Nov 11 2026. No macro, syntax, notation, axiom, sorry.
-/
import Derived.Test.YtmhbaaemihljjaaDoorRows
import GoSem.ClaimSeven
namespace Go.Proofs.YtmhbaaemihljjaaDoor
namespace Rows

/-- THE TIED CARD OF 'heraldlaw07.FeedPreface'. -/
def feedPrefaceCard : Claim7 := { stood := { row := feedPrefaceRow, standIns := [], harness := (true, "b44a50a75b3cf067cd191a6dd1a5ec6495160f4e6c0995559fc87f06e4f24358"), looks := false }, kinds := [], alts := [], laidByText := true, laidKinds := [.data], laidTests := true, laidLooks := .later }
def FeedPrefaceCardSaid : Prop := Claim7.holds Tryd.pinned (.plain (OpenSpec.ofChange feedPrefaceSpec)) feedPrefaceCard

/-- THE TIED CARD OF 'heraldlaw07.FeedBroken'. -/
def feedBrokenCard : Claim7 := { stood := { row := feedBrokenRow, standIns := [], harness := (true, "b44a50a75b3cf067cd191a6dd1a5ec6495160f4e6c0995559fc87f06e4f24358"), looks := false }, kinds := [], alts := [], laidByText := true, laidKinds := [.data], laidTests := true, laidLooks := .later }
def FeedBrokenCardSaid : Prop := Claim7.holds Tryd.pinned (.plain (OpenSpec.ofChange feedBrokenSpec)) feedBrokenCard

/-- THE TIED CARD OF 'heraldlaw07.FeedChunks'. -/
def feedChunksCard : Claim7 := { stood := { row := feedChunksRow, standIns := [], harness := (true, "b44a50a75b3cf067cd191a6dd1a5ec6495160f4e6c0995559fc87f06e4f24358"), looks := false }, kinds := [], alts := [], laidByText := true, laidKinds := [.data], laidTests := true, laidLooks := .later }
def FeedChunksCardSaid : Prop := Claim7.holds Tryd.pinned (.plain (OpenSpec.ofChange feedChunksSpec)) feedChunksCard

/-- THE TIED CARD OF 'heraldlaw07.FeedApart'. -/
def feedApartCard : Claim7 := { stood := { row := feedApartRow, standIns := [], harness := (true, "b44a50a75b3cf067cd191a6dd1a5ec6495160f4e6c0995559fc87f06e4f24358"), looks := false }, kinds := [], alts := [], laidByText := true, laidKinds := [.data], laidTests := true, laidLooks := .later }
def FeedApartCardSaid : Prop := Claim7.holds Tryd.pinned (.plain (OpenSpec.ofChange feedApartSpec)) feedApartCard

/-- THE TIED CARD OF 'heraldlaw07.FeedFrames'. -/
def feedFramesCard : Claim7 := { stood := { row := feedFramesRow, standIns := [], harness := (true, "b44a50a75b3cf067cd191a6dd1a5ec6495160f4e6c0995559fc87f06e4f24358"), looks := false }, kinds := [], alts := [], laidByText := true, laidKinds := [.data], laidTests := true, laidLooks := .later }
def FeedFramesCardSaid : Prop := Claim7.holds Tryd.pinned (.plain (OpenSpec.ofChange feedFramesSpec)) feedFramesCard

/-- THE TIED CARD OF 'heraldlaw07.FeedPlays'. -/
def feedPlaysCard : Claim7 := { stood := { row := feedPlaysRow, standIns := [], harness := (true, "b44a50a75b3cf067cd191a6dd1a5ec6495160f4e6c0995559fc87f06e4f24358"), looks := false }, kinds := [], alts := [], laidByText := true, laidKinds := [.data], laidTests := true, laidLooks := .later }
def FeedPlaysCardSaid : Prop := Claim7.holds Tryd.pinned (.plain (OpenSpec.ofChange feedPlaysSpec)) feedPlaysCard

/-- THE SECOND FORM's CARD OF 'heraldlaw07.FeedPreface'. -/
def feedPrefaceUptoCard : Claim7 := { stood := { row := feedPrefaceUptoRow, standIns := [], harness := (true, "b44a50a75b3cf067cd191a6dd1a5ec6495160f4e6c0995559fc87f06e4f24358"), looks := false }, kinds := [], alts := [], laidByText := true, laidKinds := [.data], laidTests := true, laidLooks := .later }
def FeedPrefaceUptoCardSaid : Prop := Claim7.holds Tryd.pinned (.plain (OpenSpec.upto feedPrefaceSpec)) feedPrefaceUptoCard

/-- THE SECOND FORM's CARD OF 'heraldlaw07.FeedBroken'. -/
def feedBrokenUptoCard : Claim7 := { stood := { row := feedBrokenUptoRow, standIns := [], harness := (true, "b44a50a75b3cf067cd191a6dd1a5ec6495160f4e6c0995559fc87f06e4f24358"), looks := false }, kinds := [], alts := [], laidByText := true, laidKinds := [.data], laidTests := true, laidLooks := .later }
def FeedBrokenUptoCardSaid : Prop := Claim7.holds Tryd.pinned (.plain (OpenSpec.upto feedBrokenSpec)) feedBrokenUptoCard

/-- THE SECOND FORM's CARD OF 'heraldlaw07.FeedChunks'. -/
def feedChunksUptoCard : Claim7 := { stood := { row := feedChunksUptoRow, standIns := [], harness := (true, "b44a50a75b3cf067cd191a6dd1a5ec6495160f4e6c0995559fc87f06e4f24358"), looks := false }, kinds := [], alts := [], laidByText := true, laidKinds := [.data], laidTests := true, laidLooks := .later }
def FeedChunksUptoCardSaid : Prop := Claim7.holds Tryd.pinned (.plain (OpenSpec.upto feedChunksSpec)) feedChunksUptoCard

/-- THE SECOND FORM's CARD OF 'heraldlaw07.FeedApart'. -/
def feedApartUptoCard : Claim7 := { stood := { row := feedApartUptoRow, standIns := [], harness := (true, "b44a50a75b3cf067cd191a6dd1a5ec6495160f4e6c0995559fc87f06e4f24358"), looks := false }, kinds := [], alts := [], laidByText := true, laidKinds := [.data], laidTests := true, laidLooks := .later }
def FeedApartUptoCardSaid : Prop := Claim7.holds Tryd.pinned (.plain (OpenSpec.upto feedApartSpec)) feedApartUptoCard

/-- THE SECOND FORM's CARD OF 'heraldlaw07.FeedFrames'. -/
def feedFramesUptoCard : Claim7 := { stood := { row := feedFramesUptoRow, standIns := [], harness := (true, "b44a50a75b3cf067cd191a6dd1a5ec6495160f4e6c0995559fc87f06e4f24358"), looks := false }, kinds := [], alts := [], laidByText := true, laidKinds := [.data], laidTests := true, laidLooks := .later }
def FeedFramesUptoCardSaid : Prop := Claim7.holds Tryd.pinned (.plain (OpenSpec.upto feedFramesSpec)) feedFramesUptoCard

/-- THE SECOND FORM's CARD OF 'heraldlaw07.FeedPlays'. -/
def feedPlaysUptoCard : Claim7 := { stood := { row := feedPlaysUptoRow, standIns := [], harness := (true, "b44a50a75b3cf067cd191a6dd1a5ec6495160f4e6c0995559fc87f06e4f24358"), looks := false }, kinds := [], alts := [], laidByText := true, laidKinds := [.data], laidTests := true, laidLooks := .later }
def FeedPlaysUptoCardSaid : Prop := Claim7.holds Tryd.pinned (.plain (OpenSpec.upto feedPlaysSpec)) feedPlaysUptoCard
end Rows
end Go.Proofs.YtmhbaaemihljjaaDoor
