/-
  DERIVED. GIVEN WITH THE SEED: THE CARDS: each row of YtcgfgjhhmbfmdaaDoorRows.lean that lists a variable, with what it lists TIED to the program's text (the seventh form; the later family's looks); each row that meets fmt, with fmt's text TOLD by the authors' own Lean function (tested against real Go, not proved from fmt's source: count such statements apart). THE CARD IS WHAT COUNTS. Prove the row's statement (the work); the ties are given (YtcgfgjhhmbfmdaaDoorTie.lean); close each card by the builder's one call (the guide's Derived/Test/ToyasCard.lean, 'card_holds'). Laid BY PROGRAM, IN A SANDBOX (cutbox-door.mjs). By AI agents, Wed Nov 11 2026. No macro, syntax, notation, axiom, sorry.
-/
import Derived.Test.YtcgfgjhhmbfmdaaDoorRows
import GoSem.ClaimSeven
namespace Go.Proofs.YtcgfgjhhmbfmdaaDoor
namespace Rows

/-- THE TIED CARD OF 'heraldlaw13.FieldWords'. -/
def fieldWordsCard : Claim7 := { stood := { row := fieldWordsRow, standIns := [], harness := (true, "532b14dac01022edcbc69edfde8e872ebe43a733204734767c4f5f4a4375907c"), looks := false }, kinds := [], alts := [], laidByText := true, laidKinds := [.data, .data, .data, .data, .pinned], laidTests := true, laidLooks := .later }
def FieldWordsCardSaid : Prop := Claim7.holds Tryd.pinned (.plain (OpenSpec.ofChange fieldWordsSpec)) fieldWordsCard

/-- THE TIED CARD OF 'heraldlaw13.FieldBack'. -/
def fieldBackCard : Claim7 := { stood := { row := fieldBackRow, standIns := [], harness := (true, "532b14dac01022edcbc69edfde8e872ebe43a733204734767c4f5f4a4375907c"), looks := false }, kinds := [], alts := [], laidByText := true, laidKinds := [.data, .data, .data, .data, .pinned], laidTests := true, laidLooks := .later }
def FieldBackCardSaid : Prop := Claim7.holds Tryd.pinned (.plain (OpenSpec.ofChange fieldBackSpec)) fieldBackCard

/-- THE TIED CARD OF 'heraldlaw13.FieldSpoilt'. -/
def fieldSpoiltCard : Claim7 := { stood := { row := fieldSpoiltRow, standIns := [], harness := (true, "532b14dac01022edcbc69edfde8e872ebe43a733204734767c4f5f4a4375907c"), looks := false }, kinds := [], alts := [], laidByText := true, laidKinds := [.data, .data, .data, .data, .pinned], laidTests := true, laidLooks := .later }
def FieldSpoiltCardSaid : Prop := Claim7.holds Tryd.pinned (.plain (OpenSpec.ofChange fieldSpoiltSpec)) fieldSpoiltCard

/-- THE TIED CARD OF 'heraldlaw13.FieldApart'. -/
def fieldApartCard : Claim7 := { stood := { row := fieldApartRow, standIns := [], harness := (true, "532b14dac01022edcbc69edfde8e872ebe43a733204734767c4f5f4a4375907c"), looks := false }, kinds := [], alts := [], laidByText := true, laidKinds := [.data, .data, .data, .data, .pinned], laidTests := true, laidLooks := .later }
def FieldApartCardSaid : Prop := Claim7.holds Tryd.pinned (.plain (OpenSpec.ofChange fieldApartSpec)) fieldApartCard

/-- THE TIED CARD OF 'heraldlaw13.FieldReads'. -/
def fieldReadsCard : Claim7 := { stood := { row := fieldReadsRow, standIns := [], harness := (true, "532b14dac01022edcbc69edfde8e872ebe43a733204734767c4f5f4a4375907c"), looks := false }, kinds := [], alts := [], laidByText := true, laidKinds := [.data, .data, .data, .data, .pinned], laidTests := true, laidLooks := .later }
def FieldReadsCardSaid : Prop := Claim7.holds Tryd.pinned (.plain (OpenSpec.ofChange fieldReadsSpec)) fieldReadsCard

/-- THE TIED CARD OF 'heraldlaw13.FieldWrites'. -/
def fieldWritesCard : Claim7 := { stood := { row := fieldWritesRow, standIns := [], harness := (true, "532b14dac01022edcbc69edfde8e872ebe43a733204734767c4f5f4a4375907c"), looks := false }, kinds := [], alts := [], laidByText := true, laidKinds := [.data, .data, .data, .data, .pinned], laidTests := true, laidLooks := .later }
def FieldWritesCardSaid : Prop := Claim7.holds Tryd.pinned (.plain (OpenSpec.ofChange fieldWritesSpec)) fieldWritesCard

/-- THE SECOND FORM's CARD OF 'heraldlaw13.FieldWords'. -/
def fieldWordsUptoCard : Claim7 := { stood := { row := fieldWordsUptoRow, standIns := [], harness := (true, "532b14dac01022edcbc69edfde8e872ebe43a733204734767c4f5f4a4375907c"), looks := false }, kinds := [], alts := [], laidByText := true, laidKinds := [.data, .data, .data, .data, .pinned], laidTests := true, laidLooks := .later }
def FieldWordsUptoCardSaid : Prop := Claim7.holds Tryd.pinned (.plain (OpenSpec.upto fieldWordsSpec)) fieldWordsUptoCard

/-- THE SECOND FORM's CARD OF 'heraldlaw13.FieldBack'. -/
def fieldBackUptoCard : Claim7 := { stood := { row := fieldBackUptoRow, standIns := [], harness := (true, "532b14dac01022edcbc69edfde8e872ebe43a733204734767c4f5f4a4375907c"), looks := false }, kinds := [], alts := [], laidByText := true, laidKinds := [.data, .data, .data, .data, .pinned], laidTests := true, laidLooks := .later }
def FieldBackUptoCardSaid : Prop := Claim7.holds Tryd.pinned (.plain (OpenSpec.upto fieldBackSpec)) fieldBackUptoCard

/-- THE SECOND FORM's CARD OF 'heraldlaw13.FieldSpoilt'. -/
def fieldSpoiltUptoCard : Claim7 := { stood := { row := fieldSpoiltUptoRow, standIns := [], harness := (true, "532b14dac01022edcbc69edfde8e872ebe43a733204734767c4f5f4a4375907c"), looks := false }, kinds := [], alts := [], laidByText := true, laidKinds := [.data, .data, .data, .data, .pinned], laidTests := true, laidLooks := .later }
def FieldSpoiltUptoCardSaid : Prop := Claim7.holds Tryd.pinned (.plain (OpenSpec.upto fieldSpoiltSpec)) fieldSpoiltUptoCard

/-- THE SECOND FORM's CARD OF 'heraldlaw13.FieldApart'. -/
def fieldApartUptoCard : Claim7 := { stood := { row := fieldApartUptoRow, standIns := [], harness := (true, "532b14dac01022edcbc69edfde8e872ebe43a733204734767c4f5f4a4375907c"), looks := false }, kinds := [], alts := [], laidByText := true, laidKinds := [.data, .data, .data, .data, .pinned], laidTests := true, laidLooks := .later }
def FieldApartUptoCardSaid : Prop := Claim7.holds Tryd.pinned (.plain (OpenSpec.upto fieldApartSpec)) fieldApartUptoCard

/-- THE SECOND FORM's CARD OF 'heraldlaw13.FieldReads'. -/
def fieldReadsUptoCard : Claim7 := { stood := { row := fieldReadsUptoRow, standIns := [], harness := (true, "532b14dac01022edcbc69edfde8e872ebe43a733204734767c4f5f4a4375907c"), looks := false }, kinds := [], alts := [], laidByText := true, laidKinds := [.data, .data, .data, .data, .pinned], laidTests := true, laidLooks := .later }
def FieldReadsUptoCardSaid : Prop := Claim7.holds Tryd.pinned (.plain (OpenSpec.upto fieldReadsSpec)) fieldReadsUptoCard

/-- THE SECOND FORM's CARD OF 'heraldlaw13.FieldWrites'. -/
def fieldWritesUptoCard : Claim7 := { stood := { row := fieldWritesUptoRow, standIns := [], harness := (true, "532b14dac01022edcbc69edfde8e872ebe43a733204734767c4f5f4a4375907c"), looks := false }, kinds := [], alts := [], laidByText := true, laidKinds := [.data, .data, .data, .data, .pinned], laidTests := true, laidLooks := .later }
def FieldWritesUptoCardSaid : Prop := Claim7.holds Tryd.pinned (.plain (OpenSpec.upto fieldWritesSpec)) fieldWritesUptoCard
end Rows
end Go.Proofs.YtcgfgjhhmbfmdaaDoor
