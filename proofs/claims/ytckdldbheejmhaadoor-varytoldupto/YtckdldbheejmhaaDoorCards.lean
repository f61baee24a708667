/-
  DERIVED. GIVEN WITH THE SEED: THE CARDS: each row of YtckdldbheejmhaaDoorRows.lean that lists a variable, with what it lists TIED to the program's text (the seventh form; the later family's looks); each row that meets fmt, with fmt's text TOLD by the authors' own Lean function (tested against real Go, not proved from fmt's source: count such statements apart). THE CARD IS WHAT COUNTS. Prove the row's statement (the work); the ties are given (YtckdldbheejmhaaDoorTie.lean); close each card by the builder's one call (the guide's Derived/Test/ToyasCard.lean, 'card_holds'). Laid BY PROGRAM, IN A SANDBOX (cutbox-door.mjs). By AI agents, Wed Nov 11 2026. No macro, syntax, notation, axiom, sorry.
-/
import Derived.Test.YtckdldbheejmhaaDoorRows
import GoSem.ClaimSeven
namespace Go.Proofs.YtckdldbheejmhaaDoor
namespace Rows

/-- THE TIED CARD OF 'heraldlaw16.VaryAlike'. -/
def varyAlikeCard : Claim7 := { stood := { row := varyAlikeRow, standIns := [], harness := (true, "8c98e3d7fed6bec679d6f13c04e8a53cc169eb1f9cbe584f04e04849d7fb2f58"), looks := false }, kinds := [], alts := [], laidByText := true, laidKinds := [.data, .pinned], laidTests := true, laidLooks := .later }
def VaryAlikeCardSaid : Prop := Claim7.holds Tryd.pinned (.plain (OpenSpec.ofChange varyAlikeSpec)) varyAlikeCard

/-- THE TIED CARD OF 'heraldlaw16.VaryFields'. -/
def varyFieldsCard : Claim7 := { stood := { row := varyFieldsRow, standIns := [], harness := (true, "8c98e3d7fed6bec679d6f13c04e8a53cc169eb1f9cbe584f04e04849d7fb2f58"), looks := false }, kinds := [], alts := [], laidByText := true, laidKinds := [.data, .pinned], laidTests := true, laidLooks := .later }
def VaryFieldsCardSaid : Prop := Claim7.holds Tryd.pinned (.plain (OpenSpec.ofChange varyFieldsSpec)) varyFieldsCard

/-- THE TIED CARD OF 'heraldlaw16.VaryTold'. -/
def varyToldCard : Claim7 := { stood := { row := varyToldRow, standIns := [], harness := (true, "8c98e3d7fed6bec679d6f13c04e8a53cc169eb1f9cbe584f04e04849d7fb2f58"), looks := false }, kinds := [], alts := [], laidByText := true, laidKinds := [.data, .pinned], laidTests := true, laidLooks := .later }
def VaryToldCardSaid : Prop := Claim7.holds Tryd.pinned (.plain (OpenSpec.ofChange varyToldSpec)) varyToldCard

/-- THE TIED CARD OF 'heraldlaw16.VaryMatches'. -/
def varyMatchesCard : Claim7 := { stood := { row := varyMatchesRow, standIns := [], harness := (true, "8c98e3d7fed6bec679d6f13c04e8a53cc169eb1f9cbe584f04e04849d7fb2f58"), looks := false }, kinds := [], alts := [], laidByText := true, laidKinds := [.data, .pinned], laidTests := true, laidLooks := .later }
def VaryMatchesCardSaid : Prop := Claim7.holds Tryd.pinned (.plain (OpenSpec.ofChange varyMatchesSpec)) varyMatchesCard

/-- THE TIED CARD OF 'heraldlaw16.VaryNames'. -/
def varyNamesCard : Claim7 := { stood := { row := varyNamesRow, standIns := [], harness := (true, "8c98e3d7fed6bec679d6f13c04e8a53cc169eb1f9cbe584f04e04849d7fb2f58"), looks := false }, kinds := [], alts := [], laidByText := true, laidKinds := [.data, .pinned], laidTests := true, laidLooks := .later }
def VaryNamesCardSaid : Prop := Claim7.holds Tryd.pinned (.plain (OpenSpec.ofChange varyNamesSpec)) varyNamesCard

/-- THE SECOND FORM's CARD OF 'heraldlaw16.VaryAlike'. -/
def varyAlikeUptoCard : Claim7 := { stood := { row := varyAlikeUptoRow, standIns := [], harness := (true, "8c98e3d7fed6bec679d6f13c04e8a53cc169eb1f9cbe584f04e04849d7fb2f58"), looks := false }, kinds := [], alts := [], laidByText := true, laidKinds := [.data, .pinned], laidTests := true, laidLooks := .later }
def VaryAlikeUptoCardSaid : Prop := Claim7.holds Tryd.pinned (.plain (OpenSpec.upto varyAlikeSpec)) varyAlikeUptoCard

/-- THE SECOND FORM's CARD OF 'heraldlaw16.VaryFields'. -/
def varyFieldsUptoCard : Claim7 := { stood := { row := varyFieldsUptoRow, standIns := [], harness := (true, "8c98e3d7fed6bec679d6f13c04e8a53cc169eb1f9cbe584f04e04849d7fb2f58"), looks := false }, kinds := [], alts := [], laidByText := true, laidKinds := [.data, .pinned], laidTests := true, laidLooks := .later }
def VaryFieldsUptoCardSaid : Prop := Claim7.holds Tryd.pinned (.plain (OpenSpec.upto varyFieldsSpec)) varyFieldsUptoCard

/-- THE SECOND FORM's CARD OF 'heraldlaw16.VaryTold'. -/
def varyToldUptoCard : Claim7 := { stood := { row := varyToldUptoRow, standIns := [], harness := (true, "8c98e3d7fed6bec679d6f13c04e8a53cc169eb1f9cbe584f04e04849d7fb2f58"), looks := false }, kinds := [], alts := [], laidByText := true, laidKinds := [.data, .pinned], laidTests := true, laidLooks := .later }
def VaryToldUptoCardSaid : Prop := Claim7.holds Tryd.pinned (.plain (OpenSpec.upto varyToldSpec)) varyToldUptoCard

/-- THE SECOND FORM's CARD OF 'heraldlaw16.VaryMatches'. -/
def varyMatchesUptoCard : Claim7 := { stood := { row := varyMatchesUptoRow, standIns := [], harness := (true, "8c98e3d7fed6bec679d6f13c04e8a53cc169eb1f9cbe584f04e04849d7fb2f58"), looks := false }, kinds := [], alts := [], laidByText := true, laidKinds := [.data, .pinned], laidTests := true, laidLooks := .later }
def VaryMatchesUptoCardSaid : Prop := Claim7.holds Tryd.pinned (.plain (OpenSpec.upto varyMatchesSpec)) varyMatchesUptoCard

/-- THE SECOND FORM's CARD OF 'heraldlaw16.VaryNames'. -/
def varyNamesUptoCard : Claim7 := { stood := { row := varyNamesUptoRow, standIns := [], harness := (true, "8c98e3d7fed6bec679d6f13c04e8a53cc169eb1f9cbe584f04e04849d7fb2f58"), looks := false }, kinds := [], alts := [], laidByText := true, laidKinds := [.data, .pinned], laidTests := true, laidLooks := .later }
def VaryNamesUptoCardSaid : Prop := Claim7.holds Tryd.pinned (.plain (OpenSpec.upto varyNamesSpec)) varyNamesUptoCard
end Rows
end Go.Proofs.YtckdldbheejmhaaDoor
