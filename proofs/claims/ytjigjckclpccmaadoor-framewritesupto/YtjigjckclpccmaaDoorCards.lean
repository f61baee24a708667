/-
  DERIVED. GIVEN WITH THE SEED: THE CARDS: each row of YtjigjckclpccmaaDoorRows.lean that lists a variable, with what it lists TIED to the program's text (the seventh form; the later family's looks); each row that meets fmt, with fmt's text TOLD by the authors' own Lean function (tested against real Go, not proved from fmt's source: count such statements apart). THE CARD IS WHAT COUNTS. Prove the row's statement (the work); the ties are given (YtjigjckclpccmaaDoorTie.lean); close each card by the builder's one call (the guide's Derived/Test/ToyasCard.lean, 'card_holds'). Laid BY PROGRAM, IN A SANDBOX (cutbox-door.mjs). By AI agents, Wed Nov 11 2026. No macro, syntax, notation, axiom, sorry.
-/
import Derived.Test.YtjigjckclpccmaaDoorRows
import GoSem.ClaimSeven
namespace Go.Proofs.YtjigjckclpccmaaDoor
namespace Rows

/-- THE TIED CARD OF 'heraldlaw06.FrameApart'. -/
def frameApartCard : Claim7 := { stood := { row := frameApartRow, standIns := [], harness := (true, "ebfef3ca07036d2183551dec436ae4541ae438fce85078c4a8c901daf53d0e9d"), looks := false }, kinds := [], alts := [], laidByText := true, laidKinds := [.data], laidTests := true, laidLooks := .later }
def FrameApartCardSaid : Prop := Claim7.holds Tryd.pinned (.plain (OpenSpec.ofChange frameApartSpec)) frameApartCard

/-- THE TIED CARD OF 'heraldlaw06.FrameBack'. -/
def frameBackCard : Claim7 := { stood := { row := frameBackRow, standIns := [], harness := (true, "ebfef3ca07036d2183551dec436ae4541ae438fce85078c4a8c901daf53d0e9d"), looks := false }, kinds := [], alts := [], laidByText := true, laidKinds := [.data], laidTests := true, laidLooks := .later }
def FrameBackCardSaid : Prop := Claim7.holds Tryd.pinned (.plain (OpenSpec.ofChange frameBackSpec)) frameBackCard

/-- THE TIED CARD OF 'heraldlaw06.FrameRefuses'. -/
def frameRefusesCard : Claim7 := { stood := { row := frameRefusesRow, standIns := [], harness := (true, "ebfef3ca07036d2183551dec436ae4541ae438fce85078c4a8c901daf53d0e9d"), looks := false }, kinds := [], alts := [], laidByText := true, laidKinds := [.data], laidTests := true, laidLooks := .later }
def FrameRefusesCardSaid : Prop := Claim7.holds Tryd.pinned (.plain (OpenSpec.ofChange frameRefusesSpec)) frameRefusesCard

/-- THE TIED CARD OF 'heraldlaw06.FrameOne'. -/
def frameOneCard : Claim7 := { stood := { row := frameOneRow, standIns := [], harness := (true, "ebfef3ca07036d2183551dec436ae4541ae438fce85078c4a8c901daf53d0e9d"), looks := false }, kinds := [], alts := [], laidByText := true, laidKinds := [.data], laidTests := true, laidLooks := .later }
def FrameOneCardSaid : Prop := Claim7.holds Tryd.pinned (.plain (OpenSpec.ofChange frameOneSpec)) frameOneCard

/-- THE TIED CARD OF 'heraldlaw06.FrameReads'. -/
def frameReadsCard : Claim7 := { stood := { row := frameReadsRow, standIns := [], harness := (true, "ebfef3ca07036d2183551dec436ae4541ae438fce85078c4a8c901daf53d0e9d"), looks := false }, kinds := [], alts := [], laidByText := true, laidKinds := [.data], laidTests := true, laidLooks := .later }
def FrameReadsCardSaid : Prop := Claim7.holds Tryd.pinned (.plain (OpenSpec.ofChange frameReadsSpec)) frameReadsCard

/-- THE TIED CARD OF 'heraldlaw06.FrameWrites'. -/
def frameWritesCard : Claim7 := { stood := { row := frameWritesRow, standIns := [], harness := (true, "ebfef3ca07036d2183551dec436ae4541ae438fce85078c4a8c901daf53d0e9d"), looks := false }, kinds := [], alts := [], laidByText := true, laidKinds := [.data], laidTests := true, laidLooks := .later }
def FrameWritesCardSaid : Prop := Claim7.holds Tryd.pinned (.plain (OpenSpec.ofChange frameWritesSpec)) frameWritesCard

/-- THE SECOND FORM's CARD OF 'heraldlaw06.FrameApart'. -/
def frameApartUptoCard : Claim7 := { stood := { row := frameApartUptoRow, standIns := [], harness := (true, "ebfef3ca07036d2183551dec436ae4541ae438fce85078c4a8c901daf53d0e9d"), looks := false }, kinds := [], alts := [], laidByText := true, laidKinds := [.data], laidTests := true, laidLooks := .later }
def FrameApartUptoCardSaid : Prop := Claim7.holds Tryd.pinned (.plain (OpenSpec.upto frameApartSpec)) frameApartUptoCard

/-- THE SECOND FORM's CARD OF 'heraldlaw06.FrameBack'. -/
def frameBackUptoCard : Claim7 := { stood := { row := frameBackUptoRow, standIns := [], harness := (true, "ebfef3ca07036d2183551dec436ae4541ae438fce85078c4a8c901daf53d0e9d"), looks := false }, kinds := [], alts := [], laidByText := true, laidKinds := [.data], laidTests := true, laidLooks := .later }
def FrameBackUptoCardSaid : Prop := Claim7.holds Tryd.pinned (.plain (OpenSpec.upto frameBackSpec)) frameBackUptoCard

/-- THE SECOND FORM's CARD OF 'heraldlaw06.FrameRefuses'. -/
def frameRefusesUptoCard : Claim7 := { stood := { row := frameRefusesUptoRow, standIns := [], harness := (true, "ebfef3ca07036d2183551dec436ae4541ae438fce85078c4a8c901daf53d0e9d"), looks := false }, kinds := [], alts := [], laidByText := true, laidKinds := [.data], laidTests := true, laidLooks := .later }
def FrameRefusesUptoCardSaid : Prop := Claim7.holds Tryd.pinned (.plain (OpenSpec.upto frameRefusesSpec)) frameRefusesUptoCard

/-- THE SECOND FORM's CARD OF 'heraldlaw06.FrameOne'. -/
def frameOneUptoCard : Claim7 := { stood := { row := frameOneUptoRow, standIns := [], harness := (true, "ebfef3ca07036d2183551dec436ae4541ae438fce85078c4a8c901daf53d0e9d"), looks := false }, kinds := [], alts := [], laidByText := true, laidKinds := [.data], laidTests := true, laidLooks := .later }
def FrameOneUptoCardSaid : Prop := Claim7.holds Tryd.pinned (.plain (OpenSpec.upto frameOneSpec)) frameOneUptoCard

/-- THE SECOND FORM's CARD OF 'heraldlaw06.FrameReads'. -/
def frameReadsUptoCard : Claim7 := { stood := { row := frameReadsUptoRow, standIns := [], harness := (true, "ebfef3ca07036d2183551dec436ae4541ae438fce85078c4a8c901daf53d0e9d"), looks := false }, kinds := [], alts := [], laidByText := true, laidKinds := [.data], laidTests := true, laidLooks := .later }
def FrameReadsUptoCardSaid : Prop := Claim7.holds Tryd.pinned (.plain (OpenSpec.upto frameReadsSpec)) frameReadsUptoCard

/-- THE SECOND FORM's CARD OF 'heraldlaw06.FrameWrites'. -/
def frameWritesUptoCard : Claim7 := { stood := { row := frameWritesUptoRow, standIns := [], harness := (true, "ebfef3ca07036d2183551dec436ae4541ae438fce85078c4a8c901daf53d0e9d"), looks := false }, kinds := [], alts := [], laidByText := true, laidKinds := [.data], laidTests := true, laidLooks := .later }
def FrameWritesUptoCardSaid : Prop := Claim7.holds Tryd.pinned (.plain (OpenSpec.upto frameWritesSpec)) frameWritesUptoCard
end Rows
end Go.Proofs.YtjigjckclpccmaaDoor
