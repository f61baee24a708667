/-
  No cell of these rows narrows 'for every input' (looked for: loops, veiled, ifaces, maps, wideKeys, modest, calm, conditions, laid).
  DERIVED. THE GIVEN ROWS OF THIS SEAT. 5 by the template 'for every input the law returns true; each argument reads behind the call as it read before'; 0 by the template 'total and deterministic' (their statements: YtoanmjnjpkbmiaaTotals.lean).
  GIVEN WITH THE SEED: the statements are not yours to turn. If you find one false, say at which input.
  Laid BY PROGRAM, IN A SANDBOX (cutbox-rows.mjs): the forced cells as the released guide's own fill.sh prints them over the translation 849a294ae2d0f645… (all of the seat's roots in one cut). By AI agents, Wed Nov 11 2026. No macro, syntax, notation, axiom, sorry.
-/
import Derived.Test.YtoanmjnjpkbmiaaChecked
import GoSem.Claim
import GoSem.ClaimJoined
import GoSem.ClaimMapViews
import Derived.JoinedTies
import Derived.KernelRfl
namespace Go.Proofs.Ytoanmjnjpkbmiaa
/- THE CELL 'sum', in the pinned program and in every row, IS THE sha256 OF THE DUMP (.gsa) THAT YtoanmjnjpkbmiaaProg.lean LOADS. Nothing in Lean hashes anything: it is a label: what it is worth is what the hold of that sum in a sandbox is worth. -/
noncomputable def Try.pinned : Pinned := { name := "ytoanmjnjpkbmiaa", sum := "849a294ae2d0f645b1fa3ef09fae00c1e1ca32aebb2ce89caf6ae7605723fa80", checked := Try.checked }
namespace Rows
def none {H : Type} : Left H := { results := [], args := [] }

/-- 'heraldlaw09.WindowSums': WHATEVER THE INPUT: true; the input reads as it did. -/
def windowSumsSpec : ChangeSpec := { name := "windowSums", fn := fun _ => fun
  | [d1, d2] => { results := [.lit (.bool true)], args := [d1, d2] }
  | _ => none }
def windowSumsRow : OpenClaim := { program := "ytoanmjnjpkbmiaa", sum := "849a294ae2d0f645b1fa3ef09fae00c1e1ca32aebb2ce89caf6ae7605723fa80", func := "herald/heraldlaw09.WindowSums", spec := "windowSums", apart := false }
def WindowSumsSaid : Prop := windowSumsRow.holds Try.pinned (OpenSpec.ofChange windowSumsSpec)

/-- ITS FALSE NEIGHBOUR: 'it returns false'. Refute it at one input. -/
def windowSumsWrong : ChangeSpec := { name := "windowSums", fn := fun _ => fun
  | [d1, d2] => { results := [.lit (.bool false)], args := [d1, d2] }
  | _ => none }
def WindowSumsWrongFalsely : Prop := windowSumsRow.holds Try.pinned (OpenSpec.ofChange windowSumsWrong)

/-- 'heraldlaw09.WindowBack': WHATEVER THE INPUT: true; the input reads as it did. -/
def windowBackSpec : ChangeSpec := { name := "windowBack", fn := fun _ => fun
  | [d1, d2, d3] => { results := [.lit (.bool true)], args := [d1, d2, d3] }
  | _ => none }
def windowBackRow : OpenClaim := { program := "ytoanmjnjpkbmiaa", sum := "849a294ae2d0f645b1fa3ef09fae00c1e1ca32aebb2ce89caf6ae7605723fa80", func := "herald/heraldlaw09.WindowBack", spec := "windowBack", apart := false }
def WindowBackSaid : Prop := windowBackRow.holds Try.pinned (OpenSpec.ofChange windowBackSpec)

/-- ITS FALSE NEIGHBOUR: 'it returns false'. Refute it at one input. -/
def windowBackWrong : ChangeSpec := { name := "windowBack", fn := fun _ => fun
  | [d1, d2, d3] => { results := [.lit (.bool false)], args := [d1, d2, d3] }
  | _ => none }
def WindowBackWrongFalsely : Prop := windowBackRow.holds Try.pinned (OpenSpec.ofChange windowBackWrong)

/-- 'heraldlaw09.WindowRoom': WHATEVER THE INPUT: true; the input reads as it did. -/
def windowRoomSpec : ChangeSpec := { name := "windowRoom", fn := fun _ => fun
  | [d1, d2, d3, d4] => { results := [.lit (.bool true)], args := [d1, d2, d3, d4] }
  | _ => none }
def windowRoomRow : OpenClaim := { program := "ytoanmjnjpkbmiaa", sum := "849a294ae2d0f645b1fa3ef09fae00c1e1ca32aebb2ce89caf6ae7605723fa80", func := "herald/heraldlaw09.WindowRoom", spec := "windowRoom", apart := false }
def WindowRoomSaid : Prop := windowRoomRow.holds Try.pinned (OpenSpec.ofChange windowRoomSpec)

/-- ITS FALSE NEIGHBOUR: 'it returns false'. Refute it at one input. -/
def windowRoomWrong : ChangeSpec := { name := "windowRoom", fn := fun _ => fun
  | [d1, d2, d3, d4] => { results := [.lit (.bool false)], args := [d1, d2, d3, d4] }
  | _ => none }
def WindowRoomWrongFalsely : Prop := windowRoomRow.holds Try.pinned (OpenSpec.ofChange windowRoomWrong)

/-- 'heraldlaw09.WindowRooms': WHATEVER THE INPUT: true; the input reads as it did. -/
def windowRoomsSpec : ChangeSpec := { name := "windowRooms", fn := fun _ => fun
  | [d1, d2, d3, d4] => { results := [.lit (.bool true)], args := [d1, d2, d3, d4] }
  | _ => none }
def windowRoomsRow : OpenClaim := { program := "ytoanmjnjpkbmiaa", sum := "849a294ae2d0f645b1fa3ef09fae00c1e1ca32aebb2ce89caf6ae7605723fa80", func := "herald/heraldlaw09.WindowRooms", spec := "windowRooms", apart := false }
def WindowRoomsSaid : Prop := windowRoomsRow.holds Try.pinned (OpenSpec.ofChange windowRoomsSpec)

/-- ITS FALSE NEIGHBOUR: 'it returns false'. Refute it at one input. -/
def windowRoomsWrong : ChangeSpec := { name := "windowRooms", fn := fun _ => fun
  | [d1, d2, d3, d4] => { results := [.lit (.bool false)], args := [d1, d2, d3, d4] }
  | _ => none }
def WindowRoomsWrongFalsely : Prop := windowRoomsRow.holds Try.pinned (OpenSpec.ofChange windowRoomsWrong)

/-- 'heraldlaw09.WindowPlays': WHATEVER THE INPUT: true; the input reads as it did. -/
def windowPlaysSpec : ChangeSpec := { name := "windowPlays", fn := fun _ => fun
  | [d1, d2, d3] => { results := [.lit (.bool true)], args := [d1, d2, d3] }
  | _ => none }
def windowPlaysRow : OpenClaim := { program := "ytoanmjnjpkbmiaa", sum := "849a294ae2d0f645b1fa3ef09fae00c1e1ca32aebb2ce89caf6ae7605723fa80", func := "herald/heraldlaw09.WindowPlays", spec := "windowPlays", apart := false }
def WindowPlaysSaid : Prop := windowPlaysRow.holds Try.pinned (OpenSpec.ofChange windowPlaysSpec)

/-- ITS FALSE NEIGHBOUR: 'it returns false'. Refute it at one input. -/
def windowPlaysWrong : ChangeSpec := { name := "windowPlays", fn := fun _ => fun
  | [d1, d2, d3] => { results := [.lit (.bool false)], args := [d1, d2, d3] }
  | _ => none }
def WindowPlaysWrongFalsely : Prop := windowPlaysRow.holds Try.pinned (OpenSpec.ofChange windowPlaysWrong)

/- THE SECOND FORM. 'bulk': how many values and letters a reading holds, each counted each time it is reached (what is shared counts as often as it is met; a slice's spare places count too). A statement '..UptoSaid' is the law's where the arguments, and the package variables that the reading takes, are together of bulk at most 1048576: NARROWER than '..Said'. Prove '..Said' where nothing that the law and all that it calls make is longer than what came in: it says more and counts as full. Else prove '..UptoSaid'. A law counts once. -/
mutual
def uptoBulk {H : Type} : DataW H → Nat
  | .lit (.string bytes) => bytes.length + 1
  | .lit _ => 1
  | .nil => 1
  | .ptr d => uptoBulk d + 1
  | .slice elems spare => uptoBulkAll elems + uptoBulkAll spare + 1
  | .agg parts => uptoBulkAll parts + 1
  | .iface _ d => uptoBulk d + 1
  | .map entries => uptoBulkEntries entries + 1
  | .held _ => 1
def uptoBulkAll {H : Type} : List (DataW H) → Nat
  | [] => 0
  | d :: r => uptoBulk d + uptoBulkAll r
def uptoBulkEntries {H : Type} : List (Lit × DataW H) → Nat
  | [] => 0
  | x :: r => uptoBulkEntry x + uptoBulkEntries r
def uptoBulkEntry {H : Type} : Lit × DataW H → Nat
  | (.string bytes, d) => bytes.length + uptoBulk d + 1
  | (_, d) => uptoBulk d + 1
 end
def uptoSmall : (H : Type) → List (DataW H) → Bool := fun _ ds => decide (uptoBulkAll ds ≤ 1048576)
def OpenSpec.upto (s : _root_.Go.ChangeSpec) : _root_.Go.OpenSpec := { _root_.Go.OpenSpec.ofChange s with cond := some uptoSmall }

/-- 'heraldlaw09.WindowSums', WHERE WHAT IT READS IS OF BULK AT MOST 1048576: true; the input reads as it did. -/
def windowSumsUptoRow : OpenClaim := { program := "ytoanmjnjpkbmiaa", sum := "849a294ae2d0f645b1fa3ef09fae00c1e1ca32aebb2ce89caf6ae7605723fa80", func := "herald/heraldlaw09.WindowSums", spec := "windowSums", apart := false, narrowed := true }
def WindowSumsUptoSaid : Prop := windowSumsUptoRow.holds Try.pinned (OpenSpec.upto windowSumsSpec)

/-- 'heraldlaw09.WindowBack', WHERE WHAT IT READS IS OF BULK AT MOST 1048576: true; the input reads as it did. -/
def windowBackUptoRow : OpenClaim := { program := "ytoanmjnjpkbmiaa", sum := "849a294ae2d0f645b1fa3ef09fae00c1e1ca32aebb2ce89caf6ae7605723fa80", func := "herald/heraldlaw09.WindowBack", spec := "windowBack", apart := false, narrowed := true }
def WindowBackUptoSaid : Prop := windowBackUptoRow.holds Try.pinned (OpenSpec.upto windowBackSpec)

/-- 'heraldlaw09.WindowRoom', WHERE WHAT IT READS IS OF BULK AT MOST 1048576: true; the input reads as it did. -/
def windowRoomUptoRow : OpenClaim := { program := "ytoanmjnjpkbmiaa", sum := "849a294ae2d0f645b1fa3ef09fae00c1e1ca32aebb2ce89caf6ae7605723fa80", func := "herald/heraldlaw09.WindowRoom", spec := "windowRoom", apart := false, narrowed := true }
def WindowRoomUptoSaid : Prop := windowRoomUptoRow.holds Try.pinned (OpenSpec.upto windowRoomSpec)

/-- 'heraldlaw09.WindowRooms', WHERE WHAT IT READS IS OF BULK AT MOST 1048576: true; the input reads as it did. -/
def windowRoomsUptoRow : OpenClaim := { program := "ytoanmjnjpkbmiaa", sum := "849a294ae2d0f645b1fa3ef09fae00c1e1ca32aebb2ce89caf6ae7605723fa80", func := "herald/heraldlaw09.WindowRooms", spec := "windowRooms", apart := false, narrowed := true }
def WindowRoomsUptoSaid : Prop := windowRoomsUptoRow.holds Try.pinned (OpenSpec.upto windowRoomsSpec)

/-- 'heraldlaw09.WindowPlays', WHERE WHAT IT READS IS OF BULK AT MOST 1048576: true; the input reads as it did. -/
def windowPlaysUptoRow : OpenClaim := { program := "ytoanmjnjpkbmiaa", sum := "849a294ae2d0f645b1fa3ef09fae00c1e1ca32aebb2ce89caf6ae7605723fa80", func := "herald/heraldlaw09.WindowPlays", spec := "windowPlays", apart := false, narrowed := true }
def WindowPlaysUptoSaid : Prop := windowPlaysUptoRow.holds Try.pinned (OpenSpec.upto windowPlaysSpec)

end Rows
end Go.Proofs.Ytoanmjnjpkbmiaa
