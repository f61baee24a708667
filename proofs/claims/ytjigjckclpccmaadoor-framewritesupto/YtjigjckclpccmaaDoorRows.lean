/-
  NARROWER THAN 'FOR EVERY INPUT', by the rows' own cells (each row's printed sentence says how): FrameApart: laid · FrameBack: laid · FrameRefuses: laid · FrameOne: laid · FrameReads: laid · FrameWrites: laid.
  DERIVED. THE GIVEN ROWS OF THIS SEAT. 6 by the template 'for every input the law returns true; each argument reads behind the call as it read before'; 0 by the template 'total and deterministic' (their statements: YtjigjckclpccmaaDoorTotals.lean).
  GIVEN WITH THE SEED: the statements are not yours to turn. If you find one false, say at which input.
  Laid BY PROGRAM, IN A SANDBOX (cutbox-rows.mjs): the forced cells as the released guide's own fill.sh prints them over the translation 626f34c8b19aecf4… (all of the seat's roots in one cut). By AI agents, Wed Nov 11 2026. No macro, syntax, notation, axiom, sorry.
-/
import Derived.Test.YtjigjckclpccmaaDoorChecked
import GoSem.Claim
import GoSem.ClaimJoined
import GoSem.ClaimMapViews
import Derived.JoinedTies
import Derived.KernelRfl
namespace Go.Proofs.YtjigjckclpccmaaDoor
/- THE CELL 'sum', in the pinned program and in every row, IS THE sha256 OF THE DUMP (.gsa) THAT YtjigjckclpccmaaDoorProg.lean LOADS. Nothing in Lean hashes anything: it is a label: what it is worth is what the hold of that sum in a sandbox is worth. -/
noncomputable def Tryd.pinned : Pinned := { name := "ytjigjckclpccmaadoor", sum := "626f34c8b19aecf4fdacff8aebf4c76deb3701cf07fd84ec30de7e4158035b24", checked := Tryd.checked }
namespace Rows
def none {H : Type} : Left H := { results := [], args := [] }

/- WHAT THE LISTED PACKAGE-LEVEL VARIABLES READ AS WHEN THE CALL BEGINS. Each datum BY PROGRAM (the guide's laid-datum.mjs) off the statement by which the dump's own 'gosem.cut.vars' lays the variable. In a bare row this is a premise. The card (YtjigjckclpccmaaDoorCards.lean) ties it to the program's text. -/
def laid_herald_frame_kinds {H : Type} : DataW H := .agg [.agg [.lit (.int .i64 9), .lit (.int .i64 1), .lit (.int .i64 2147483647)], .agg [.lit (.int .i64 45), .lit (.int .i64 1), .lit (.int .i64 2147483647)], .agg [.lit (.int .i64 0), .lit (.int .i64 1), .lit (.int .i64 2147483647)], .agg [.lit (.int .i64 0), .lit (.int .i64 1), .lit (.int .i64 2147483647)], .agg [.lit (.int .i64 1), .lit (.int .i64 0), .lit (.int .i64 0)], .agg [.lit (.int .i64 12), .lit (.int .i64 1), .lit (.int .i64 2147483647)], .agg [.lit (.int .i64 1), .lit (.int .i64 0), .lit (.int .i64 0)], .agg [.lit (.int .i64 0), .lit (.int .i64 0), .lit (.int .i64 0)], .agg [.lit (.int .i64 0), .lit (.int .i64 0), .lit (.int .i64 2147483647)], .agg [.lit (.int .i64 4), .lit (.int .i64 1), .lit (.int .i64 2147483647)], .agg [.lit (.int .i64 255), .lit (.int .i64 0), .lit (.int .i64 2147483647)]]

/-- 'heraldlaw06.FrameApart': WHATEVER THE INPUT: true; the input reads as it did. -/
def frameApartSpec : ChangeSpec := { name := "frameApart", fn := fun _ => fun
  | [d] => { results := [.lit (.bool true)], args := [d] }
  | _ => none }
def frameApartRow : OpenClaim := { program := "ytjigjckclpccmaadoor", sum := "626f34c8b19aecf4fdacff8aebf4c76deb3701cf07fd84ec30de7e4158035b24", func := "herald/heraldlaw06.FrameApart", spec := "frameApart", unfollowed := true, recurses := true, named := ["herald/frame.kinds"], apart := false, laid := [("herald/frame.kinds", laid_herald_frame_kinds)] }
def FrameApartSaid : Prop := frameApartRow.holds Tryd.pinned (OpenSpec.ofChange frameApartSpec)

/-- ITS FALSE NEIGHBOUR: 'it returns false'. Refute it at one input. -/
def frameApartWrong : ChangeSpec := { name := "frameApart", fn := fun _ => fun
  | [d] => { results := [.lit (.bool false)], args := [d] }
  | _ => none }
def FrameApartWrongFalsely : Prop := frameApartRow.holds Tryd.pinned (OpenSpec.ofChange frameApartWrong)

/-- 'heraldlaw06.FrameBack': WHATEVER THE INPUT: true; the input reads as it did. -/
def frameBackSpec : ChangeSpec := { name := "frameBack", fn := fun _ => fun
  | [d1, d2, d3] => { results := [.lit (.bool true)], args := [d1, d2, d3] }
  | _ => none }
def frameBackRow : OpenClaim := { program := "ytjigjckclpccmaadoor", sum := "626f34c8b19aecf4fdacff8aebf4c76deb3701cf07fd84ec30de7e4158035b24", func := "herald/heraldlaw06.FrameBack", spec := "frameBack", unfollowed := true, recurses := true, named := ["herald/frame.kinds"], apart := false, laid := [("herald/frame.kinds", laid_herald_frame_kinds)] }
def FrameBackSaid : Prop := frameBackRow.holds Tryd.pinned (OpenSpec.ofChange frameBackSpec)

/-- ITS FALSE NEIGHBOUR: 'it returns false'. Refute it at one input. -/
def frameBackWrong : ChangeSpec := { name := "frameBack", fn := fun _ => fun
  | [d1, d2, d3] => { results := [.lit (.bool false)], args := [d1, d2, d3] }
  | _ => none }
def FrameBackWrongFalsely : Prop := frameBackRow.holds Tryd.pinned (OpenSpec.ofChange frameBackWrong)

/-- 'heraldlaw06.FrameRefuses': WHATEVER THE INPUT: true; the input reads as it did. -/
def frameRefusesSpec : ChangeSpec := { name := "frameRefuses", fn := fun _ => fun
  | [d1, d2, d3] => { results := [.lit (.bool true)], args := [d1, d2, d3] }
  | _ => none }
def frameRefusesRow : OpenClaim := { program := "ytjigjckclpccmaadoor", sum := "626f34c8b19aecf4fdacff8aebf4c76deb3701cf07fd84ec30de7e4158035b24", func := "herald/heraldlaw06.FrameRefuses", spec := "frameRefuses", unfollowed := true, recurses := true, named := ["herald/frame.kinds"], apart := false, laid := [("herald/frame.kinds", laid_herald_frame_kinds)] }
def FrameRefusesSaid : Prop := frameRefusesRow.holds Tryd.pinned (OpenSpec.ofChange frameRefusesSpec)

/-- ITS FALSE NEIGHBOUR: 'it returns false'. Refute it at one input. -/
def frameRefusesWrong : ChangeSpec := { name := "frameRefuses", fn := fun _ => fun
  | [d1, d2, d3] => { results := [.lit (.bool false)], args := [d1, d2, d3] }
  | _ => none }
def FrameRefusesWrongFalsely : Prop := frameRefusesRow.holds Tryd.pinned (OpenSpec.ofChange frameRefusesWrong)

/-- 'heraldlaw06.FrameOne': WHATEVER THE INPUT: true; the input reads as it did. -/
def frameOneSpec : ChangeSpec := { name := "frameOne", fn := fun _ => fun
  | [d1, d2] => { results := [.lit (.bool true)], args := [d1, d2] }
  | _ => none }
def frameOneRow : OpenClaim := { program := "ytjigjckclpccmaadoor", sum := "626f34c8b19aecf4fdacff8aebf4c76deb3701cf07fd84ec30de7e4158035b24", func := "herald/heraldlaw06.FrameOne", spec := "frameOne", unfollowed := true, recurses := true, named := ["herald/frame.kinds"], apart := false, laid := [("herald/frame.kinds", laid_herald_frame_kinds)] }
def FrameOneSaid : Prop := frameOneRow.holds Tryd.pinned (OpenSpec.ofChange frameOneSpec)

/-- ITS FALSE NEIGHBOUR: 'it returns false'. Refute it at one input. -/
def frameOneWrong : ChangeSpec := { name := "frameOne", fn := fun _ => fun
  | [d1, d2] => { results := [.lit (.bool false)], args := [d1, d2] }
  | _ => none }
def FrameOneWrongFalsely : Prop := frameOneRow.holds Tryd.pinned (OpenSpec.ofChange frameOneWrong)

/-- 'heraldlaw06.FrameReads': WHATEVER THE INPUT: true; the input reads as it did. -/
def frameReadsSpec : ChangeSpec := { name := "frameReads", fn := fun _ => fun
  | [d1, d2] => { results := [.lit (.bool true)], args := [d1, d2] }
  | _ => none }
def frameReadsRow : OpenClaim := { program := "ytjigjckclpccmaadoor", sum := "626f34c8b19aecf4fdacff8aebf4c76deb3701cf07fd84ec30de7e4158035b24", func := "herald/heraldlaw06.FrameReads", spec := "frameReads", unfollowed := true, recurses := true, named := ["herald/frame.kinds"], apart := false, laid := [("herald/frame.kinds", laid_herald_frame_kinds)] }
def FrameReadsSaid : Prop := frameReadsRow.holds Tryd.pinned (OpenSpec.ofChange frameReadsSpec)

/-- ITS FALSE NEIGHBOUR: 'it returns false'. Refute it at one input. -/
def frameReadsWrong : ChangeSpec := { name := "frameReads", fn := fun _ => fun
  | [d1, d2] => { results := [.lit (.bool false)], args := [d1, d2] }
  | _ => none }
def FrameReadsWrongFalsely : Prop := frameReadsRow.holds Tryd.pinned (OpenSpec.ofChange frameReadsWrong)

/-- 'heraldlaw06.FrameWrites': WHATEVER THE INPUT: true; the input reads as it did. -/
def frameWritesSpec : ChangeSpec := { name := "frameWrites", fn := fun _ => fun
  | [d] => { results := [.lit (.bool true)], args := [d] }
  | _ => none }
def frameWritesRow : OpenClaim := { program := "ytjigjckclpccmaadoor", sum := "626f34c8b19aecf4fdacff8aebf4c76deb3701cf07fd84ec30de7e4158035b24", func := "herald/heraldlaw06.FrameWrites", spec := "frameWrites", unfollowed := true, recurses := true, named := ["herald/frame.kinds"], apart := false, laid := [("herald/frame.kinds", laid_herald_frame_kinds)] }
def FrameWritesSaid : Prop := frameWritesRow.holds Tryd.pinned (OpenSpec.ofChange frameWritesSpec)

/-- ITS FALSE NEIGHBOUR: 'it returns false'. Refute it at one input. -/
def frameWritesWrong : ChangeSpec := { name := "frameWrites", fn := fun _ => fun
  | [d] => { results := [.lit (.bool false)], args := [d] }
  | _ => none }
def FrameWritesWrongFalsely : Prop := frameWritesRow.holds Tryd.pinned (OpenSpec.ofChange frameWritesWrong)

/- THE SECOND FORM. 'bulk': how many values and letters a reading holds, each counted each time it is reached (what is shared counts as often as it is met; a slice's spare places count too). A statement '..UptoSaid' is the law's where the arguments, and the package variables that the reading takes, are together of bulk at most 1048576: NARROWER than '..Said'. Prove '..Said' where nothing that the law and all that it calls make is longer than what came in: it says more and counts as full. Else prove '..UptoSaid'. A law counts once. -/
mutual
def uptoBulk {H : Type} : DataW H → Nat
  | .lit (.string bytes) => bytes.length + 1
  | .lit _ => 1
  | .nil => 1
  | .ptr d => uptoBulk d + 1
  | .slice elems spare => uptoBulkAll elems + uptoBulkAll spare + 1
  | .agg parts => uptoBulkAll parts + 1
  | .iface _ d => uptoBulk d + 1
  | .map entries => uptoBulkEntries entries + 1
  | .held _ => 1
def uptoBulkAll {H : Type} : List (DataW H) → Nat
  | [] => 0
  | d :: r => uptoBulk d + uptoBulkAll r
def uptoBulkEntries {H : Type} : List (Lit × DataW H) → Nat
  | [] => 0
  | x :: r => uptoBulkEntry x + uptoBulkEntries r
def uptoBulkEntry {H : Type} : Lit × DataW H → Nat
  | (.string bytes, d) => bytes.length + uptoBulk d + 1
  | (_, d) => uptoBulk d + 1
 end
def uptoSmall : (H : Type) → List (DataW H) → Bool := fun _ ds => decide (uptoBulkAll ds ≤ 1048576)
def OpenSpec.upto (s : _root_.Go.ChangeSpec) : _root_.Go.OpenSpec := { _root_.Go.OpenSpec.ofChange s with cond := some uptoSmall }

/-- 'heraldlaw06.FrameApart', WHERE WHAT IT READS IS OF BULK AT MOST 1048576: true; the input reads as it did. -/
def frameApartUptoRow : OpenClaim := { program := "ytjigjckclpccmaadoor", sum := "626f34c8b19aecf4fdacff8aebf4c76deb3701cf07fd84ec30de7e4158035b24", func := "herald/heraldlaw06.FrameApart", spec := "frameApart", unfollowed := true, recurses := true, named := ["herald/frame.kinds"], apart := false, laid := [("herald/frame.kinds", laid_herald_frame_kinds)], narrowed := true }
def FrameApartUptoSaid : Prop := frameApartUptoRow.holds Tryd.pinned (OpenSpec.upto frameApartSpec)

/-- 'heraldlaw06.FrameBack', WHERE WHAT IT READS IS OF BULK AT MOST 1048576: true; the input reads as it did. -/
def frameBackUptoRow : OpenClaim := { program := "ytjigjckclpccmaadoor", sum := "626f34c8b19aecf4fdacff8aebf4c76deb3701cf07fd84ec30de7e4158035b24", func := "herald/heraldlaw06.FrameBack", spec := "frameBack", unfollowed := true, recurses := true, named := ["herald/frame.kinds"], apart := false, laid := [("herald/frame.kinds", laid_herald_frame_kinds)], narrowed := true }
def FrameBackUptoSaid : Prop := frameBackUptoRow.holds Tryd.pinned (OpenSpec.upto frameBackSpec)

/-- 'heraldlaw06.FrameRefuses', WHERE WHAT IT READS IS OF BULK AT MOST 1048576: true; the input reads as it did. -/
def frameRefusesUptoRow : OpenClaim := { program := "ytjigjckclpccmaadoor", sum := "626f34c8b19aecf4fdacff8aebf4c76deb3701cf07fd84ec30de7e4158035b24", func := "herald/heraldlaw06.FrameRefuses", spec := "frameRefuses", unfollowed := true, recurses := true, named := ["herald/frame.kinds"], apart := false, laid := [("herald/frame.kinds", laid_herald_frame_kinds)], narrowed := true }
def FrameRefusesUptoSaid : Prop := frameRefusesUptoRow.holds Tryd.pinned (OpenSpec.upto frameRefusesSpec)

/-- 'heraldlaw06.FrameOne', WHERE WHAT IT READS IS OF BULK AT MOST 1048576: true; the input reads as it did. -/
def frameOneUptoRow : OpenClaim := { program := "ytjigjckclpccmaadoor", sum := "626f34c8b19aecf4fdacff8aebf4c76deb3701cf07fd84ec30de7e4158035b24", func := "herald/heraldlaw06.FrameOne", spec := "frameOne", unfollowed := true, recurses := true, named := ["herald/frame.kinds"], apart := false, laid := [("herald/frame.kinds", laid_herald_frame_kinds)], narrowed := true }
def FrameOneUptoSaid : Prop := frameOneUptoRow.holds Tryd.pinned (OpenSpec.upto frameOneSpec)

/-- 'heraldlaw06.FrameReads', WHERE WHAT IT READS IS OF BULK AT MOST 1048576: true; the input reads as it did. -/
def frameReadsUptoRow : OpenClaim := { program := "ytjigjckclpccmaadoor", sum := "626f34c8b19aecf4fdacff8aebf4c76deb3701cf07fd84ec30de7e4158035b24", func := "herald/heraldlaw06.FrameReads", spec := "frameReads", unfollowed := true, recurses := true, named := ["herald/frame.kinds"], apart := false, laid := [("herald/frame.kinds", laid_herald_frame_kinds)], narrowed := true }
def FrameReadsUptoSaid : Prop := frameReadsUptoRow.holds Tryd.pinned (OpenSpec.upto frameReadsSpec)

/-- 'heraldlaw06.FrameWrites', WHERE WHAT IT READS IS OF BULK AT MOST 1048576: true; the input reads as it did. -/
def frameWritesUptoRow : OpenClaim := { program := "ytjigjckclpccmaadoor", sum := "626f34c8b19aecf4fdacff8aebf4c76deb3701cf07fd84ec30de7e4158035b24", func := "herald/heraldlaw06.FrameWrites", spec := "frameWrites", unfollowed := true, recurses := true, named := ["herald/frame.kinds"], apart := false, laid := [("herald/frame.kinds", laid_herald_frame_kinds)], narrowed := true }
def FrameWritesUptoSaid : Prop := frameWritesUptoRow.holds Tryd.pinned (OpenSpec.upto frameWritesSpec)

end Rows
end Go.Proofs.YtjigjckclpccmaaDoor
