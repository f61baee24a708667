/-
  NARROWER THAN 'FOR EVERY INPUT', by the rows' own cells (each row's printed sentence says how): TraceFront: laid · TraceTurned: laid · TraceRight: laid · TraceWindows: laid · TraceHonest: laid · TraceSpoilt: laid.
  DERIVED. THE GIVEN ROWS OF THIS SEAT. 6 by the template 'for every input the law returns true; each argument reads behind the call as it read before'; 0 by the template 'total and deterministic' (their statements: YtfmljlflnpmceaaGreatDoorTotals.lean).
  GIVEN WITH THE SEED: the statements are not yours to turn. If you find one false, say at which input.
  Laid BY PROGRAM, IN A SANDBOX (cutbox-rows.mjs): the forced cells as the released guide's own fill.sh prints them over the translation f3a7c948b6b86d6a… (all of the seat's roots in one cut). By AI agents, Wed Nov 11 2026. No macro, syntax, notation, axiom, sorry.
-/
import Derived.Test.YtfmljlflnpmceaaGreatDoorChecked
import GoSem.Claim
import GoSem.ClaimJoined
import GoSem.ClaimMapViews
import Derived.JoinedTies
import Derived.KernelRfl
namespace Go.Proofs.YtfmljlflnpmceaaGreatDoor
/- THE CELL 'sum', in the pinned program and in every row, IS THE sha256 OF THE DUMP (.gsa) THAT YtfmljlflnpmceaaGreatDoorProg.lean LOADS. Nothing in Lean hashes anything: it is a label: what it is worth is what the hold of that sum in a sandbox is worth. -/
noncomputable def Tryz.pinned : Pinned := { name := "ytfmljlflnpmceaagreatdoor", sum := "f3a7c948b6b86d6a96976b8c29167a7184e79ffab3d20d96781b1ee6298c7d84", checked := Tryz.checked }
namespace Rows
def none {H : Type} : Left H := { results := [], args := [] }

/- WHAT THE LISTED PACKAGE-LEVEL VARIABLES READ AS WHEN THE CALL BEGINS. Each datum BY PROGRAM (the guide's laid-datum.mjs) off the statement by which the dump's own 'gosem.cut.vars' lays the variable. In a bare row this is a premise. The card (YtfmljlflnpmceaaGreatDoorCards.lean) ties it to the program's text. -/
def laid_herald_setting_standard {H : Type} : DataW H := .agg [.lit (.int .i64 4096), .lit (.int .i64 1), .lit (.int .i64 2147483647), .lit (.int .i64 65535), .lit (.int .i64 16384), .lit (.int .i64 2147483647)]
def laid_herald_frame_kinds {H : Type} : DataW H := .agg [.agg [.lit (.int .i64 9), .lit (.int .i64 1), .lit (.int .i64 2147483647)], .agg [.lit (.int .i64 45), .lit (.int .i64 1), .lit (.int .i64 2147483647)], .agg [.lit (.int .i64 0), .lit (.int .i64 1), .lit (.int .i64 2147483647)], .agg [.lit (.int .i64 0), .lit (.int .i64 1), .lit (.int .i64 2147483647)], .agg [.lit (.int .i64 1), .lit (.int .i64 0), .lit (.int .i64 0)], .agg [.lit (.int .i64 12), .lit (.int .i64 1), .lit (.int .i64 2147483647)], .agg [.lit (.int .i64 1), .lit (.int .i64 0), .lit (.int .i64 0)], .agg [.lit (.int .i64 0), .lit (.int .i64 0), .lit (.int .i64 0)], .agg [.lit (.int .i64 0), .lit (.int .i64 0), .lit (.int .i64 2147483647)], .agg [.lit (.int .i64 4), .lit (.int .i64 1), .lit (.int .i64 2147483647)], .agg [.lit (.int .i64 255), .lit (.int .i64 0), .lit (.int .i64 2147483647)]]

/-- 'heraldlaw24.TraceFront': WHATEVER THE INPUT: true; the input reads as it did. -/
def traceFrontSpec : ChangeSpec := { name := "traceFront", fn := fun _ => fun
  | [d1, d2, d3] => { results := [.lit (.bool true)], args := [d1, d2, d3] }
  | _ => none }
def traceFrontRow : OpenClaim := { program := "ytfmljlflnpmceaagreatdoor", sum := "f3a7c948b6b86d6a96976b8c29167a7184e79ffab3d20d96781b1ee6298c7d84", func := "herald/heraldlaw24.TraceFront", spec := "traceFront", unfollowed := true, recurses := true, named := ["herald/setting.standard", "herald/frame.kinds"], apart := false, laid := [("herald/setting.standard", laid_herald_setting_standard), ("herald/frame.kinds", laid_herald_frame_kinds)] }
def TraceFrontSaid : Prop := traceFrontRow.holds Tryz.pinned (OpenSpec.ofChange traceFrontSpec)

/-- ITS FALSE NEIGHBOUR: 'it returns false'. Refute it at one input. -/
def traceFrontWrong : ChangeSpec := { name := "traceFront", fn := fun _ => fun
  | [d1, d2, d3] => { results := [.lit (.bool false)], args := [d1, d2, d3] }
  | _ => none }
def TraceFrontWrongFalsely : Prop := traceFrontRow.holds Tryz.pinned (OpenSpec.ofChange traceFrontWrong)

/-- 'heraldlaw24.TraceTurned': WHATEVER THE INPUT: true; the input reads as it did. -/
def traceTurnedSpec : ChangeSpec := { name := "traceTurned", fn := fun _ => fun
  | [d1, d2] => { results := [.lit (.bool true)], args := [d1, d2] }
  | _ => none }
def traceTurnedRow : OpenClaim := { program := "ytfmljlflnpmceaagreatdoor", sum := "f3a7c948b6b86d6a96976b8c29167a7184e79ffab3d20d96781b1ee6298c7d84", func := "herald/heraldlaw24.TraceTurned", spec := "traceTurned", unfollowed := true, recurses := true, named := ["herald/setting.standard", "herald/frame.kinds"], apart := false, laid := [("herald/setting.standard", laid_herald_setting_standard), ("herald/frame.kinds", laid_herald_frame_kinds)] }
def TraceTurnedSaid : Prop := traceTurnedRow.holds Tryz.pinned (OpenSpec.ofChange traceTurnedSpec)

/-- ITS FALSE NEIGHBOUR: 'it returns false'. Refute it at one input. -/
def traceTurnedWrong : ChangeSpec := { name := "traceTurned", fn := fun _ => fun
  | [d1, d2] => { results := [.lit (.bool false)], args := [d1, d2] }
  | _ => none }
def TraceTurnedWrongFalsely : Prop := traceTurnedRow.holds Tryz.pinned (OpenSpec.ofChange traceTurnedWrong)

/-- 'heraldlaw24.TraceRight': WHATEVER THE INPUT: true; the input reads as it did. -/
def traceRightSpec : ChangeSpec := { name := "traceRight", fn := fun _ => fun
  | [d1, d2] => { results := [.lit (.bool true)], args := [d1, d2] }
  | _ => none }
def traceRightRow : OpenClaim := { program := "ytfmljlflnpmceaagreatdoor", sum := "f3a7c948b6b86d6a96976b8c29167a7184e79ffab3d20d96781b1ee6298c7d84", func := "herald/heraldlaw24.TraceRight", spec := "traceRight", unfollowed := true, recurses := true, named := ["herald/setting.standard", "herald/frame.kinds"], apart := false, laid := [("herald/setting.standard", laid_herald_setting_standard), ("herald/frame.kinds", laid_herald_frame_kinds)] }
def TraceRightSaid : Prop := traceRightRow.holds Tryz.pinned (OpenSpec.ofChange traceRightSpec)

/-- ITS FALSE NEIGHBOUR: 'it returns false'. Refute it at one input. -/
def traceRightWrong : ChangeSpec := { name := "traceRight", fn := fun _ => fun
  | [d1, d2] => { results := [.lit (.bool false)], args := [d1, d2] }
  | _ => none }
def TraceRightWrongFalsely : Prop := traceRightRow.holds Tryz.pinned (OpenSpec.ofChange traceRightWrong)

/-- 'heraldlaw24.TraceWindows': WHATEVER THE INPUT: true; the input reads as it did. -/
def traceWindowsSpec : ChangeSpec := { name := "traceWindows", fn := fun _ => fun
  | [d1, d2, d3] => { results := [.lit (.bool true)], args := [d1, d2, d3] }
  | _ => none }
def traceWindowsRow : OpenClaim := { program := "ytfmljlflnpmceaagreatdoor", sum := "f3a7c948b6b86d6a96976b8c29167a7184e79ffab3d20d96781b1ee6298c7d84", func := "herald/heraldlaw24.TraceWindows", spec := "traceWindows", unfollowed := true, recurses := true, named := ["herald/setting.standard", "herald/frame.kinds"], apart := false, laid := [("herald/setting.standard", laid_herald_setting_standard), ("herald/frame.kinds", laid_herald_frame_kinds)] }
def TraceWindowsSaid : Prop := traceWindowsRow.holds Tryz.pinned (OpenSpec.ofChange traceWindowsSpec)

/-- ITS FALSE NEIGHBOUR: 'it returns false'. Refute it at one input. -/
def traceWindowsWrong : ChangeSpec := { name := "traceWindows", fn := fun _ => fun
  | [d1, d2, d3] => { results := [.lit (.bool false)], args := [d1, d2, d3] }
  | _ => none }
def TraceWindowsWrongFalsely : Prop := traceWindowsRow.holds Tryz.pinned (OpenSpec.ofChange traceWindowsWrong)

/-- 'heraldlaw24.TraceHonest': WHATEVER THE INPUT: true; the input reads as it did. -/
def traceHonestSpec : ChangeSpec := { name := "traceHonest", fn := fun _ => fun
  | [d] => { results := [.lit (.bool true)], args := [d] }
  | _ => none }
def traceHonestRow : OpenClaim := { program := "ytfmljlflnpmceaagreatdoor", sum := "f3a7c948b6b86d6a96976b8c29167a7184e79ffab3d20d96781b1ee6298c7d84", func := "herald/heraldlaw24.TraceHonest", spec := "traceHonest", unfollowed := true, recurses := true, named := ["herald/setting.standard", "herald/frame.kinds"], apart := false, laid := [("herald/setting.standard", laid_herald_setting_standard), ("herald/frame.kinds", laid_herald_frame_kinds)] }
def TraceHonestSaid : Prop := traceHonestRow.holds Tryz.pinned (OpenSpec.ofChange traceHonestSpec)

/-- ITS FALSE NEIGHBOUR: 'it returns false'. Refute it at one input. -/
def traceHonestWrong : ChangeSpec := { name := "traceHonest", fn := fun _ => fun
  | [d] => { results := [.lit (.bool false)], args := [d] }
  | _ => none }
def TraceHonestWrongFalsely : Prop := traceHonestRow.holds Tryz.pinned (OpenSpec.ofChange traceHonestWrong)

/-- 'heraldlaw24.TraceSpoilt': WHATEVER THE INPUT: true; the input reads as it did. -/
def traceSpoiltSpec : ChangeSpec := { name := "traceSpoilt", fn := fun _ => fun
  | [d1, d2, d3] => { results := [.lit (.bool true)], args := [d1, d2, d3] }
  | _ => none }
def traceSpoiltRow : OpenClaim := { program := "ytfmljlflnpmceaagreatdoor", sum := "f3a7c948b6b86d6a96976b8c29167a7184e79ffab3d20d96781b1ee6298c7d84", func := "herald/heraldlaw24.TraceSpoilt", spec := "traceSpoilt", unfollowed := true, recurses := true, named := ["herald/setting.standard", "herald/frame.kinds"], apart := false, laid := [("herald/setting.standard", laid_herald_setting_standard), ("herald/frame.kinds", laid_herald_frame_kinds)] }
def TraceSpoiltSaid : Prop := traceSpoiltRow.holds Tryz.pinned (OpenSpec.ofChange traceSpoiltSpec)

/-- ITS FALSE NEIGHBOUR: 'it returns false'. Refute it at one input. -/
def traceSpoiltWrong : ChangeSpec := { name := "traceSpoilt", fn := fun _ => fun
  | [d1, d2, d3] => { results := [.lit (.bool false)], args := [d1, d2, d3] }
  | _ => none }
def TraceSpoiltWrongFalsely : Prop := traceSpoiltRow.holds Tryz.pinned (OpenSpec.ofChange traceSpoiltWrong)

/- THE SECOND FORM. 'bulk': how many values and letters a reading holds, each counted each time it is reached (what is shared counts as often as it is met; a slice's spare places count too). A statement '..UptoSaid' is the law's where the arguments, and the package variables that the reading takes, are together of bulk at most 1048576: NARROWER than '..Said'. Prove '..Said' where nothing that the law and all that it calls make is longer than what came in: it says more and counts as full. Else prove '..UptoSaid'. A law counts once. -/
mutual
def uptoBulk {H : Type} : DataW H → Nat
  | .lit (.string bytes) => bytes.length + 1
  | .lit _ => 1
  | .nil => 1
  | .ptr d => uptoBulk d + 1
  | .slice elems spare => uptoBulkAll elems + uptoBulkAll spare + 1
  | .agg parts => uptoBulkAll parts + 1
  | .iface _ d => uptoBulk d + 1
  | .map entries => uptoBulkEntries entries + 1
  | .held _ => 1
def uptoBulkAll {H : Type} : List (DataW H) → Nat
  | [] => 0
  | d :: r => uptoBulk d + uptoBulkAll r
def uptoBulkEntries {H : Type} : List (Lit × DataW H) → Nat
  | [] => 0
  | x :: r => uptoBulkEntry x + uptoBulkEntries r
def uptoBulkEntry {H : Type} : Lit × DataW H → Nat
  | (.string bytes, d) => bytes.length + uptoBulk d + 1
  | (_, d) => uptoBulk d + 1
 end
def uptoSmall : (H : Type) → List (DataW H) → Bool := fun _ ds => decide (uptoBulkAll ds ≤ 1048576)
def OpenSpec.upto (s : _root_.Go.ChangeSpec) : _root_.Go.OpenSpec := { _root_.Go.OpenSpec.ofChange s with cond := some uptoSmall }

/-- 'heraldlaw24.TraceFront', WHERE WHAT IT READS IS OF BULK AT MOST 1048576: true; the input reads as it did. -/
def traceFrontUptoRow : OpenClaim := { program := "ytfmljlflnpmceaagreatdoor", sum := "f3a7c948b6b86d6a96976b8c29167a7184e79ffab3d20d96781b1ee6298c7d84", func := "herald/heraldlaw24.TraceFront", spec := "traceFront", unfollowed := true, recurses := true, named := ["herald/setting.standard", "herald/frame.kinds"], apart := false, laid := [("herald/setting.standard", laid_herald_setting_standard), ("herald/frame.kinds", laid_herald_frame_kinds)], narrowed := true }
def TraceFrontUptoSaid : Prop := traceFrontUptoRow.holds Tryz.pinned (OpenSpec.upto traceFrontSpec)

/-- 'heraldlaw24.TraceTurned', WHERE WHAT IT READS IS OF BULK AT MOST 1048576: true; the input reads as it did. -/
def traceTurnedUptoRow : OpenClaim := { program := "ytfmljlflnpmceaagreatdoor", sum := "f3a7c948b6b86d6a96976b8c29167a7184e79ffab3d20d96781b1ee6298c7d84", func := "herald/heraldlaw24.TraceTurned", spec := "traceTurned", unfollowed := true, recurses := true, named := ["herald/setting.standard", "herald/frame.kinds"], apart := false, laid := [("herald/setting.standard", laid_herald_setting_standard), ("herald/frame.kinds", laid_herald_frame_kinds)], narrowed := true }
def TraceTurnedUptoSaid : Prop := traceTurnedUptoRow.holds Tryz.pinned (OpenSpec.upto traceTurnedSpec)

/-- 'heraldlaw24.TraceRight', WHERE WHAT IT READS IS OF BULK AT MOST 1048576: true; the input reads as it did. -/
def traceRightUptoRow : OpenClaim := { program := "ytfmljlflnpmceaagreatdoor", sum := "f3a7c948b6b86d6a96976b8c29167a7184e79ffab3d20d96781b1ee6298c7d84", func := "herald/heraldlaw24.TraceRight", spec := "traceRight", unfollowed := true, recurses := true, named := ["herald/setting.standard", "herald/frame.kinds"], apart := false, laid := [("herald/setting.standard", laid_herald_setting_standard), ("herald/frame.kinds", laid_herald_frame_kinds)], narrowed := true }
def TraceRightUptoSaid : Prop := traceRightUptoRow.holds Tryz.pinned (OpenSpec.upto traceRightSpec)

/-- 'heraldlaw24.TraceWindows', WHERE WHAT IT READS IS OF BULK AT MOST 1048576: true; the input reads as it did. -/
def traceWindowsUptoRow : OpenClaim := { program := "ytfmljlflnpmceaagreatdoor", sum := "f3a7c948b6b86d6a96976b8c29167a7184e79ffab3d20d96781b1ee6298c7d84", func := "herald/heraldlaw24.TraceWindows", spec := "traceWindows", unfollowed := true, recurses := true, named := ["herald/setting.standard", "herald/frame.kinds"], apart := false, laid := [("herald/setting.standard", laid_herald_setting_standard), ("herald/frame.kinds", laid_herald_frame_kinds)], narrowed := true }
def TraceWindowsUptoSaid : Prop := traceWindowsUptoRow.holds Tryz.pinned (OpenSpec.upto traceWindowsSpec)

/-- 'heraldlaw24.TraceHonest', WHERE WHAT IT READS IS OF BULK AT MOST 1048576: true; the input reads as it did. -/
def traceHonestUptoRow : OpenClaim := { program := "ytfmljlflnpmceaagreatdoor", sum := "f3a7c948b6b86d6a96976b8c29167a7184e79ffab3d20d96781b1ee6298c7d84", func := "herald/heraldlaw24.TraceHonest", spec := "traceHonest", unfollowed := true, recurses := true, named := ["herald/setting.standard", "herald/frame.kinds"], apart := false, laid := [("herald/setting.standard", laid_herald_setting_standard), ("herald/frame.kinds", laid_herald_frame_kinds)], narrowed := true }
def TraceHonestUptoSaid : Prop := traceHonestUptoRow.holds Tryz.pinned (OpenSpec.upto traceHonestSpec)

/-- 'heraldlaw24.TraceSpoilt', WHERE WHAT IT READS IS OF BULK AT MOST 1048576: true; the input reads as it did. -/
def traceSpoiltUptoRow : OpenClaim := { program := "ytfmljlflnpmceaagreatdoor", sum := "f3a7c948b6b86d6a96976b8c29167a7184e79ffab3d20d96781b1ee6298c7d84", func := "herald/heraldlaw24.TraceSpoilt", spec := "traceSpoilt", unfollowed := true, recurses := true, named := ["herald/setting.standard", "herald/frame.kinds"], apart := false, laid := [("herald/setting.standard", laid_herald_setting_standard), ("herald/frame.kinds", laid_herald_frame_kinds)], narrowed := true }
def TraceSpoiltUptoSaid : Prop := traceSpoiltUptoRow.holds Tryz.pinned (OpenSpec.upto traceSpoiltSpec)

end Rows
end Go.Proofs.YtfmljlflnpmceaaGreatDoor
