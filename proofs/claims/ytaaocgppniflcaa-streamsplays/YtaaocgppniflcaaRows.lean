/-
  No cell of these rows narrows 'for every input' (looked for: loops, veiled, ifaces, maps, wideKeys, modest, calm, conditions, laid).
  DERIVED. THE GIVEN ROWS OF THIS SEAT. 5 by the template 'for every input the law returns true; each argument reads behind the call as it read before'; 0 by the template 'total and deterministic' (their statements: YtaaocgppniflcaaTotals.lean).
  GIVEN WITH THE SEED: the statements are not yours to turn. If you find one false, say at which input.
  Laid BY PROGRAM, IN A SANDBOX (cutbox-rows.mjs): the forced cells as the released guide's own fill.sh prints them over the translation a5ef0114da52a87d… (all of the seat's roots in one cut). By AI agents, Wed Nov 11 2026. No macro, syntax, notation, axiom, sorry.
-/
import Derived.Test.YtaaocgppniflcaaChecked
import GoSem.Claim
import GoSem.ClaimJoined
import GoSem.ClaimMapViews
import Derived.JoinedTies
import Derived.KernelRfl
namespace Go.Proofs.Ytaaocgppniflcaa
/- THE CELL 'sum', in the pinned program and in every row, IS THE sha256 OF THE DUMP (.gsa) THAT YtaaocgppniflcaaProg.lean LOADS. Nothing in Lean hashes anything: it is a label: what it is worth is what the hold of that sum in a sandbox is worth. -/
noncomputable def Try.pinned : Pinned := { name := "ytaaocgppniflcaa", sum := "a5ef0114da52a87d358ae022d1c96bd9bc9b4228cbf1e385e2e858503120f98b", checked := Try.checked }
namespace Rows
def none {H : Type} : Left H := { results := [], args := [] }

/-- 'heraldlaw11.StreamsApart': WHATEVER THE INPUT: true; the input reads as it did. -/
def streamsApartSpec : ChangeSpec := { name := "streamsApart", fn := fun _ => fun
  | [d1, d2] => { results := [.lit (.bool true)], args := [d1, d2] }
  | _ => none }
def streamsApartRow : OpenClaim := { program := "ytaaocgppniflcaa", sum := "a5ef0114da52a87d358ae022d1c96bd9bc9b4228cbf1e385e2e858503120f98b", func := "herald/heraldlaw11.StreamsApart", spec := "streamsApart", unfollowed := true, recurses := true, apart := false }
def StreamsApartSaid : Prop := streamsApartRow.holds Try.pinned (OpenSpec.ofChange streamsApartSpec)

/-- ITS FALSE NEIGHBOUR: 'it returns false'. Refute it at one input. -/
def streamsApartWrong : ChangeSpec := { name := "streamsApart", fn := fun _ => fun
  | [d1, d2] => { results := [.lit (.bool false)], args := [d1, d2] }
  | _ => none }
def StreamsApartWrongFalsely : Prop := streamsApartRow.holds Try.pinned (OpenSpec.ofChange streamsApartWrong)

/-- 'heraldlaw11.StreamsBirths': WHATEVER THE INPUT: true; the input reads as it did. -/
def streamsBirthsSpec : ChangeSpec := { name := "streamsBirths", fn := fun _ => fun
  | [d1, d2] => { results := [.lit (.bool true)], args := [d1, d2] }
  | _ => none }
def streamsBirthsRow : OpenClaim := { program := "ytaaocgppniflcaa", sum := "a5ef0114da52a87d358ae022d1c96bd9bc9b4228cbf1e385e2e858503120f98b", func := "herald/heraldlaw11.StreamsBirths", spec := "streamsBirths", unfollowed := true, recurses := true, apart := false }
def StreamsBirthsSaid : Prop := streamsBirthsRow.holds Try.pinned (OpenSpec.ofChange streamsBirthsSpec)

/-- ITS FALSE NEIGHBOUR: 'it returns false'. Refute it at one input. -/
def streamsBirthsWrong : ChangeSpec := { name := "streamsBirths", fn := fun _ => fun
  | [d1, d2] => { results := [.lit (.bool false)], args := [d1, d2] }
  | _ => none }
def StreamsBirthsWrongFalsely : Prop := streamsBirthsRow.holds Try.pinned (OpenSpec.ofChange streamsBirthsWrong)

/-- 'heraldlaw11.StreamsEnds': WHATEVER THE INPUT: true; the input reads as it did. -/
def streamsEndsSpec : ChangeSpec := { name := "streamsEnds", fn := fun _ => fun
  | [d] => { results := [.lit (.bool true)], args := [d] }
  | _ => none }
def streamsEndsRow : OpenClaim := { program := "ytaaocgppniflcaa", sum := "a5ef0114da52a87d358ae022d1c96bd9bc9b4228cbf1e385e2e858503120f98b", func := "herald/heraldlaw11.StreamsEnds", spec := "streamsEnds", unfollowed := true, recurses := true, apart := false }
def StreamsEndsSaid : Prop := streamsEndsRow.holds Try.pinned (OpenSpec.ofChange streamsEndsSpec)

/-- ITS FALSE NEIGHBOUR: 'it returns false'. Refute it at one input. -/
def streamsEndsWrong : ChangeSpec := { name := "streamsEnds", fn := fun _ => fun
  | [d] => { results := [.lit (.bool false)], args := [d] }
  | _ => none }
def StreamsEndsWrongFalsely : Prop := streamsEndsRow.holds Try.pinned (OpenSpec.ofChange streamsEndsWrong)

/-- 'heraldlaw11.StreamsLate': WHATEVER THE INPUT: true; the input reads as it did. -/
def streamsLateSpec : ChangeSpec := { name := "streamsLate", fn := fun _ => fun
  | [d1, d2, d3, d4] => { results := [.lit (.bool true)], args := [d1, d2, d3, d4] }
  | _ => none }
def streamsLateRow : OpenClaim := { program := "ytaaocgppniflcaa", sum := "a5ef0114da52a87d358ae022d1c96bd9bc9b4228cbf1e385e2e858503120f98b", func := "herald/heraldlaw11.StreamsLate", spec := "streamsLate", unfollowed := true, recurses := true, apart := false }
def StreamsLateSaid : Prop := streamsLateRow.holds Try.pinned (OpenSpec.ofChange streamsLateSpec)

/-- ITS FALSE NEIGHBOUR: 'it returns false'. Refute it at one input. -/
def streamsLateWrong : ChangeSpec := { name := "streamsLate", fn := fun _ => fun
  | [d1, d2, d3, d4] => { results := [.lit (.bool false)], args := [d1, d2, d3, d4] }
  | _ => none }
def StreamsLateWrongFalsely : Prop := streamsLateRow.holds Try.pinned (OpenSpec.ofChange streamsLateWrong)

/-- 'heraldlaw11.StreamsPlays': WHATEVER THE INPUT: true; the input reads as it did. -/
def streamsPlaysSpec : ChangeSpec := { name := "streamsPlays", fn := fun _ => fun
  | [d] => { results := [.lit (.bool true)], args := [d] }
  | _ => none }
def streamsPlaysRow : OpenClaim := { program := "ytaaocgppniflcaa", sum := "a5ef0114da52a87d358ae022d1c96bd9bc9b4228cbf1e385e2e858503120f98b", func := "herald/heraldlaw11.StreamsPlays", spec := "streamsPlays", unfollowed := true, recurses := true, apart := false }
def StreamsPlaysSaid : Prop := streamsPlaysRow.holds Try.pinned (OpenSpec.ofChange streamsPlaysSpec)

/-- ITS FALSE NEIGHBOUR: 'it returns false'. Refute it at one input. -/
def streamsPlaysWrong : ChangeSpec := { name := "streamsPlays", fn := fun _ => fun
  | [d] => { results := [.lit (.bool false)], args := [d] }
  | _ => none }
def StreamsPlaysWrongFalsely : Prop := streamsPlaysRow.holds Try.pinned (OpenSpec.ofChange streamsPlaysWrong)

/- THE SECOND FORM. 'bulk': how many values and letters a reading holds, each counted each time it is reached (what is shared counts as often as it is met; a slice's spare places count too). A statement '..UptoSaid' is the law's where the arguments, and the package variables that the reading takes, are together of bulk at most 1048576: NARROWER than '..Said'. Prove '..Said' where nothing that the law and all that it calls make is longer than what came in: it says more and counts as full. Else prove '..UptoSaid'. A law counts once. -/
mutual
def uptoBulk {H : Type} : DataW H → Nat
  | .lit (.string bytes) => bytes.length + 1
  | .lit _ => 1
  | .nil => 1
  | .ptr d => uptoBulk d + 1
  | .slice elems spare => uptoBulkAll elems + uptoBulkAll spare + 1
  | .agg parts => uptoBulkAll parts + 1
  | .iface _ d => uptoBulk d + 1
  | .map entries => uptoBulkEntries entries + 1
  | .held _ => 1
def uptoBulkAll {H : Type} : List (DataW H) → Nat
  | [] => 0
  | d :: r => uptoBulk d + uptoBulkAll r
def uptoBulkEntries {H : Type} : List (Lit × DataW H) → Nat
  | [] => 0
  | x :: r => uptoBulkEntry x + uptoBulkEntries r
def uptoBulkEntry {H : Type} : Lit × DataW H → Nat
  | (.string bytes, d) => bytes.length + uptoBulk d + 1
  | (_, d) => uptoBulk d + 1
 end
def uptoSmall : (H : Type) → List (DataW H) → Bool := fun _ ds => decide (uptoBulkAll ds ≤ 1048576)
def OpenSpec.upto (s : _root_.Go.ChangeSpec) : _root_.Go.OpenSpec := { _root_.Go.OpenSpec.ofChange s with cond := some uptoSmall }

/-- 'heraldlaw11.StreamsApart', WHERE WHAT IT READS IS OF BULK AT MOST 1048576: true; the input reads as it did. -/
def streamsApartUptoRow : OpenClaim := { program := "ytaaocgppniflcaa", sum := "a5ef0114da52a87d358ae022d1c96bd9bc9b4228cbf1e385e2e858503120f98b", func := "herald/heraldlaw11.StreamsApart", spec := "streamsApart", unfollowed := true, recurses := true, apart := false, narrowed := true }
def StreamsApartUptoSaid : Prop := streamsApartUptoRow.holds Try.pinned (OpenSpec.upto streamsApartSpec)

/-- 'heraldlaw11.StreamsBirths', WHERE WHAT IT READS IS OF BULK AT MOST 1048576: true; the input reads as it did. -/
def streamsBirthsUptoRow : OpenClaim := { program := "ytaaocgppniflcaa", sum := "a5ef0114da52a87d358ae022d1c96bd9bc9b4228cbf1e385e2e858503120f98b", func := "herald/heraldlaw11.StreamsBirths", spec := "streamsBirths", unfollowed := true, recurses := true, apart := false, narrowed := true }
def StreamsBirthsUptoSaid : Prop := streamsBirthsUptoRow.holds Try.pinned (OpenSpec.upto streamsBirthsSpec)

/-- 'heraldlaw11.StreamsEnds', WHERE WHAT IT READS IS OF BULK AT MOST 1048576: true; the input reads as it did. -/
def streamsEndsUptoRow : OpenClaim := { program := "ytaaocgppniflcaa", sum := "a5ef0114da52a87d358ae022d1c96bd9bc9b4228cbf1e385e2e858503120f98b", func := "herald/heraldlaw11.StreamsEnds", spec := "streamsEnds", unfollowed := true, recurses := true, apart := false, narrowed := true }
def StreamsEndsUptoSaid : Prop := streamsEndsUptoRow.holds Try.pinned (OpenSpec.upto streamsEndsSpec)

/-- 'heraldlaw11.StreamsLate', WHERE WHAT IT READS IS OF BULK AT MOST 1048576: true; the input reads as it did. -/
def streamsLateUptoRow : OpenClaim := { program := "ytaaocgppniflcaa", sum := "a5ef0114da52a87d358ae022d1c96bd9bc9b4228cbf1e385e2e858503120f98b", func := "herald/heraldlaw11.StreamsLate", spec := "streamsLate", unfollowed := true, recurses := true, apart := false, narrowed := true }
def StreamsLateUptoSaid : Prop := streamsLateUptoRow.holds Try.pinned (OpenSpec.upto streamsLateSpec)

/-- 'heraldlaw11.StreamsPlays', WHERE WHAT IT READS IS OF BULK AT MOST 1048576: true; the input reads as it did. -/
def streamsPlaysUptoRow : OpenClaim := { program := "ytaaocgppniflcaa", sum := "a5ef0114da52a87d358ae022d1c96bd9bc9b4228cbf1e385e2e858503120f98b", func := "herald/heraldlaw11.StreamsPlays", spec := "streamsPlays", unfollowed := true, recurses := true, apart := false, narrowed := true }
def StreamsPlaysUptoSaid : Prop := streamsPlaysUptoRow.holds Try.pinned (OpenSpec.upto streamsPlaysSpec)

end Rows
end Go.Proofs.Ytaaocgppniflcaa
