/- Made, plainly. -/
import Derived.Test.YtjigjckclpccmaaDoorH1
namespace Go.Proofs.YtjigjckclpccmaaDoor
open Go.RowKit
set_option linter.unusedVariables false
set_option linter.unusedSimpArgs false

def mT (f : Fr) : Int := if f.excl then f.ty % 256 % 10 else f.ty % 256
theorem mT_range (f : Fr) : 0 ≤ mT f ∧ mT f < 256 := by unfold mT; split <;> omega
def mX (f : Fr) : Int := bits .and .i64 f.fl (kflags (min (mT f) 10).toNat)
def mSt (T : Int) (f : Fr) : Int := if T < 4 ∨ T = 5 ∨ 7 < T then f.st % 2147483648 else 0
@[reducible] def mPr (T X : Int) : Prop := T = 2 ∨ T = 1 ∧ hasF X 32 = true
def zero8 : ByteArray := ⟨#[0, 0, 0, 0, 0, 0, 0, 0]⟩
def mD0 (T : Int) (f : Fr) : ByteArray := if T = 0 ∨ T = 1 ∨ T = 5 ∨ T = 7 ∨ T = 9 ∨ 9 < T then f.data else if T = 6 then (f.data ++ zero8).extract 0 8 else ⟨#[]⟩
def mD (T : Int) (f : Fr) : ByteArray := if 60000 < (mD0 T f).size then (mD0 T f).extract 0 60000 else mD0 T f
/-- the frame that Made makes, without its params -/
def madeG (T X : Int) (f : Fr) : Fr where
  ty := T
  fl := X
  st := if (T < 4 ∨ T = 5 ∨ T = 9) ∧ mSt T f = 0 then 1 else mSt T f
  data := mD T f
  pad := if (T = 0 ∨ T = 1 ∨ T = 5) ∧ hasF X 8 = true then f.pad % 256 else 0
  dep := if mPr T X then f.dep % 2147483648 else 0
  excl := if mPr T X then hasF f.wt 256 else false
  wt := if mPr T X then f.wt % 256 + 1 else 0
  code := if T = 3 ∨ T = 7 then f.code % 4294967296 else 0
  last := if T = 5 ∨ T = 7 ∨ T = 8 then f.last % 2147483648 else 0
def madeP (T X : Int) (ps : List (Int × Int)) : List (Int × Int) := if T = 4 ∧ X = 0 then fewS ps else []
def madeS (f : Fr) : Fr := madeG (mT f) (mX f) f

/-- Made's answer -/
def MPost (w : World) (f : Fr) (ps : List (Int × Int)) (e : Ending) (w' : World) : Prop :=
  ∃ q, e = .returned (.agg (fv (madeS f) q)) ∧ PRow w' q (madeP (mT f) (mX f) ps) ∧ (∀ k, q.ownBlock = some k → w.heap.size ≤ k) ∧ Below w.heap.size w w'
theorem mpost_of {w : World} {f g : Fr} {ps : List (Int × Int)} (h : madeS f = g) (hp : madeP (mT f) (mX f) ps = []) (w' : World) (hb : Below w.heap.size w w') : MPost w f ps (.returned (.agg (fv g (.slice none 0 0)))) w' := by
  subst h
  exact ⟨_, rfl, by rw [hp]; exact PRow.nil _, fun k hk => by simp [Value.ownBlock] at hk, hb⟩
end Go.Proofs.YtjigjckclpccmaaDoor
