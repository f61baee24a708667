/- parse. -/
import Derived.Test.YtmhbaaemihljjaaDoorA5
import Derived.Test.YtmhbaaemihljjaaDoorA6
namespace Go.Proofs.YtmhbaaemihljjaaDoor
open Go.RowKit
set_option linter.unusedVariables false
set_option linter.unusedSimpArgs false

/-- what parse tells, out of the frame's parts -/
def parseB (T S L : Int) (ki : Nat) (pd : Bool) (R : ByteArray) (k : Nat × Int × Nat × Nat) : (Fr × List (Int × Int)) × Int × Int :=
  if S < kfrom ki ∨ kto ki < S then ((Fr.zero, []), 1, 0)
  else if ftS k.1 k.2.1 ((R.size : Int) - (if pd then 1 else 0 : Nat)) = false then ((Fr.zero, []), 6, if T = 2 then S else 0)
  else if ftS k.1 k.2.1 ((R.size : Int) - (if pd then byteAt R 0 else 0 : Nat) - (if pd then 1 else 0 : Nat)) = false then ((Fr.zero, []), 1, 0)
  else (takeS k.2.2.2 ⟨T, L, S, ⟨#[]⟩, ((if pd then byteAt R 0 else 0 : Nat) : Int), 0, false, 0, 0, 0⟩ (R.extract (if pd then 1 else 0) (R.size - (if pd then byteAt R 0 else 0))), 0, 0)

/-- parse's answer -/
def PPost (w : World) (res : (Fr × List (Int × Int)) × Int × Int) (e : Ending) (w' : World) : Prop :=
  ∃ p, e = .returned (.tuple #[.agg (fv res.1.1 p), .agg #[.int .i64 res.2.1, .int .i64 res.2.2]]) ∧ PRow w' p res.1.2 ∧ (∀ k, p.ownBlock = some k → w.heap.size ≤ k) ∧ Below w.heap.size w w'

theorem ppost_bad {w : World} {res : (Fr × List (Int × Int)) × Int × Int} {c s : Int} (h : res = ((Fr.zero, []), c, s)) (w' : World) (hb : Below w.heap.size w w') :
    PPost w res (.returned (.tuple #[.agg #[.int .i64 0, .int .i64 0, .int .i64 0, .string ⟨#[]⟩, .int .i64 0, .int .i64 0, .bool false, .int .i64 0, .int .i64 0, .int .i64 0, .slice none 0 0], .agg #[.int .i64 c, .int .i64 s]])) w' := by
  subst h
  exact ⟨.slice none 0 0, rfl, PRow.nil _, fun k hk => by simp [Value.ownBlock] at hk, hb⟩

/-- stores into one block, one behind the other -/
def sets (w : World) (g : Nat) (l : List (Nat × Value)) : World := l.foldl (fun w x => w.setCell ⟨g, x.1, none⟩ x.2) w
theorem sets_other (g k : Nat) (h : k ≠ g) : ∀ (l : List (Nat × Value)) (w : World), (sets w g l).heap[k]? = w.heap[k]?
  | [], _ => rfl
  | x :: r, w => (sets_other g k h r _).trans (setCell_other _ _ _ _ _ h)
theorem sets_block (g : Nat) (t : TypeId) (fz : Nat × Nat) : ∀ (l : List (Nat × Value)) (w : World) (c : Array Value), w.heap[g]? = some (.cells c t fz) → (sets w g l).heap[g]? = some (.cells (l.foldl (fun c x => c.setIfInBounds x.1 x.2) c) t fz)
  | [], _, _, h => h
  | x :: r, w, c, h => sets_block g t fz r _ _ (setCell_block _ _ _ _ _ _ _ h)
theorem sets_below (g B : Nat) (h : B ≤ g) : ∀ (l : List (Nat × Value)) (w : World), Below B w (sets w g l)
  | [], w => Below.refl _ _
  | x :: r, w => ((Below.refl _ w).setCell (p := ⟨g, x.1, none⟩) h x.2).trans (sets_below g B h r _)
def fsets (f : Fr) (p : Value) : List (Nat × Value) := [(0, .int .i64 f.ty), (1, .int .i64 f.fl), (2, .int .i64 f.st), (3, .string f.data), (4, .int .i64 f.pad), (5, .int .i64 f.dep), (6, .bool f.excl), (7, .int .i64 f.wt), (8, .int .i64 f.code), (9, .int .i64 f.last), (10, p)]
theorem fin13 (w wc : World) (f : Fr) (p : Value) (ps : List (Int × Int)) (h2 : wc.heap[w.heap.size]? = some (.cells #[.int .i64 0, .int .i64 0, .int .i64 0, .string ⟨#[]⟩, .int .i64 0, .int .i64 0, .bool false, .int .i64 0, .int .i64 0, .int .i64 0, .slice none 0 0] 28 (0, 0))) (h3 : wc.heap[w.heap.size + 1]? = some (.cells #[.int .i64 0, .int .i64 0] 30 (0, 0)))
    (hP : PRow wc p ps) (hfr : ∀ k, p.ownBlock = some k → w.heap.size + 1 + 1 < k) (hbel : Below w.heap.size w wc) :
    (sets (sets wc w.heap.size (fsets f p)) (w.heap.size + 1) [(0, .int .i64 0), (1, .int .i64 0)]).heap[w.heap.size]? = some (.cells (fv f p) 28 (0, 0)) ∧
    (sets (sets wc w.heap.size (fsets f p)) (w.heap.size + 1) [(0, .int .i64 0), (1, .int .i64 0)]).heap[w.heap.size + 1]? = some (.cells #[.int .i64 0, .int .i64 0] 30 (0, 0)) ∧
    PRow (sets (sets wc w.heap.size (fsets f p)) (w.heap.size + 1) [(0, .int .i64 0), (1, .int .i64 0)]) p ps ∧
    Below w.heap.size w (sets (sets wc w.heap.size (fsets f p)) (w.heap.size + 1) [(0, .int .i64 0), (1, .int .i64 0)]) := by
  refine ⟨?_, ?_, hP.below fun k hk _ => ?_, (hbel.trans (sets_below _ _ (Nat.le_refl _) _ _)).trans (sets_below _ _ (by omega) _ _)⟩
  · rw [sets_other _ _ (by omega), sets_block _ _ _ _ _ _ h2]
    simp only [fsets, fv, List.foldl_cons, List.foldl_nil, List.setIfInBounds_toArray, List.set_cons_zero, List.set_cons_succ]
  · rw [sets_block _ _ _ _ _ _ ((sets_other _ _ (by omega) _ _).trans h3)]
    simp only [List.foldl_cons, List.foldl_nil, List.setIfInBounds_toArray, List.set_cons_zero, List.set_cons_succ]
  · have := hfr k hk
    rw [sets_other _ _ (by omega), sets_other _ _ (by omega)]

end Go.Proofs.YtmhbaaemihljjaaDoor
