/- ReadRequest. -/
import Derived.Test.YtcadlpmopplkeaaDoorAb
import Derived.Test.YtcadlpmopplkeaaDoorM2
import Derived.Laws.ResultCell
import Derived.Deep.QuietTactic
import Derived.BigQuiet
namespace Go.Proofs.YtcadlpmopplkeaaDoor
open Go.RowKit Go.Maps
set_option linter.unusedVariables false
set_option linter.unusedSimpArgs false

def reqNames : List ByteArray := [⟨#[58, 109, 101, 116, 104, 111, 100]⟩, ⟨#[58, 115, 99, 104, 101, 109, 101]⟩, ⟨#[58, 97, 117, 116, 104, 111, 114, 105, 116, 121]⟩, ⟨#[58, 112, 97, 116, 104]⟩]
def resNames : List ByteArray := [⟨#[58, 115, 116, 97, 116, 117, 115]⟩]
/-- a request's cells -/
def rqv (m s a p : ByteArray) (f : Value) (b : ByteArray) : Array Value := #[.string m, .string s, .string a, .string p, f, .string b]
def RqB (w : World) (g : Nat) (m s a p : ByteArray) (f : Value) (b : ByteArray) : Prop := w.heap[g]? = some (.cells (rqv m s a p f b) 41 (0, 0))
/-- are the four values a request's? -/
def headB (m s a p : ByteArray) : Bool := consB methB 64 m && schemeB s && consB visB 4096 a && pathB p m
/-- the error that ReadRequest tells -/
def rqE (l : List Fd) : Int :=
  if rdE l reqNames ≠ 0 then rdE l reqNames else match vals l 4 reqNames with | some [m, s, a, p] => if headB m s a p = true then 0 else 131 | _ => 131
def RqPost (l : List Fd) (w : World) (e : Ending) (w' : World) : Prop :=
  ∃ (m s a p : ByteArray) (y : SV), e = .returned (.tuple #[.agg (rqv m s a p (sv y) ⟨#[]⟩), .int .i64 (rqE l)]) ∧ Below w.heap.size w w' ∧
    (rqE l = 0 → vals l 4 reqNames = some [m, s, a, p] ∧ headB m s a p = true ∧ R EFd w' (sv y) (l.drop 4) ∧ ∀ k, (sv y).ownBlock = some k → w.heap.size ≤ k) ∧ (rqE l ≠ 0 → m = ⟨#[]⟩ ∧ s = ⟨#[]⟩ ∧ a = ⟨#[]⟩ ∧ p = ⟨#[]⟩ ∧ y = (none, 0, 0))

theorem in_names (w : World) (l : List ByteArray) (g : Nat) (c : Array Value) (h : w.heap[g]? = some (.cells c 9 (0, 0))) (hc : c.toList = l.map fun s => Value.string s) (hl : l.length ≤ 64) : In ES w (.slice (some ⟨g, 0, none⟩) l.length l.length) l := by
  refine .inr ⟨_, l.length, rfl, Nat.le_refl _, by omega, fun j u hu => ?_⟩
  rw [Addr.add_lit, cell_blk h, Nat.zero_add, ← Array.getElem?_toList, hc]
  have : ES.cs l = l.map fun s => Value.string s := by
    clear h hc hl hu
    induction l with
    | nil => rfl
    | cons a r ih => simp only [El.cs, List.flatMap_cons, ES, List.cons_append, List.nil_append, List.map_cons] at ih ⊢; rw [ih]
  rw [← this]
  exact hu
theorem vals_four {vs : List ByteArray} (h : vs.length = 4) : ∃ a b c d, vs = [a, b, c, d] := by
  match vs, h with
  | [a, b, c, d], _ => exact ⟨a, b, c, d, rfl⟩

theorem below_drewN {B : Nat} {a w : World} (h : Below B a w) (n : Nat) : Below B a (w.drewN n) := h.trans ⟨rfl, rfl, rfl, Nat.le_refl _, fun _ _ => rfl⟩
theorem results_ct {P : Program} {fn : Func} {p r : Tmp} {ty : TypeId} (h : fn.results = #[.cell p ty, .tmp r]) (tmps : Array Value) (w : World) (g : Nat) (t : TypeId) (cs : Array Value) (fr : Nat × Nat) (d : TypeDesc)
    (hp : tmps.getD p undef = .pointer (some ⟨g, 0, none⟩)) (hg : w.heap[g]? = some (.cells cs t fr)) (hu : P.underlying ty = some d) (hd : (match d with | .struct _ | .array _ _ => true | _ => false) = true) (hi : (P.info? ty).map (·.size) = some cs.size) :
    (results fn tmps).run P w = .ok (.tuple #[.agg cs, tmps.getD r undef]) w := by
  have hp' : tmps[p]?.getD undef = .pointer (some ⟨g, 0, none⟩) := by simpa using hp
  simp [results, h, hp', asAddr, run_loadVar_row w g t ty cs fr d hg hu hd hi]
theorem rq_sets {w : World} {g : Nat} {m s a p b : ByteArray} {f : Value} (h : RqB w g m s a p f b) (m' s' a' p' b' : ByteArray) (f' : Value) :
    RqB ((((((w.setCell ⟨g, 0, none⟩ (.string m')).setCell ⟨g, 1, none⟩ (.string s')).setCell ⟨g, 2, none⟩ (.string a')).setCell ⟨g, 3, none⟩ (.string p')).setCell ⟨g, 4, none⟩ f').setCell ⟨g, 5, none⟩ (.string b')) g m' s' a' p' f' b' := by
  unfold RqB
  rw [setCell_block _ _ _ _ _ _ _ (setCell_block _ _ _ _ _ _ _ (setCell_block _ _ _ _ _ _ _ (setCell_block _ _ _ _ _ _ _ (setCell_block _ _ _ _ _ _ _ (setCell_block _ _ _ _ _ _ _ h)))))]
  simp only [rqv, List.setIfInBounds_toArray, List.set_cons_zero, List.set_cons_succ]
theorem rq_other (w : World) (g k : Nat) (hk : k ≠ g) (v0 v1 v2 v3 v4 v5 : Value) : ((((((w.setCell ⟨g, 0, none⟩ v0).setCell ⟨g, 1, none⟩ v1).setCell ⟨g, 2, none⟩ v2).setCell ⟨g, 3, none⟩ v3).setCell ⟨g, 4, none⟩ v4).setCell ⟨g, 5, none⟩ v5).heap[k]? = w.heap[k]? := by
  rw [setCell_other _ _ _ _ _ hk, setCell_other _ _ _ _ _ hk, setCell_other _ _ _ _ _ hk, setCell_other _ _ _ _ _ hk, setCell_other _ _ _ _ _ hk, setCell_other _ _ _ _ _ hk]
theorem rq_below (w : World) (g B : Nat) (hB : B ≤ g) (v0 v1 v2 v3 v4 v5 : Value) : Below B w ((((((w.setCell ⟨g, 0, none⟩ v0).setCell ⟨g, 1, none⟩ v1).setCell ⟨g, 2, none⟩ v2).setCell ⟨g, 3, none⟩ v3).setCell ⟨g, 4, none⟩ v4).setCell ⟨g, 5, none⟩ v5) :=
  ((((((Below.refl B w).setCell (p := ⟨g, 0, none⟩) hB _).setCell (p := ⟨g, 1, none⟩) hB _).setCell (p := ⟨g, 2, none⟩) hB _).setCell (p := ⟨g, 3, none⟩) hB _).setCell (p := ⟨g, 4, none⟩) hB _).setCell (p := ⟨g, 5, none⟩) hB _

end Go.Proofs.YtcadlpmopplkeaaDoor
