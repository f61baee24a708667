/- What start-up lays; the arguments opened. -/
import Derived.Test.YtnbaojdildelmaaDoorL0
import Derived.Test.YtnbaojdildelmaaDoorCards
import Derived.Test.YtnbaojdildelmaaDoorTie
import Derived.ProofKit
import Derived.OpenShut
import Derived.SizedLaws
import Derived.LaidLaws
import Derived.Deep.DeepHandedRow
import Derived.Deep.SlicePairs
import Derived.Lib.LaidTab
namespace Go.Proofs.YtnbaojdildelmaaDoor
open Go.ChangeShapes Go.WideShapes Go.ChangeAt Go.RowKit Go.Deep
set_option linter.unusedVariables false
set_option linter.unusedSimpArgs false
theorem own : ownKnob Tryd.prog.godebug = none := by kernel_rfl
theorem laidOut : laidOutB Tryd.prog = true := by kernel_rfl
theorem weights_of {H : Type} {ts : List TypeId} {ds : List (DataW H)} (h : (DataW.weightsEach Tryd.prog ts ds).all (· ≤ reachBytes) = true) {j : Nat} {t : TypeId} {d : DataW H} (ht : ts[j]? = some t) (hd : ds[j]? = some d) :
    ∀ n ∈ d.weights Tryd.prog t, n ≤ reachBytes := fun n hn => by
  have := List.all_eq_true.1 h n (DataW.weights_mem_each ht hd n hn)
  simpa using this

/-- the listed tables, cell by cell -/
def leafD : DataW Unit → List Value
  | .lit (.int k z) => [.int k z]
  | _ => []
def rowD : DataW Unit → List Value
  | .agg l => l.flatMap leafD
  | _ => []
def rowsD : DataW Unit → List Value
  | .agg l => l.flatMap rowD
  | _ => []
def cFirst : Array Value := (rowD Rows.laid_unicode_utf8_first).toArray
def cAccept : Array Value := (rowsD Rows.laid_unicode_utf8_acceptRanges).toArray
def cPow : Array Value := (rowD Rows.laid_internal_strconv_uint64pow10).toArray
def c32 : Array Value := (rowD Rows.laid_math_bits_deBruijn32tab).toArray
def c64 : Array Value := (rowD Rows.laid_math_bits_deBruijn64tab).toArray
def cSyn : Array Value := #[.iface 120 (.pointer (some ⟨13, 0, none⟩))]
def cRng : Array Value := #[.iface 120 (.pointer (some ⟨14, 0, none⟩))]
def synS : ByteArray := ⟨#[105, 110, 118, 97, 108, 105, 100, 32, 115, 121, 110, 116, 97, 120]⟩
def rngS : ByteArray := ⟨#[118, 97, 108, 117, 101, 32, 111, 117, 116, 32, 111, 102, 32, 114, 97, 110, 103, 101]⟩
theorem laidMet_tail {W : World} {x : String × DataW Unit} {rest : List (String × DataW Unit)} (h : laidMet Tryd.prog (x :: rest) W) : laidMet Tryd.prog rest W := by
  obtain ⟨ps, h1, h2⟩ := h
  obtain ⟨n, d⟩ := x
  obtain ⟨g, t, cs, fuel, p, q, k1, k2, k3, k4, k5, k6⟩ := h1
  subst k6
  exact ⟨q, k5, by first | exact ⟨h2.1.sublist (List.sublist_append_right _ _), fun g i hm => h2.2 g i (List.mem_append_right _ hm)⟩ | skip⟩

theorem tab_of_laid {W : World} {rest : List (String × DataW Unit)} {x y : String × DataW Unit} (h : laidMet Tryd.prog (x :: y :: ("internal/strconv.uint64pow10", Rows.laid_internal_strconv_uint64pow10) :: rest) W) : Tab W :=
  Lib.tabIs_of_head gTab (show (Tryd.prog.globals[0]?).map (·.type) = some 80 by kernel_rfl) Tryd.underlying80 Tryd.underlying66 (by kernel_rfl) (by kernel_rfl) (laidMet_tail (laidMet_tail h))
theorem iface_head {W : World} {n nm : String} {d : DataW Unit} {rest : List (String × DataW Unit)} {g : Nat} (hg : Tryd.prog.globalNamed n = some g) (ht : (Tryd.prog.globals[g]?).map (·.type) = some 75) (h : laidMet Tryd.prog ((n, .iface nm d) :: rest) W) : ∃ u v, W.cell? ⟨g, 0, none⟩ = some (.iface u v) := by
  obtain ⟨ps, h1, _⟩ := h
  obtain ⟨g', t, cs, fuel, p, q, k1, k2, k3, k4, k5, k6⟩ := h1
  obtain rfl : g = g' := by rw [hg] at k1; injection k1
  obtain rfl : t = 75 := by rw [ht] at k2; injection k2 with k2; exact k2.symm
  obtain ⟨_, u, v, e, _⟩ := iface_of_trod Tryd.underlying75 k4
  have h0 := World.var?_cell hg k3 0
  have hc : cs = #[.iface u v] := by
    cases cs with
    | mk l => simp only at e; rw [e]
  refine ⟨u, v, ?_⟩
  rw [hc] at h0
  simpa using h0
theorem er_of_laid {W : World} {rest : List (String × DataW Unit)} {a b c d : String × DataW Unit} (h : laidMet Tryd.prog (a :: b :: c :: d :: ("strconv.ErrRange", Rows.laid_strconv_ErrRange) :: ("strconv.ErrSyntax", Rows.laid_strconv_ErrSyntax) :: rest) W) : Er W :=
  ⟨iface_head (by kernel_rfl) (by kernel_rfl) (laidMet_tail (laidMet_tail (laidMet_tail (laidMet_tail (laidMet_tail h))))), iface_head (by kernel_rfl) (by kernel_rfl) (laidMet_tail (laidMet_tail (laidMet_tail (laidMet_tail h))))⟩
end Go.Proofs.YtnbaojdildelmaaDoor
