/- What start-up lays; the arguments opened. -/
import Derived.Test.YtcadlpmopplkeaaDoorF3
import Derived.Test.YtcadlpmopplkeaaDoorCards
import Derived.Test.YtcadlpmopplkeaaDoorTie
import Derived.ProofKit
import Derived.OpenShut
import Derived.SizedLaws
import Derived.LaidLaws
import Derived.Deep.DeepHandedRow
import Derived.Deep.SlicePairs
import Derived.Lib.LaidTab
namespace Go.Proofs.YtcadlpmopplkeaaDoor
open Go.ChangeShapes Go.WideShapes Go.ChangeAt Go.RowKit Go.Deep
set_option linter.unusedVariables false
set_option linter.unusedSimpArgs false
theorem own : ownKnob Tryd.prog.godebug = none := by kernel_rfl
theorem laidOut : laidOutB Tryd.prog = true := by kernel_rfl
theorem weights_of {H : Type} {ts : List TypeId} {ds : List (DataW H)} (h : (DataW.weightsEach Tryd.prog ts ds).all (· ≤ reachBytes) = true) {j : Nat} {t : TypeId} {d : DataW H} (ht : ts[j]? = some t) (hd : ds[j]? = some d) :
    ∀ n ∈ d.weights Tryd.prog t, n ≤ reachBytes := fun n hn => by
  have := List.all_eq_true.1 h n (DataW.weights_mem_each ht hd n hn)
  simpa using this

/-- the listed tables, cell by cell -/
def leafD : DataW Unit → List Value
  | .lit (.int k z) => [.int k z]
  | _ => []
def rowD : DataW Unit → List Value
  | .agg l => l.flatMap leafD
  | _ => []
def rowsD : DataW Unit → List Value
  | .agg l => l.flatMap rowD
  | _ => []
def cFirst : Array Value := (rowD Rows.laid_unicode_utf8_first).toArray
def cAccept : Array Value := (rowsD Rows.laid_unicode_utf8_acceptRanges).toArray
def cPow : Array Value := (rowD Rows.laid_internal_strconv_uint64pow10).toArray
def c32 : Array Value := (rowD Rows.laid_math_bits_deBruijn32tab).toArray
def c64 : Array Value := (rowD Rows.laid_math_bits_deBruijn64tab).toArray
theorem laidMet_tail {W : World} {x : String × DataW Unit} {rest : List (String × DataW Unit)} (h : laidMet Tryd.prog (x :: rest) W) : laidMet Tryd.prog rest W := by
  obtain ⟨ps, h1, h2⟩ := h
  obtain ⟨n, d⟩ := x
  obtain ⟨g, t, cs, fuel, p, q, k1, k2, k3, k4, k5, k6⟩ := h1
  subst k6
  exact ⟨q, k5, by first | exact ⟨h2.1.sublist (List.sublist_append_right _ _), fun g i hm => h2.2 g i (List.mem_append_right _ hm)⟩ | skip⟩

theorem tab_of_laid {W : World} {rest : List (String × DataW Unit)} {x y : String × DataW Unit} (h : laidMet Tryd.prog (x :: y :: ("internal/strconv.uint64pow10", Rows.laid_internal_strconv_uint64pow10) :: rest) W) : Tab W :=
  Lib.tabIs_of_head gTab (show (Tryd.prog.globals[0]?).map (·.type) = some 133 by kernel_rfl) Tryd.underlying133 Tryd.underlying116 (by kernel_rfl) (by kernel_rfl) (laidMet_tail (laidMet_tail h))
theorem cells9 : Tryd.prog.cellsOf 9 = 1 := by kernel_rfl
theorem add_add (a : Addr) (x y : Nat) : (a.add x).add y = a.add (x + y) := by
  unfold Addr.add
  by_cases hx : x = 0
  · by_cases hy : y = 0 <;> simp [hx, hy]
  · by_cases hy : y = 0
    · simp [hx, hy]
    · have : x + y ≠ 0 := by omega
      simp [hx, hy, this, Nat.add_assoc]
theorem in_of_cells {α : Type} {E : El α} (ok : E.Ok) {W : World} {a : Addr} {len cap : Nat} (f : Nat → α) (hl : len ≤ cap) (hm : cap ≤ 9223372036854775807) (h : ∀ i, i < len → W.cells? 0 (a.add (i * E.sz)) E.sz = some (E.enc (f i))) :
    In E W (.slice (some a) len cap) ((List.range len).map f) := by
  refine .inr ⟨a, cap, by simp, by simpa using hl, hm, fun j u hu => ?_⟩
  have hj : j < len * E.sz := by
    have := (List.getElem?_eq_some_iff.1 hu).1
    rw [ok.length] at this
    simpa using this
  have hp := ok.pos
  have hi : j / E.sz < len := Nat.div_lt_of_lt_mul (by rw [Nat.mul_comm]; exact hj)
  have hr : j % E.sz < E.sz := Nat.mod_lt _ hp
  have hjj : j / E.sz * E.sz + j % E.sz = j := by rw [Nat.mul_comm]; exact Nat.div_add_mod j E.sz
  have h1 := ok.get ((List.range len).map f) (j / E.sz) (j % E.sz) (by simpa using hi) hr
  rw [hjj, hu] at h1
  obtain ⟨_, h2, h3⟩ := World.cells?_some (h _ hi)
  have h4 := h3 (j % E.sz) hr
  rw [add_add, hjj] at h4
  rw [h4]
  simpa using h1.symm


set_option maxRecDepth 100000 in
theorem open_strs {H : Type} {enc : TypeId × Value → H} {W : World} {v : Value} {n : Nat} {x : DataW H × List MemPlace} (h : DataW.trod enc Tryd.prog W 0 (fun _ => true) true n 22 [v] = some x) :
    ∃ (s : SV) (l : List ByteArray), v = sv s ∧ In ES W (sv s) l := by
  rcases open_slice Tryd.underlying22 h with ⟨hc, _⟩ | ⟨a, len, cap, m, k, D, Pl, hc, _, hl, hm, hmm, hx, hall⟩
  · simp only [List.cons.injEq, and_true] at hc
    exact ⟨(none, 0, 0), [], hc, .inl ⟨rfl, rfl⟩⟩
  · simp only [List.cons.injEq, and_true] at hc
    simp only [if_true] at hmm
    subst hmm
    have each : ∀ i, i < len → ∃ e : ByteArray, W.cells? 0 (a.add (i * 1)) 1 = some [.string e] := fun i hi => by
      obtain ⟨cs', h1, h2⟩ := hall i (by omega)
      rw [cells9] at h1
      obtain ⟨s3, e3, q3, _⟩ := DataW.trod_string Tryd.underlying9 h2
      subst e3
      exact ⟨s3, h1⟩
    obtain ⟨f, hfo⟩ := choose_lt each
    refine ⟨(some a, len, m), (List.range len).map f, ?_, ?_⟩
    · rw [hc]; rfl
    · show In ES W (.slice (some a) len m) _
      exact in_of_cells okS f hl (by unfold maxLen at hm; omega) fun i hi => hfo i hi
end Go.Proofs.YtcadlpmopplkeaaDoor
