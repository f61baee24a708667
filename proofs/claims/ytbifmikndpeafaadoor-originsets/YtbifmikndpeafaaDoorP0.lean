/- What start-up lays; the arguments opened. -/
import Derived.Test.YtbifmikndpeafaaDoorC4
import Derived.Test.YtbifmikndpeafaaDoorCards
import Derived.Test.YtbifmikndpeafaaDoorTie
import Derived.ProofKit
import Derived.OpenShut
import Derived.SizedLaws
import Derived.LaidLaws
import Derived.Deep.DeepHandedRow
import Derived.Deep.SlicePairs
import Derived.Lib.LaidTab
namespace Go.Proofs.YtbifmikndpeafaaDoor
open Go.ChangeShapes Go.WideShapes Go.ChangeAt Go.RowKit Go.Deep
set_option linter.unusedVariables false
set_option linter.unusedSimpArgs false

theorem own : ownKnob Tryd.prog.godebug = none := by kernel_rfl
theorem laidOut : laidOutB Tryd.prog = true := by kernel_rfl
theorem cells23 : Tryd.prog.cellsOf 23 = 3 := by kernel_rfl
theorem cells51 : Tryd.prog.cellsOf 51 = 2 := by kernel_rfl
theorem cells3 : Tryd.prog.cellsOf 3 = 1 := by kernel_rfl
theorem cells9 : Tryd.prog.cellsOf 9 = 1 := by kernel_rfl
theorem bytes23 : Tryd.prog.bytesOf 23 = 40 := by kernel_rfl

/-- One argument's weights are among all. -/
theorem weights_of {H : Type} {ts : List TypeId} {ds : List (DataW H)} (h : (DataW.weightsEach Tryd.prog ts ds).all (· ≤ reachBytes) = true) {j : Nat} {t : TypeId} {d : DataW H} (ht : ts[j]? = some t) (hd : ds[j]? = some d) :
    ∀ n ∈ d.weights Tryd.prog t, n ≤ reachBytes := fun n hn => by
  have := List.all_eq_true.1 h n (DataW.weights_mem_each ht hd n hn)
  simpa using this
theorem weightsAll_mem {H : Type} {P : Program} {e : TypeId} : ∀ {ds : List (DataW H)} {d : DataW H} {n : Nat}, d ∈ ds → n ∈ d.weights P e → n ∈ DataW.weightsAll P e ds
  | d0 :: ds, d, n, hd, hn => by
    simp only [DataW.weightsAll, List.mem_append]
    rcases List.mem_cons.1 hd with rfl | hd
    · exact .inl hn
    · exact .inr (weightsAll_mem hd hn)
  | [], d, n, hd, hn => by cases hd
theorem add_add (a : Addr) (x y : Nat) : (a.add x).add y = a.add (x + y) := by
  unfold Addr.add
  by_cases hx : x = 0
  · by_cases hy : y = 0 <;> simp [hx, hy]
  · by_cases hy : y = 0
    · simp [hx, hy]
    · have : x + y ≠ 0 := by omega
      simp [hx, hy, this, Nat.add_assoc]
theorem in_of_cells {α : Type} {E : El α} (ok : E.Ok) {W : World} {a : Addr} {len cap : Nat} (f : Nat → α) (hl : len ≤ cap) (hm : cap ≤ 9223372036854775807) (h : ∀ i, i < len → W.cells? 0 (a.add (i * E.sz)) E.sz = some (E.enc (f i))) :
    In E W (.slice (some a) len cap) ((List.range len).map f) := by
  refine .inr ⟨a, cap, by simp, by simpa using hl, hm, fun j u hu => ?_⟩
  have hj : j < len * E.sz := by
    have := (List.getElem?_eq_some_iff.1 hu).1
    rw [ok.length] at this
    simpa using this
  have hp := ok.pos
  have hi : j / E.sz < len := Nat.div_lt_of_lt_mul (by rw [Nat.mul_comm]; exact hj)
  have hr : j % E.sz < E.sz := Nat.mod_lt _ hp
  have hjj : j / E.sz * E.sz + j % E.sz = j := by rw [Nat.mul_comm]; exact Nat.div_add_mod j E.sz
  have h1 := ok.get ((List.range len).map f) (j / E.sz) (j % E.sz) (by simpa using hi) hr
  rw [hjj, hu] at h1
  obtain ⟨_, h2, h3⟩ := World.cells?_some (h _ hi)
  have h4 := h3 (j % E.sz) hr
  rw [add_add, hjj] at h4
  rw [h4]
  simpa using h1.symm

/-- of a string among the arguments: its size is within the reach -/
theorem size_reach {H : Type} {s : ByteArray} (h : ∀ n ∈ (DataW.lit (.string s.data.toList) : DataW H).weights Tryd.prog 9, n ≤ reachBytes) : s.size ≤ 140737488351232 := by
  have := h s.size (by simp [DataW.weights])
  simpa [reachBytes] using this

theorem mx_of {W : World} (h : W.ShapedOpen Tryd.prog) : ∃ m, W.cell? ⟨0, 0, none⟩ = some (.int .i64 m) := Tryd.laysM145.s1_3 W h
/-- the listed tables, cell by cell -/
def leafD : DataW Unit → List Value
  | .lit (.int k z) => [.int k z]
  | _ => []
def rowD : DataW Unit → List Value
  | .agg l => l.flatMap leafD
  | _ => []
def rowsD : DataW Unit → List Value
  | .agg l => l.flatMap rowD
  | _ => []
def cPow : Array Value := (rowD Rows.laid_internal_strconv_uint64pow10).toArray
def c32 : Array Value := (rowD Rows.laid_math_bits_deBruijn32tab).toArray
def c64 : Array Value := (rowD Rows.laid_math_bits_deBruijn64tab).toArray
def cSyn : Array Value := #[.iface 102 (.pointer (some ⟨11, 0, none⟩))]
def cRng : Array Value := #[.iface 102 (.pointer (some ⟨12, 0, none⟩))]
def synS : ByteArray := ⟨#[105, 110, 118, 97, 108, 105, 100, 32, 115, 121, 110, 116, 97, 120]⟩
def rngS : ByteArray := ⟨#[118, 97, 108, 117, 101, 32, 111, 117, 116, 32, 111, 102, 32, 114, 97, 110, 103, 101]⟩
theorem laidMet_tail {W : World} {x : String × DataW Unit} {rest : List (String × DataW Unit)} (h : laidMet Tryd.prog (x :: rest) W) : laidMet Tryd.prog rest W := by
  obtain ⟨ps, h1, h2⟩ := h
  obtain ⟨n, d⟩ := x
  obtain ⟨g, t, cs, fuel, p, q, k1, k2, k3, k4, k5, k6⟩ := h1
  subst k6
  exact ⟨q, k5, by first | exact ⟨h2.1.sublist (List.sublist_append_right _ _), fun g i hm => h2.2 g i (List.mem_append_right _ hm)⟩ | skip⟩

theorem tab_of_laid {W : World} {rest : List (String × DataW Unit)} {x y : String × DataW Unit} (h : laidMet Tryd.prog (x :: y :: ("internal/strconv.uint64pow10", Rows.laid_internal_strconv_uint64pow10) :: rest) W) : Lib.TabIs Tryd.prog W "internal/strconv.uint64pow10" .u64 Lib.pow10Tab :=
  Lib.tabIs_of_head gTab (show (Tryd.prog.globals[1]?).map (·.type) = some 84 by kernel_rfl) Tryd.underlying84 Tryd.underlying69 (by kernel_rfl) (by kernel_rfl) (laidMet_tail (laidMet_tail h))
theorem iface_head {W : World} {n nm : String} {d : DataW Unit} {rest : List (String × DataW Unit)} {g : Nat} (hg : Tryd.prog.globalNamed n = some g) (ht : (Tryd.prog.globals[g]?).map (·.type) = some 71) (h : laidMet Tryd.prog ((n, .iface nm d) :: rest) W) : ∃ u v, W.cell? ⟨g, 0, none⟩ = some (.iface u v) := by
  obtain ⟨ps, h1, _⟩ := h
  obtain ⟨g', t, cs, fuel, p, q, k1, k2, k3, k4, k5, k6⟩ := h1
  obtain rfl : g = g' := by rw [hg] at k1; injection k1
  obtain rfl : t = 71 := by rw [ht] at k2; injection k2 with k2; exact k2.symm
  obtain ⟨_, u, v, e, _⟩ := iface_of_trod Tryd.underlying71 k4
  have h0 := World.var?_cell hg k3 0
  have hc : cs = #[.iface u v] := by
    cases cs with
    | mk l => simp only at e; rw [e]
  refine ⟨u, v, ?_⟩
  rw [hc] at h0
  simpa using h0
theorem env_of {W : World} {rest : List (String × DataW Unit)} {a b : String × DataW Unit} (h : laidMet Tryd.prog (a :: b :: ("internal/strconv.uint64pow10", Rows.laid_internal_strconv_uint64pow10) :: ("strconv.ErrRange", Rows.laid_strconv_ErrRange) :: ("strconv.ErrSyntax", Rows.laid_strconv_ErrSyntax) :: rest) W) (hs : W.ShapedOpen Tryd.prog) : Env W :=
  ⟨iface_head (by kernel_rfl) (by kernel_rfl) (laidMet_tail (laidMet_tail (laidMet_tail (laidMet_tail h)))), iface_head (by kernel_rfl) (by kernel_rfl) (laidMet_tail (laidMet_tail (laidMet_tail h))), tab_of_laid h, mx_of hs⟩
end Go.Proofs.YtbifmikndpeafaaDoor
