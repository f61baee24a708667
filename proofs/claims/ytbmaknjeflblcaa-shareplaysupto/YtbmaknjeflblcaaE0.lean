/- The arguments opened. -/
import Derived.Test.YtbmaknjeflblcaaK8
import Derived.ProofKit
import Derived.OpenShut
import Derived.SizedLaws
import Derived.Deep.DeepHandedRow
import Derived.Deep.SlicePairs
namespace Go.Proofs.Ytbmaknjeflblcaa
open Go.ChangeShapes Go.WideShapes Go.ChangeAt Go.RowKit Go.Deep
set_option linter.unusedVariables false
set_option linter.unusedSimpArgs false

theorem own : ownKnob Try.prog.godebug = none := by kernel_rfl
theorem laidOut : laidOutB Try.prog = true := by kernel_rfl
theorem cells2 : Try.prog.cellsOf 2 = 1 := by kernel_rfl
theorem bytes2 : Try.prog.bytesOf 2 = 8 := by kernel_rfl

/-- One argument's weights are among all. -/
theorem weights_of {H : Type} {ts : List TypeId} {ds : List (DataW H)} (h : (DataW.weightsEach Try.prog ts ds).all (· ≤ reachBytes) = true) {j : Nat} {t : TypeId} {d : DataW H} (ht : ts[j]? = some t) (hd : ds[j]? = some d) :
    ∀ n ∈ d.weights Try.prog t, n ≤ reachBytes := fun n hn => by
  have := List.all_eq_true.1 h n (DataW.weights_mem_each ht hd n hn)
  simpa using this
theorem weightsAll_mem {H : Type} {P : Program} {e : TypeId} : ∀ {ds : List (DataW H)} {d : DataW H} {n : Nat}, d ∈ ds → n ∈ d.weights P e → n ∈ DataW.weightsAll P e ds
  | d0 :: ds, d, n, hd, hn => by
    simp only [DataW.weightsAll, List.mem_append]
    rcases List.mem_cons.1 hd with rfl | hd
    · exact .inl hn
    · exact .inr (weightsAll_mem hd hn)
  | [], d, n, hd, hn => by cases hd

theorem add_add (a : Addr) (x y : Nat) : (a.add x).add y = a.add (x + y) := by
  unfold Addr.add
  by_cases hx : x = 0
  · by_cases hy : y = 0 <;> simp [hx, hy]
  · by_cases hy : y = 0
    · simp [hx, hy]
    · have : x + y ≠ 0 := by omega
      simp [hx, hy, this, Nat.add_assoc]

theorem in_of_cells {α : Type} {E : El α} (ok : E.Ok) {W : World} {a : Addr} {len cap : Nat} (f : Nat → α) (hl : len ≤ cap) (hm : cap ≤ 9223372036854775807) (h : ∀ i, i < len → W.cells? 0 (a.add (i * E.sz)) E.sz = some (E.enc (f i))) :
    In E W (.slice (some a) len cap) ((List.range len).map f) := by
  refine .inr ⟨a, cap, by simp, by simpa using hl, hm, fun j u hu => ?_⟩
  have hj : j < len * E.sz := by
    have := (List.getElem?_eq_some_iff.1 hu).1
    rw [ok.length] at this
    simpa using this
  have hp := ok.pos
  have hi : j / E.sz < len := Nat.div_lt_of_lt_mul (by rw [Nat.mul_comm]; exact hj)
  have hr : j % E.sz < E.sz := Nat.mod_lt _ hp
  have hjj : j / E.sz * E.sz + j % E.sz = j := by rw [Nat.mul_comm]; exact Nat.div_add_mod j E.sz
  have h1 := ok.get ((List.range len).map f) (j / E.sz) (j % E.sz) (by simpa using hi) hr
  rw [hjj, hu] at h1
  obtain ⟨_, h2, h3⟩ := World.cells?_some (h _ hi)
  have h4 := h3 (j % E.sz) hr
  rw [add_add, hjj] at h4
  rw [h4]
  simpa using h1.symm

theorem wf_I64 {x : Int} (h : (Lit.int .i64 x).wf = true) : wf64 x := by
  simp [Lit.wf] at h
  have h1 : IntKind.i64.min = -9223372036854775808 := by decide
  rw [h1] at h
  exact h
set_option maxRecDepth 100000 in
/-- a row of int64 among the arguments, with its size -/
theorem open_ints {H : Type} {enc : TypeId × Value → H} {W : World} {v : Value} {n : Nat} {x : DataW H × List MemPlace} (h : DataW.trod enc Try.prog W 0 (fun _ => true) true n 22 [v] = some x) (hsz : ∀ n ∈ x.1.weights Try.prog 22, n ≤ reachBytes) :
    ∃ (s : SV) (l : List Int), v = sv s ∧ In EI W (sv s) l ∧ l.length * 8 ≤ 140737488351232 := by
  rcases open_slice Try.underlying22 h with ⟨hc, _⟩ | ⟨a, len, cap, m, k, D, Pl, hc, _, hl, hm, hmm, hx, hall⟩
  · simp only [List.cons.injEq, and_true] at hc
    exact ⟨(none, 0, 0), [], hc, .inl ⟨rfl, rfl⟩, by simp⟩
  · simp only [List.cons.injEq, and_true] at hc
    simp only [if_true] at hmm
    subst hmm
    have hw : len * 8 ≤ 140737488351232 := by
      have := hsz (((List.range len).map D).length * 8 + ((List.range (m - len)).map fun j => D (len + j)).length * 8) (by
        rw [hx]
        simp only [DataW.weights, Try.underlying22, bytes2, List.mem_cons]
        exact .inl (by rw [Nat.add_mul]))
      simp only [List.length_map, List.length_range, reachBytes] at this
      omega
    have each : ∀ i, i < m → ∃ q : Int, W.cells? 0 (a.add (i * 1)) 1 = some [.int .i64 q] := fun i hi => by
      obtain ⟨cs', h1, h2⟩ := hall i hi
      rw [cells2] at h1
      obtain ⟨n1, e1, _⟩ := DataW.trod_int Try.underlying2 h2
      subst e1
      exact ⟨n1, h1⟩
    obtain ⟨f, hf⟩ := choose_lt each
    refine ⟨(some a, len, m), (List.range len).map f, ?_, ?_, by simpa using hw⟩
    · rw [hc]; rfl
    · show In EI W (.slice (some a) len m) _
      exact in_of_cells okI f hl (by unfold maxLen at hm; omega) fun i hi => hf i (by omega)
end Go.Proofs.Ytbmaknjeflblcaa
