/- The arguments opened. -/
import Derived.Test.YtldnibkgdpeocaaC3
import Derived.ProofKit
import Derived.OpenShut
import Derived.SizedLaws
import Derived.Deep.DeepHandedRow
import Derived.Deep.SlicePairs
namespace Go.Proofs.Ytldnibkgdpeocaa
open Go.ChangeShapes Go.WideShapes Go.ChangeAt Go.RowKit Go.Deep
set_option linter.unusedVariables false
set_option linter.unusedSimpArgs false

theorem own : ownKnob Try.prog.godebug = none := by kernel_rfl
theorem laidOut : laidOutB Try.prog = true := by kernel_rfl
theorem cells50 : Try.prog.cellsOf 50 = 2 := by kernel_rfl
theorem cells3 : Try.prog.cellsOf 3 = 1 := by kernel_rfl

/-- One argument's weights are among all. -/
theorem weights_of {H : Type} {ts : List TypeId} {ds : List (DataW H)} (h : (DataW.weightsEach Try.prog ts ds).all (· ≤ reachBytes) = true) {j : Nat} {t : TypeId} {d : DataW H} (ht : ts[j]? = some t) (hd : ds[j]? = some d) :
    ∀ n ∈ d.weights Try.prog t, n ≤ reachBytes := fun n hn => by
  have := List.all_eq_true.1 h n (DataW.weights_mem_each ht hd n hn)
  simpa using this
theorem weightsAll_mem {H : Type} {P : Program} {e : TypeId} : ∀ {ds : List (DataW H)} {d : DataW H} {n : Nat}, d ∈ ds → n ∈ d.weights P e → n ∈ DataW.weightsAll P e ds
  | d0 :: ds, d, n, hd, hn => by
    simp only [DataW.weightsAll, List.mem_append]
    rcases List.mem_cons.1 hd with rfl | hd
    · exact .inl hn
    · exact .inr (weightsAll_mem hd hn)
  | [], d, n, hd, hn => by cases hd

theorem add_add (a : Addr) (x y : Nat) : (a.add x).add y = a.add (x + y) := by
  unfold Addr.add
  by_cases hx : x = 0
  · by_cases hy : y = 0 <;> simp [hx, hy]
  · by_cases hy : y = 0
    · simp [hx, hy]
    · have : x + y ≠ 0 := by omega
      simp [hx, hy, this, Nat.add_assoc]

theorem in_of_cells {α : Type} {E : El α} (ok : E.Ok) {W : World} {a : Addr} {len cap : Nat} (f : Nat → α) (hl : len ≤ cap) (hm : cap ≤ 9223372036854775807) (h : ∀ i, i < len → W.cells? 0 (a.add (i * E.sz)) E.sz = some (E.enc (f i))) :
    In E W (.slice (some a) len cap) ((List.range len).map f) := by
  refine .inr ⟨a, cap, by simp, by simpa using hl, hm, fun j u hu => ?_⟩
  have hj : j < len * E.sz := by
    have := (List.getElem?_eq_some_iff.1 hu).1
    rw [ok.length] at this
    simpa using this
  have hp := ok.pos
  have hi : j / E.sz < len := Nat.div_lt_of_lt_mul (by rw [Nat.mul_comm]; exact hj)
  have hr : j % E.sz < E.sz := Nat.mod_lt _ hp
  have hjj : j / E.sz * E.sz + j % E.sz = j := by rw [Nat.mul_comm]; exact Nat.div_add_mod j E.sz
  have h1 := ok.get ((List.range len).map f) (j / E.sz) (j % E.sz) (by simpa using hi) hr
  rw [hjj, hu] at h1
  obtain ⟨_, h2, h3⟩ := World.cells?_some (h _ hi)
  have h4 := h3 (j % E.sz) hr
  rw [add_add, hjj] at h4
  rw [h4]
  simpa using h1.symm


set_option maxRecDepth 100000 in
/-- edges among the arguments -/
theorem open_edges {H : Type} {enc : TypeId × Value → H} {W : World} {v : Value} {n : Nat} {x : DataW H × List MemPlace} (h : DataW.trod enc Try.prog W 0 (fun _ => true) true n 22 [v] = some x) :
    ∃ (y : SV) (es : List Eg), v = sv y ∧ In EE W (sv y) es := by
  rcases open_slice Try.underlying22 h with ⟨hc, _⟩ | ⟨a, len, cap, m, k, D, Pl, hc, _, hl, hm, hmm, hx, hall⟩
  · simp only [List.cons.injEq, and_true] at hc
    exact ⟨(none, 0, 0), [], hc, .inl ⟨rfl, rfl⟩⟩
  · simp only [List.cons.injEq, and_true] at hc
    simp only [if_true] at hmm
    subst hmm
    have each : ∀ i, i < m → ∃ q : Eg, W.cells? 0 (a.add (i * 2)) 2 = some [.int .i64 q.1, .int .i64 q.2] := fun i hi => by
      obtain ⟨cs', h1, h2⟩ := hall i hi
      rw [cells50] at h1
      obtain ⟨_, hlen, _⟩ := World.cells?_some h1
      obtain ⟨xs, k', hk, hxy, _, hxl, hf⟩ := DataW.trod_struct Try.underlying50 h2
      match xs, hxl, cs', hlen with
      | [y0, y1], _, [v0, v1], _ =>
        have g0 := hf 0 _ rfl
        have g1 := hf 1 _ rfl
        simp [cells3] at g0 g1
        obtain ⟨n0, e0, _⟩ := DataW.trod_int Try.underlying3 g0
        obtain ⟨n1, e1, _⟩ := DataW.trod_int Try.underlying3 g1
        simp only [List.cons.injEq, and_true] at e0 e1
        subst e0 e1
        exact ⟨(n0, n1), h1⟩
    obtain ⟨f, hf⟩ := choose_lt each
    refine ⟨(some a, len, _), (List.range len).map f, hc, ?_⟩
    exact in_of_cells (len := len) okE f hl (by unfold maxLen at hm; omega) fun i hi => hf i (Nat.lt_of_lt_of_le hi hl)
end Go.Proofs.Ytldnibkgdpeocaa
