/- Numbers among the arguments. -/
import Derived.Test.YtnbaojdildelmaaDoorE0
import Derived.Test.YtnbaojdildelmaaDoorQ1
namespace Go.Proofs.YtnbaojdildelmaaDoor
open Go.ChangeShapes Go.WideShapes Go.ChangeAt Go.RowKit Go.Deep
set_option linter.unusedVariables false
set_option linter.unusedSimpArgs false
theorem cells3' : Tryd.prog.cellsOf 3 = 1 := by kernel_rfl
theorem add_add (a : Addr) (x y : Nat) : (a.add x).add y = a.add (x + y) := by
  unfold Addr.add
  by_cases hx : x = 0
  · by_cases hy : y = 0 <;> simp [hx, hy]
  · by_cases hy : y = 0
    · simp [hx, hy]
    · have : x + y ≠ 0 := by omega
      simp [hx, hy, this, Nat.add_assoc]
theorem in_of_cells {α : Type} {E : El α} (ok : E.Ok) {W : World} {a : Addr} {len cap : Nat} (f : Nat → α) (hl : len ≤ cap) (hm : cap ≤ 9223372036854775807) (h : ∀ i, i < len → W.cells? 0 (a.add (i * E.sz)) E.sz = some (E.enc (f i))) :
    In E W (.slice (some a) len cap) ((List.range len).map f) := by
  refine .inr ⟨a, cap, by simp, by simpa using hl, hm, fun j u hu => ?_⟩
  have hj : j < len * E.sz := by
    have := (List.getElem?_eq_some_iff.1 hu).1
    rw [ok.length] at this
    simpa using this
  have hp := ok.pos
  have hi : j / E.sz < len := Nat.div_lt_of_lt_mul (by rw [Nat.mul_comm]; exact hj)
  have hr : j % E.sz < E.sz := Nat.mod_lt _ hp
  have hjj : j / E.sz * E.sz + j % E.sz = j := by rw [Nat.mul_comm]; exact Nat.div_add_mod j E.sz
  have h1 := ok.get ((List.range len).map f) (j / E.sz) (j % E.sz) (by simpa using hi) hr
  rw [hjj, hu] at h1
  obtain ⟨_, h2, h3⟩ := World.cells?_some (h _ hi)
  have h4 := h3 (j % E.sz) hr
  rw [add_add, hjj] at h4
  rw [h4]
  simpa using h1.symm


set_option maxRecDepth 100000 in
theorem open_ints {H : Type} {enc : TypeId × Value → H} {W : World} {v : Value} {n : Nat} {x : DataW H × List MemPlace} (h : DataW.trod enc Tryd.prog W 0 (fun _ => true) true n 46 [v] = some x) :
    ∃ (s : SV) (l : List Int), v = sv s ∧ In EI W (sv s) l := by
  rcases open_slice Tryd.underlying46 h with ⟨hc, _⟩ | ⟨a, len, cap, m, k, D, Pl, hc, _, hl, hm, hmm, hx, hall⟩
  · simp only [List.cons.injEq, and_true] at hc
    exact ⟨(none, 0, 0), [], hc, .inl ⟨rfl, rfl⟩⟩
  · simp only [List.cons.injEq, and_true] at hc
    simp only [if_true] at hmm
    subst hmm
    have each : ∀ i, i < len → ∃ e : Int, W.cells? 0 (a.add (i * 1)) 1 = some [.int .i64 e] := fun i hi => by
      obtain ⟨cs', h1, h2⟩ := hall i (by omega)
      rw [cells3'] at h1
      obtain ⟨s3, e3, q3, _⟩ := DataW.trod_int Tryd.underlying3 h2
      subst e3
      exact ⟨s3, h1⟩
    obtain ⟨f, hfo⟩ := choose_lt each
    refine ⟨(some a, len, m), (List.range len).map f, ?_, ?_⟩
    · rw [hc]; rfl
    · show In EI W (.slice (some a) len m) _
      exact in_of_cells okI f hl (by unfold maxLen at hm; omega) fun i hi => hfo i hi
end Go.Proofs.YtnbaojdildelmaaDoor
