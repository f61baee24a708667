/- Strings among the arguments opened. -/
import Derived.Test.YtdgdjanchpfleaaE0
namespace Go.Proofs.Ytdgdjanchpfleaa
open Go.ChangeShapes Go.WideShapes Go.ChangeAt Go.RowKit Go.Deep
set_option linter.unusedVariables false
set_option linter.unusedSimpArgs false

theorem bytes9 : Try.prog.bytesOf 9 = 16 := by kernel_rfl
set_option maxRecDepth 100000 in
theorem open_strs {H : Type} {enc : TypeId × Value → H} {W : World} {v : Value} {n : Nat} {x : DataW H × List MemPlace} (h : DataW.trod enc Try.prog W 0 (fun _ => true) true n 25 [v] = some x) (hsz : ∀ n ∈ x.1.weights Try.prog 25, n ≤ reachBytes) :
    ∃ (s : SV) (l : List ByteArray), v = sv s ∧ In ES W (sv s) l ∧ (∀ e ∈ l, e.size ≤ 140737488351232) ∧ l.length * 16 ≤ 140737488351232 := by
  rcases open_slice Try.underlying25 h with ⟨hc, _⟩ | ⟨a, len, cap, m, k, D, Pl, hc, _, hl, hm, hmm, hx, hall⟩
  · simp only [List.cons.injEq, and_true] at hc
    exact ⟨(none, 0, 0), [], hc, .inl ⟨rfl, rfl⟩, fun o ho => (by cases ho), by simp⟩
  · simp only [List.cons.injEq, and_true] at hc
    simp only [if_true] at hmm
    subst hmm
    have hw : len * 16 ≤ 140737488351232 := by
      have := hsz (((List.range len).map D).length * 16 + ((List.range (m - len)).map fun j => D (len + j)).length * 16) (by
        rw [hx]
        simp only [DataW.weights, Try.underlying25, bytes9, List.mem_cons]
        exact .inl (by rw [Nat.add_mul]))
      simp only [List.length_map, List.length_range, reachBytes] at this
      omega
    have each : ∀ i, i < len → ∃ e : ByteArray, W.cells? 0 (a.add (i * 1)) 1 = some [.string e] ∧ e.size ≤ 140737488351232 := fun i hi => by
      obtain ⟨cs', h1, h2⟩ := hall i (by omega)
      rw [cells9] at h1
      obtain ⟨_, hlen, _⟩ := World.cells?_some h1
      obtain ⟨s3, e3, q3, _⟩ := DataW.trod_string Try.underlying9 h2
      subst e3
      refine ⟨s3, h1, ?_⟩
      have := hsz s3.size (by
        rw [hx]
        simp only [DataW.weights, Try.underlying25, List.mem_cons, List.mem_append]
        exact .inr (.inl (weightsAll_mem (d := D i) (List.mem_map.2 ⟨i, List.mem_range.2 hi, rfl⟩) (by
          have hD := congrArg Prod.fst q3
          simp only at hD
          rw [hD]
          simp [DataW.weights]))))
      simpa [reachBytes] using this
    obtain ⟨f, hfo⟩ := choose_lt each
    refine ⟨(some a, len, m), (List.range len).map f, ?_, ?_, fun e he => ?_, by simpa using hw⟩
    · rw [hc]; rfl
    · show In ES W (.slice (some a) len m) _
      exact in_of_cells okS f hl (by unfold maxLen at hm; omega) fun i hi => (hfo i hi).1
    · obtain ⟨i, hi, rfl⟩ := List.mem_map.1 he
      exact (hfo i (List.mem_range.1 hi)).2
end Go.Proofs.Ytdgdjanchpfleaa
