/- The script opened, with its size. -/
import Derived.Test.YtaaocgppniflcaaE0
namespace Go.Proofs.Ytaaocgppniflcaa
open Go.ChangeShapes Go.WideShapes Go.ChangeAt Go.RowKit Go.Deep
set_option linter.unusedVariables false
set_option linter.unusedSimpArgs false

theorem bytes29 : Try.prog.bytesOf 29 = 32 := by kernel_rfl
set_option maxRecDepth 100000 in
theorem open_script2 {H : Type} {enc : TypeId × Value → H} {W : World} {v : Value} {n : Nat} {x : DataW H × List MemPlace} (h : DataW.trod enc Try.prog W 0 (fun _ => true) true n 22 [v] = some x) (hsz : ∀ n ∈ x.1.weights Try.prog 22, n ≤ reachBytes) :
    ∃ os : List OP, In EO W v os ∧ (∀ o ∈ os, I64 o.2.1) ∧ os.length * 32 ≤ 140737488351232 := by
  rcases open_slice Try.underlying22 h with ⟨hc, _⟩ | ⟨a, len, cap, m, k, D, Pl, hc, _, hl, hm, hmm, hx, hall⟩
  · simp only [List.cons.injEq, and_true] at hc
    exact ⟨[], .inl ⟨hc, rfl⟩, fun o ho => (by cases ho), by simp⟩
  · simp only [List.cons.injEq, and_true] at hc
    simp only [if_true] at hmm
    subst hmm
    have hw : len * 32 ≤ 140737488351232 := by
      have := hsz (((List.range len).map D).length * 32 + ((List.range (m - len)).map fun j => D (len + j)).length * 32) (by
        rw [hx]
        simp only [DataW.weights, Try.underlying22, bytes29, List.mem_cons]
        exact .inl (by rw [Nat.add_mul]))
      simp only [List.length_map, List.length_range, reachBytes] at this
      omega
    have each : ∀ i, i < m → ∃ q : OP, W.cells? 0 (a.add (i * 4)) 4 = some [.bool q.1, .int .i64 q.2.1, .bool q.2.2.1, .int .i64 q.2.2.2] ∧ I64 q.2.1 := fun i hi => by
      obtain ⟨cs', h1, h2⟩ := hall i hi
      rw [cells29] at h1
      obtain ⟨_, hlen, _⟩ := World.cells?_some h1
      obtain ⟨xs, k', hk, hxy, _, hxl, hf⟩ := DataW.trod_struct Try.underlying29 h2
      match xs, hxl, cs', hlen with
      | [y0, y1, y2, y3], _, [v0, v1, v2, v3], _ =>
        have g0 := hf 0 _ rfl
        have g1 := hf 1 _ rfl
        have g2 := hf 2 _ rfl
        have g3 := hf 3 _ rfl
        simp [cells3, cells4, cells2] at g0 g1 g2 g3
        obtain ⟨n0, e0, _⟩ := DataW.trod_bool Try.underlying4 g0
        obtain ⟨n1, e1, _, w1⟩ := DataW.trod_int Try.underlying2 g1
        obtain ⟨n2, e2, _⟩ := DataW.trod_bool Try.underlying4 g2
        obtain ⟨n3, e3, _⟩ := DataW.trod_int Try.underlying3 g3
        simp only [List.cons.injEq, and_true] at e0 e1 e2 e3
        subst e0 e1 e2 e3
        exact ⟨(n0, n1, n2, n3), h1, wf_I64 w1⟩
    obtain ⟨f, hf⟩ := choose_lt each
    refine ⟨(List.range len).map f, ?_, fun o ho => ?_, by simpa using hw⟩
    · rw [hc]
      exact in_of_cells okO f hl (by unfold maxLen at hm; omega) fun i hi => (hf i (by omega)).1
    · obtain ⟨i, hi, rfl⟩ := List.mem_map.1 ho
      exact (hf i (by simp at hi; omega)).2
end Go.Proofs.Ytaaocgppniflcaa
