/- Params among the arguments, opened. -/
import Derived.Test.YtmhbaaemihljjaaDoorV0
import Derived.Test.YtmhbaaemihljjaaDoorE0
import Derived.Deep.SlicePairs
namespace Go.Proofs.YtmhbaaemihljjaaDoor
open Go.ChangeShapes Go.WideShapes Go.ChangeAt Go.RowKit Go.Deep
set_option linter.unusedVariables false
set_option linter.unusedSimpArgs false

theorem cells49 : Tryd.prog.cellsOf 49 = 2 := by kernel_rfl
theorem cells2' : Tryd.prog.cellsOf 2 = 1 := by kernel_rfl
theorem bytes49 : Tryd.prog.bytesOf 49 = 16 := by kernel_rfl

def intOf' : Value → Int
  | .int _ n => n
  | _ => 0

theorem spot_none {W : World} {a : Addr} {u : Value} (h : W.cell? a = some u) : a.spot = none := by
  unfold World.cell? at h
  split at h
  · split at h
    · cases h
    · rename_i h1
      simpa using h1
  · cases h

/-- params among the arguments -/
theorem open_params {H : Type} {enc : TypeId × Value → H} {W : World} {v : Value} {n : Nat} {x : DataW H × List MemPlace} (h : DataW.trod enc Tryd.prog W 0 (fun _ => true) true n 26 [v] = some x) (hsz : ∀ n ∈ x.1.weights Tryd.prog 26, n ≤ reachBytes) :
    ∃ ps, PIn W v ps ∧ ps.length * 16 ≤ 140737488351232 := by
  rcases open_slice_pairs Tryd.underlying26 Tryd.underlying49 cells49 rfl rfl cells3 cells2' h with ⟨hc, _⟩ | ⟨a, len, cap, m, k, V0, V1, D0, D1, P0, P1, hc, _, hl, hm, hmm, hx, hall⟩
  · simp only [List.cons.injEq, and_true] at hc
    exact ⟨[], .inl ⟨none, 0, hc, rfl⟩, by simp⟩
  · simp only [List.cons.injEq, and_true] at hc
    simp only [if_true] at hmm
    subst hmm
    have hw : len * 16 ≤ 140737488351232 := by
      have := hsz (((List.range len).map fun i => DataW.agg [D0 i, D1 i]).length * 16 + ((List.range (m - len)).map fun j => DataW.agg [D0 (len + j), D1 (len + j)]).length * 16) (by
        rw [hx]
        simp only [DataW.weights, Tryd.underlying26, bytes49, List.mem_cons]
        exact .inl (by rw [Nat.add_mul]))
      simp only [List.length_map, List.length_range, reachBytes] at this
      omega
    by_cases h0 : len = 0
    · subst h0
      exact ⟨[], .inl ⟨some a, m, hc, rfl⟩, by simp⟩
    · obtain ⟨B, off, spot⟩ := a
      obtain ⟨z0, _⟩ := hall 0 (by omega)
      have hsp : spot = none := by
        have := spot_none z0
        simpa [Addr.add] using this
      subst hsp
      refine ⟨(List.range len).map fun i => (intOf' (V0 i), intOf' (V1 i)), .inr ⟨B, off, m, ?_, ?_, ?_, ?_, ?_⟩, ?_⟩
      · rw [hc]; simp
      · simpa using hl
      · unfold maxLen at hm; omega
      · have := World.block_lt_of_cell? _ _ z0
        simpa [Addr.add] using this
      · intro i hi
        have hi' : i < len := by simpa using hi
        obtain ⟨c0, c1, t0, t1⟩ := hall i (by omega)
        obtain ⟨n0, e0, _⟩ := DataW.trod_int Tryd.underlying3 t0
        obtain ⟨n1, e1, _⟩ := DataW.trod_int Tryd.underlying2 t1
        simp only [List.cons.injEq, and_true] at e0 e1
        rw [e0] at c0
        rw [e1] at c1
        simp only [List.getElem_map, List.getElem_range, e0, e1, intOf']
        rw [Addr.add_lit] at c0 c1
        exact ⟨c0, by rw [Nat.add_assoc]; exact c1⟩
      · simpa using hw

end Go.Proofs.YtmhbaaemihljjaaDoor
