/- Origins and what is asked among the arguments. -/
import Derived.Test.YtbifmikndpeafaaDoorP0
namespace Go.Proofs.YtbifmikndpeafaaDoor
open Go.ChangeShapes Go.WideShapes Go.ChangeAt Go.RowKit Go.Deep
set_option linter.unusedVariables false
set_option linter.unusedSimpArgs false
theorem wf_i64 {n : Int} (h : (Lit.int .i64 n).wf = true) : -9223372036854775808 ≤ n ∧ n ≤ 9223372036854775807 := by
  simp [Lit.wf] at h
  have h1 : IntKind.i64.min = -9223372036854775808 := by decide
  rw [h1] at h
  exact h
set_option maxRecDepth 100000 in
/-- an origin among the arguments -/
theorem open_origin {H : Type} {enc : TypeId × Value → H} {W : World} {v : Value} {d : DataW H} {p : List MemPlace} {b0 : Nat} (hval : Value.okWide Tryd.prog W .any b0 23 v) (h : DataW.Trod enc Tryd.prog W 0 (fun _ => true) true 23 v d p) (hsz : ∀ n ∈ d.weights Tryd.prog 23, n ≤ reachBytes) :
    ∃ o : Og, v = .agg (ogv o) ∧ ow o ∧ o.s.size ≤ 140737488351232 ∧ o.h.size ≤ 140737488351232 := by
  obtain ⟨cs, rfl, hcs⟩ := okWide_struct Tryd.underlying23 hval
  rw [cells23] at hcs
  obtain ⟨fuel, hf0⟩ := h
  obtain ⟨xs, k', hk, hxy, _, hxl, hf⟩ := DataW.trod_struct Tryd.underlying23 hf0
  have hlen : cs.toList.length = 3 := by simpa using hcs
  obtain ⟨l⟩ := cs
  match xs, hxl, l, hlen with
  | [y0, y1, y2], _, [v0, v1, v2], _ =>
    have g0 := hf 0 _ rfl
    have g1 := hf 1 _ rfl
    have g2 := hf 2 _ rfl
    simp [cells9, cells3, Value.cells] at g0 g1 g2
    obtain ⟨n0, e0, q0, _⟩ := DataW.trod_string Tryd.underlying9 g0
    obtain ⟨n1, e1, q1, _⟩ := DataW.trod_string Tryd.underlying9 g1
    obtain ⟨n2, e2, q2, w2⟩ := DataW.trod_int Tryd.underlying3 g2
    simp only [List.cons.injEq, and_true] at e0 e1 e2
    subst e0 e1 e2
    have hd : d = .agg ([y0, y1, y2].map (·.1)) := congrArg Prod.fst hxy
    have hin : ∀ z, z ∈ y0.1.weights Tryd.prog 9 ∨ z ∈ y1.1.weights Tryd.prog 9 → z ≤ reachBytes := fun z hz => hsz z (by
      rw [hd]
      simp only [DataW.weights, Tryd.underlying23, List.map_cons, List.map_nil, DataW.weightsEach, List.mem_append]
      rcases hz with hz | hz <;> simp [hz])
    have z0 : n0.size ≤ 140737488351232 := by
      have := hin n0.size (.inl (by rw [q0]; simp [DataW.weights]))
      simpa [reachBytes] using this
    have z1 : n1.size ≤ 140737488351232 := by
      have := hin n1.size (.inr (by rw [q1]; simp [DataW.weights]))
      simpa [reachBytes] using this
    exact ⟨⟨n0, n1, n2⟩, rfl, ⟨⟨Nat.le_trans z0 (by decide), Nat.le_trans z1 (by decide)⟩, (wf_i64 w2).1, (wf_i64 w2).2⟩, z0, z1⟩
set_option maxRecDepth 100000 in
/-- origins among the arguments -/
theorem open_origins {H : Type} {enc : TypeId × Value → H} {W : World} {v : Value} {n : Nat} {x : DataW H × List MemPlace} (h : DataW.trod enc Tryd.prog W 0 (fun _ => true) true n 35 [v] = some x) (hsz : ∀ n ∈ x.1.weights Tryd.prog 35, n ≤ reachBytes) :
    ∃ (s : SV) (l : List Og), v = sv s ∧ In EO W (sv s) l ∧ (∀ e ∈ l, ow e ∧ e.s.size ≤ 140737488351232 ∧ e.h.size ≤ 140737488351232) ∧ l.length * 40 ≤ 140737488351232 := by
  rcases open_slice Tryd.underlying35 h with ⟨hc, _⟩ | ⟨a, len, cap, m, k, D, Pl, hc, _, hl, hm, hmm, hx, hall⟩
  · simp only [List.cons.injEq, and_true] at hc
    exact ⟨(none, 0, 0), [], hc, .inl ⟨rfl, rfl⟩, fun o ho => (by cases ho), by simp⟩
  · simp only [List.cons.injEq, and_true] at hc
    simp only [if_true] at hmm
    subst hmm
    have hw : len * 40 ≤ 140737488351232 := by
      have := hsz (((List.range len).map D).length * 40 + ((List.range (m - len)).map fun j => D (len + j)).length * 40) (by
        rw [hx]
        simp only [DataW.weights, Tryd.underlying35, bytes23, List.mem_cons]
        exact .inl (by rw [Nat.add_mul]))
      simp only [List.length_map, List.length_range, reachBytes] at this
      omega
    have each : ∀ i, i < len → ∃ e : Og, W.cells? 0 (a.add (i * 3)) 3 = some (ogv e).toList ∧ ow e ∧ e.s.size ≤ 140737488351232 ∧ e.h.size ≤ 140737488351232 := fun i hi => by
      obtain ⟨cs', h1, h2⟩ := hall i (by omega)
      rw [cells23] at h1
      obtain ⟨_, hlen, _⟩ := World.cells?_some h1
      obtain ⟨xs, k', hk, hxy, _, hxl, hf⟩ := DataW.trod_struct Tryd.underlying23 h2
      match xs, hxl, cs', hlen with
      | [y0, y1, y2], _, [v0, v1, v2], _ =>
        have g0 := hf 0 _ rfl
        have g1 := hf 1 _ rfl
        have g2 := hf 2 _ rfl
        simp [cells9, cells3] at g0 g1 g2
        obtain ⟨s0, e0, q0, _⟩ := DataW.trod_string Tryd.underlying9 g0
        obtain ⟨s1, e1, q1, _⟩ := DataW.trod_string Tryd.underlying9 g1
        obtain ⟨b2, e2, q2, w2⟩ := DataW.trod_int Tryd.underlying3 g2
        simp only [List.cons.injEq, and_true] at e0 e1 e2
        subst e0 e1 e2
        have hd : D i = .agg ([y0, y1, y2].map (·.1)) := congrArg Prod.fst hxy
        have hin : ∀ z, z ∈ y0.1.weights Tryd.prog 9 ∨ z ∈ y1.1.weights Tryd.prog 9 → z ≤ reachBytes := fun z hz => hsz z (by
          rw [hx]
          simp only [DataW.weights, Tryd.underlying35, List.mem_cons, List.mem_append]
          refine .inr (.inl (weightsAll_mem (d := D i) (List.mem_map.2 ⟨i, List.mem_range.2 hi, rfl⟩) ?_))
          rw [hd]
          simp only [DataW.weights, Tryd.underlying23, List.map_cons, List.map_nil, DataW.weightsEach, List.mem_append]
          rcases hz with hz | hz <;> simp [hz])
        have z0 : s0.size ≤ 140737488351232 := by
          have := hin s0.size (.inl (by rw [q0]; simp [DataW.weights]))
          simpa [reachBytes] using this
        have z1 : s1.size ≤ 140737488351232 := by
          have := hin s1.size (.inr (by rw [q1]; simp [DataW.weights]))
          simpa [reachBytes] using this
        exact ⟨⟨s0, s1, b2⟩, h1, ⟨⟨Nat.le_trans z0 (by decide), Nat.le_trans z1 (by decide)⟩, (wf_i64 w2).1, (wf_i64 w2).2⟩, z0, z1⟩
    have : Inhabited Og := ⟨og0⟩
    obtain ⟨f, hfo⟩ := choose_lt each
    refine ⟨(some a, len, m), (List.range len).map f, ?_, ?_, fun e he => ?_, by simpa using hw⟩
    · rw [hc]; rfl
    · show In EO W (.slice (some a) len m) _
      exact in_of_cells okO f hl (by unfold maxLen at hm; omega) fun i hi => (hfo i hi).1
    · obtain ⟨i, hi, rfl⟩ := List.mem_map.1 he
      exact (hfo i (List.mem_range.1 hi)).2
/-- what is asked: a scheme and an authority -/
def EA : El (ByteArray × ByteArray) := ⟨45, 51, 2, 32, fun t => [.string t.1, .string t.2]⟩
theorem okA : EA.Ok := ⟨Tryd.underlying45, by kernel_rfl, by decide, by decide, fun _ => rfl, fun a u hu => by
  simp only [EA, List.mem_cons, List.not_mem_nil, or_false] at hu
  rcases hu with rfl | rfl <;> rfl⟩
set_option maxRecDepth 100000 in
theorem open_asked {H : Type} {enc : TypeId × Value → H} {W : World} {v : Value} {n : Nat} {x : DataW H × List MemPlace} (h : DataW.trod enc Tryd.prog W 0 (fun _ => true) true n 45 [v] = some x) (hsz : ∀ n ∈ x.1.weights Tryd.prog 45, n ≤ reachBytes) :
    ∃ (s : SV) (l : List (ByteArray × ByteArray)), v = sv s ∧ In EA W (sv s) l ∧ (∀ e ∈ l, e.1.size ≤ 140737488351232 ∧ e.2.size ≤ 140737488351232) := by
  rcases open_slice Tryd.underlying45 h with ⟨hc, _⟩ | ⟨a, len, cap, m, k, D, Pl, hc, _, hl, hm, hmm, hx, hall⟩
  · simp only [List.cons.injEq, and_true] at hc
    exact ⟨(none, 0, 0), [], hc, .inl ⟨rfl, rfl⟩, fun o ho => (by cases ho)⟩
  · simp only [List.cons.injEq, and_true] at hc
    simp only [if_true] at hmm
    subst hmm
    have each : ∀ i, i < len → ∃ e : ByteArray × ByteArray, W.cells? 0 (a.add (i * 2)) 2 = some [.string e.1, .string e.2] ∧ e.1.size ≤ 140737488351232 ∧ e.2.size ≤ 140737488351232 := fun i hi => by
      obtain ⟨cs', h1, h2⟩ := hall i (by omega)
      rw [cells51] at h1
      obtain ⟨_, hlen, _⟩ := World.cells?_some h1
      obtain ⟨xs, k', hk, hxy, _, hxl, hf⟩ := DataW.trod_struct Tryd.underlying51 h2
      match xs, hxl, cs', hlen with
      | [y0, y1], _, [v0, v1], _ =>
        have g0 := hf 0 _ rfl
        have g1 := hf 1 _ rfl
        simp [cells9] at g0 g1
        obtain ⟨s0, e0, q0, _⟩ := DataW.trod_string Tryd.underlying9 g0
        obtain ⟨s1, e1, q1, _⟩ := DataW.trod_string Tryd.underlying9 g1
        simp only [List.cons.injEq, and_true] at e0 e1
        subst e0 e1
        have hd : D i = .agg ([y0, y1].map (·.1)) := congrArg Prod.fst hxy
        have hin : ∀ z, z ∈ y0.1.weights Tryd.prog 9 ∨ z ∈ y1.1.weights Tryd.prog 9 → z ≤ reachBytes := fun z hz => hsz z (by
          rw [hx]
          simp only [DataW.weights, Tryd.underlying45, List.mem_cons, List.mem_append]
          refine .inr (.inl (weightsAll_mem (d := D i) (List.mem_map.2 ⟨i, List.mem_range.2 hi, rfl⟩) ?_))
          rw [hd]
          simp only [DataW.weights, Tryd.underlying51, List.map_cons, List.map_nil, DataW.weightsEach, List.mem_append]
          rcases hz with hz | hz <;> simp [hz])
        refine ⟨⟨s0, s1⟩, h1, ?_, ?_⟩
        · have := hin s0.size (.inl (by rw [q0]; simp [DataW.weights]))
          simpa [reachBytes] using this
        · have := hin s1.size (.inr (by rw [q1]; simp [DataW.weights]))
          simpa [reachBytes] using this
    have : Inhabited (ByteArray × ByteArray) := ⟨(⟨#[]⟩, ⟨#[]⟩)⟩
    obtain ⟨f, hfo⟩ := choose_lt each
    refine ⟨(some a, len, m), (List.range len).map f, ?_, ?_, fun e he => ?_⟩
    · rw [hc]; rfl
    · show In EA W (.slice (some a) len m) _
      exact in_of_cells okA f hl (by unfold maxLen at hm; omega) fun i hi => (hfo i hi).1
    · obtain ⟨i, hi, rfl⟩ := List.mem_map.1 he
      exact (hfo i (List.mem_range.1 hi)).2
end Go.Proofs.YtbifmikndpeafaaDoor
