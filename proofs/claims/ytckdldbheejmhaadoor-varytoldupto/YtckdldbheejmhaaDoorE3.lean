/- A response among the arguments of the second form. -/
import Derived.Test.YtckdldbheejmhaaDoorE2
import Derived.Test.YtckdldbheejmhaaDoorK1
namespace Go.Proofs.YtckdldbheejmhaaDoor
open Go.ChangeShapes Go.WideShapes Go.ChangeAt Go.RowKit Go.Deep
set_option linter.unusedVariables false
set_option linter.unusedSimpArgs false
theorem totV_map {H : Type} (f : Nat → Fd) (D : Nat → DataW H) : ∀ L : List Nat, (∀ i ∈ L, (f i).v.size + 1 ≤ Rows.uptoBulk (D i)) → totV (L.map f) ≤ Rows.uptoBulkAll (L.map D)
  | [], _ => by simp [totV, Rows.uptoBulkAll]
  | i :: L, h => by
    have h1 := h i (by simp)
    have h2 := totV_map f D L fun j hj => h j (by simp [hj])
    simp only [List.map_cons, totV, Rows.uptoBulkAll]
    omega
set_option maxRecDepth 100000 in
/-- fields among the arguments -/
theorem open_fieldsB {H : Type} {enc : TypeId × Value → H} {W : World} {v : Value} {n : Nat} {x : DataW H × List MemPlace} (h : DataW.trod enc Tryd.prog W 0 (fun _ => true) true n 22 [v] = some x) (hsz : ∀ n ∈ x.1.weights Tryd.prog 22, n ≤ reachBytes) :
    ∃ (s : SV) (l : List Fd), v = sv s ∧ In EFd W (sv s) l ∧ (∀ e ∈ l, e.n.size ≤ 140737488351232 ∧ e.v.size ≤ 140737488351232) ∧ l.length * 40 ≤ 140737488351232 ∧ totV l ≤ Rows.uptoBulk x.1 := by
  rcases open_slice Tryd.underlying22 h with ⟨hc, _⟩ | ⟨a, len, cap, m, k, D, Pl, hc, _, hl, hm, hmm, hx, hall⟩
  · simp only [List.cons.injEq, and_true] at hc
    exact ⟨(none, 0, 0), [], hc, .inl ⟨rfl, rfl⟩, fun o ho => (by cases ho), by simp, Nat.zero_le _⟩
  · simp only [List.cons.injEq, and_true] at hc
    simp only [if_true] at hmm
    subst hmm
    have hw : len * 40 ≤ 140737488351232 := by
      have := hsz (((List.range len).map D).length * 40 + ((List.range (m - len)).map fun j => D (len + j)).length * 40) (by
        rw [hx]
        simp only [DataW.weights, Tryd.underlying22, bytes30, List.mem_cons]
        exact .inl (by rw [Nat.add_mul]))
      simp only [List.length_map, List.length_range, reachBytes] at this
      omega
    have each : ∀ i, i < len → ∃ e : Fd, W.cells? 0 (a.add (i * 3)) 3 = some (fdv e).toList ∧ (e.n.size ≤ 140737488351232 ∧ e.v.size ≤ 140737488351232) ∧ e.v.size + 1 ≤ Rows.uptoBulk (D i) := fun i hi => by
      obtain ⟨cs', h1, h2⟩ := hall i (by omega)
      rw [cells30] at h1
      obtain ⟨_, hlen, _⟩ := World.cells?_some h1
      obtain ⟨xs, k', hk, hxy, _, hxl, hf⟩ := DataW.trod_struct Tryd.underlying30 h2
      match xs, hxl, cs', hlen with
      | [y0, y1, y2], _, [v0, v1, v2], _ =>
        have g0 := hf 0 _ rfl
        have g1 := hf 1 _ rfl
        have g2 := hf 2 _ rfl
        simp [cells9, cells4] at g0 g1 g2
        obtain ⟨s0, e0, q0, _⟩ := DataW.trod_string Tryd.underlying9 g0
        obtain ⟨s1, e1, q1, _⟩ := DataW.trod_string Tryd.underlying9 g1
        obtain ⟨b2, e2, q2⟩ := DataW.trod_bool Tryd.underlying4 g2
        simp only [List.cons.injEq, and_true] at e0 e1 e2
        subst e0 e1 e2
        have hd : D i = .agg ([y0, y1, y2].map (·.1)) := congrArg Prod.fst hxy
        have hin : ∀ z, z ∈ y0.1.weights Tryd.prog 9 ∨ z ∈ y1.1.weights Tryd.prog 9 → z ≤ reachBytes := fun z hz => hsz z (by
          rw [hx]
          simp only [DataW.weights, Tryd.underlying22, List.mem_cons, List.mem_append]
          refine .inr (.inl (weightsAll_mem (d := D i) (List.mem_map.2 ⟨i, List.mem_range.2 hi, rfl⟩) ?_))
          rw [hd]
          simp only [DataW.weights, Tryd.underlying30, List.map_cons, List.map_nil, DataW.weightsEach, List.mem_append]
          rcases hz with hz | hz <;> simp [hz])
        refine ⟨⟨s0, s1, b2⟩, h1, ⟨?_, ?_⟩, ?_⟩
        · have := hin s0.size (.inl (by rw [q0]; simp [DataW.weights]))
          simpa [reachBytes] using this
        · have := hin s1.size (.inr (by rw [q1]; simp [DataW.weights]))
          simpa [reachBytes] using this
        · rw [hd, show y1 = _ from q1]
          simp only [List.map_cons, List.map_nil, Rows.uptoBulk, Rows.uptoBulkAll]
          have h5 := Lib.size_eq s1
          omega
    have : Inhabited Fd := ⟨⟨⟨#[]⟩, ⟨#[]⟩, false⟩⟩
    obtain ⟨f, hfo⟩ := choose_lt each
    refine ⟨(some a, len, m), (List.range len).map f, ?_, ?_, fun e he => ?_, by simpa using hw, ?_⟩
    · rw [hc]; rfl
    · show In EFd W (.slice (some a) len m) _
      exact in_of_cells okFd f hl (by unfold maxLen at hm; omega) fun i hi => (hfo i hi).1
    · obtain ⟨i, hi, rfl⟩ := List.mem_map.1 he
      exact (hfo i (List.mem_range.1 hi)).2.1
    · rw [hx]
      have := totV_map f D (List.range len) fun i hi => (hfo i (List.mem_range.1 hi)).2.2
      simp only [Rows.uptoBulk]
      omega

set_option maxRecDepth 100000 in
theorem open_responseB {H : Type} {enc : TypeId × Value → H} {W : World} {v : Value} {d : DataW H} {p : List MemPlace} {b0 : Nat} (hval : Value.okWide Tryd.prog W .any b0 35 v) (h : DataW.Trod enc Tryd.prog W 0 (fun _ => true) true 35 v d p) (hsz : ∀ n ∈ d.weights Tryd.prog 35, n ≤ reachBytes) :
    ∃ (n : Int) (b : ByteArray) (y : SV) (l : List Fd), v = .agg (rsv n (sv y) b) ∧ In EFd W (sv y) l ∧ (∀ e ∈ l, e.n.size ≤ 140737488351232 ∧ e.v.size ≤ 140737488351232) ∧ l.length * 40 ≤ 140737488351232 ∧ b.size ≤ 140737488351232 ∧ totV l ≤ Rows.uptoBulk d := by
  obtain ⟨cs, rfl, hcs⟩ := okWide_struct Tryd.underlying35 hval
  rw [cells35'] at hcs
  obtain ⟨fuel, hf0⟩ := h
  obtain ⟨xs, k', hk, hxy, _, hxl, hf⟩ := DataW.trod_struct Tryd.underlying35 hf0
  have hlen : cs.toList.length = 3 := by simpa using hcs
  obtain ⟨l⟩ := cs
  match xs, hxl, l, hlen with
  | [y0, y1, y2], _, [v0, v1, v2], _ =>
    have g0 := hf 0 _ rfl
    have g1 := hf 1 _ rfl
    have g2 := hf 2 _ rfl
    simp [cells3', cells9, cells22, Value.cells] at g0 g1 g2
    obtain ⟨n0, e0, q0, _⟩ := DataW.trod_int Tryd.underlying3 g0
    obtain ⟨n2, e2, q2, _⟩ := DataW.trod_string Tryd.underlying9 g2
    simp only [List.cons.injEq, and_true] at e0 e2
    subst e0 e2
    have hd : d = .agg ([y0, y1, y2].map (·.1)) := congrArg Prod.fst hxy
    have hin : ∀ z, (z ∈ y1.1.weights Tryd.prog 22 ∨ z ∈ y2.1.weights Tryd.prog 9) → z ≤ reachBytes := fun z hz => hsz z (by
      rw [hd]
      simp only [DataW.weights, Tryd.underlying35, List.map_cons, List.map_nil, DataW.weightsEach, List.mem_append]
      rcases hz with hz | hz <;> simp [hz])
    obtain ⟨sl, fl, rfl, hI, hz1, hz2, hz3⟩ := open_fieldsB g1 fun z hz => hin z (.inl hz)
    refine ⟨n0, n2, sl, fl, rfl, hI, hz1, hz2, ?_, ?_⟩
    · have := hin n2.size (.inr (by rw [q2]; simp [DataW.weights]))
      simpa [reachBytes] using this
    · rw [hd]
      simp only [List.map_cons, List.map_nil, Rows.uptoBulk, Rows.uptoBulkAll]
      omega
end Go.Proofs.YtckdldbheejmhaaDoor
