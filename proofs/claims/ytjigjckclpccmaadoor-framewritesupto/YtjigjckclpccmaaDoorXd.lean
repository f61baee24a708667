/- A frame among the arguments, opened, of a bulk that is bounded. -/
import Derived.Test.YtjigjckclpccmaaDoorE4
import Derived.Test.YtjigjckclpccmaaDoorXb
namespace Go.Proofs.YtjigjckclpccmaaDoor
open Go.ChangeShapes Go.WideShapes Go.ChangeAt Go.RowKit Go.Deep
open Go.ChangeMaps (open_string shut_string)
set_option linter.unusedVariables false
set_option linter.unusedSimpArgs false

theorem bulk_one {H : Type} (d : DataW H) : 1 ≤ Rows.uptoBulk d := by
  cases d with
  | lit l => cases l <;> simp [Rows.uptoBulk]
  | nil => simp [Rows.uptoBulk]
  | ptr d => simp [Rows.uptoBulk]
  | slice elems spare => simp [Rows.uptoBulk]
  | agg parts => simp [Rows.uptoBulk]
  | iface t d => simp [Rows.uptoBulk]
  | map entries => simp [Rows.uptoBulk]
  | held h => simp [Rows.uptoBulk]
theorem bulkAll_len {H : Type} (ds : List (DataW H)) : ds.length ≤ Rows.uptoBulkAll ds := by
  induction ds with
  | nil => simp [Rows.uptoBulkAll]
  | cons d r ih =>
    have := bulk_one d
    simp only [Rows.uptoBulkAll, List.length_cons]
    omega

/-- params among the arguments -/
theorem open_params_upto {H : Type} {enc : TypeId × Value → H} {W : World} {v : Value} {n : Nat} {x : DataW H × List MemPlace} (h : DataW.trod enc Tryd.prog W 0 (fun _ => true) true n 22 [v] = some x) (hsz : ∀ n ∈ x.1.weights Tryd.prog 22, n ≤ reachBytes) :
    ∃ ps, PIn W v ps ∧ ps.length * 16 ≤ 140737488351232 ∧ PZ v ∧ ps.length ≤ Rows.uptoBulk x.1 := by
  rcases open_slice_pairs Tryd.underlying22 Tryd.underlying37 cells37 rfl rfl cells3 cells2' h with ⟨hc, _⟩ | ⟨a, len, cap, m, k, V0, V1, D0, D1, P0, P1, hc, _, hl, hm, hmm, hx, hall⟩
  · simp only [List.cons.injEq, and_true] at hc
    exact ⟨[], .inl ⟨none, 0, hc, rfl⟩, by simp, .inl hc, by simp⟩
  · simp only [List.cons.injEq, and_true] at hc
    simp only [if_true] at hmm
    subst hmm
    have hw : len * 16 ≤ 140737488351232 := by
      have := hsz (((List.range len).map fun i => DataW.agg [D0 i, D1 i]).length * 16 + ((List.range (m - len)).map fun j => DataW.agg [D0 (len + j), D1 (len + j)]).length * 16) (by
        rw [hx]
        simp only [DataW.weights, Tryd.underlying22, bytes37, List.mem_cons]
        exact .inl (by rw [Nat.add_mul]))
      simp only [List.length_map, List.length_range, reachBytes] at this
      omega
    by_cases h0 : len = 0
    · subst h0
      exact ⟨[], .inl ⟨some a, m, hc, rfl⟩, by simp, .inr ⟨_, _, _, hc⟩, by simp⟩
    · obtain ⟨B, off, spot⟩ := a
      obtain ⟨z0, _⟩ := hall 0 (by omega)
      have hsp : spot = none := by
        have := spot_none z0
        simpa [Addr.add] using this
      subst hsp
      have hbk : len ≤ Rows.uptoBulk x.1 := by
        rw [hx]
        have := bulkAll_len ((List.range len).map fun i => DataW.agg [D0 i, D1 i])
        simp only [List.length_map, List.length_range] at this
        simp only [Rows.uptoBulk]
        omega
      refine ⟨(List.range len).map fun i => (intOf' (V0 i), intOf' (V1 i)), .inr ⟨B, off, m, ?_, ?_, ?_, ?_, ?_⟩, ?_, .inr ⟨_, _, _, hc⟩, by simpa using hbk⟩
      · rw [hc]; simp
      · simpa using hl
      · unfold maxLen at hm; omega
      · have := World.block_lt_of_cell? _ _ z0
        simpa [Addr.add] using this
      · intro i hi
        have hi' : i < len := by simpa using hi
        obtain ⟨c0, c1, t0, t1⟩ := hall i (by omega)
        obtain ⟨n0, e0, _⟩ := DataW.trod_int Tryd.underlying3 t0
        obtain ⟨n1, e1, _⟩ := DataW.trod_int Tryd.underlying2 t1
        simp only [List.cons.injEq, and_true] at e0 e1
        rw [e0] at c0
        rw [e1] at c1
        simp only [List.getElem_map, List.getElem_range, e0, e1, intOf']
        rw [Addr.add_lit] at c0 c1
        exact ⟨c0, by rw [Nat.add_assoc]; exact c1⟩
      · simpa using hw

theorem open_frame_upto {H : Type} {enc : TypeId × Value → H} {W : World} {v : Value} {d : DataW H} {p : List MemPlace} {b0 : Nat} (hval : Value.okWide Tryd.prog W .any b0 28 v) (h : DataW.Trod enc Tryd.prog W 0 (fun _ => true) true 28 v d p) (hsz : ∀ n ∈ d.weights Tryd.prog 28, n ≤ reachBytes) (hbk : Rows.uptoBulk d ≤ 1048576) :
    ∃ (f : Fr) (pb : Option Addr) (pl pc : Nat) (ps : List (Int × Int)), v = .agg (fv f (.slice pb pl pc)) ∧ PIn W (.slice pb pl pc) ps ∧ PZ (.slice pb pl pc) ∧ ps.length + f.data.size ≤ 1048576 := by
  obtain ⟨cs, rfl, hcs⟩ := okWide_struct Tryd.underlying28 hval
  rw [cells28] at hcs
  obtain ⟨fuel, hf0⟩ := h
  obtain ⟨xs, k', hk, hxy, _, hxl, hf⟩ := DataW.trod_struct Tryd.underlying28 hf0
  have hlen : cs.toList.length = 11 := by simpa using hcs
  obtain ⟨l⟩ := cs
  match xs, hxl, l, hlen with
  | [y0, y1, y2, y3, y4, y5, y6, y7, y8, y9, y10], _, [v0, v1, v2, v3, v4, v5, v6, v7, v8, v9, v10], _ =>
    have g0 := hf 0 _ rfl
    have g1 := hf 1 _ rfl
    have g2 := hf 2 _ rfl
    have g3 := hf 3 _ rfl
    have g4 := hf 4 _ rfl
    have g5 := hf 5 _ rfl
    have g6 := hf 6 _ rfl
    have g7 := hf 7 _ rfl
    have g8 := hf 8 _ rfl
    have g9 := hf 9 _ rfl
    have g10 := hf 10 _ rfl
    simp [cells3, cells4, cells9, cells2', cells22, Value.cells] at g0 g1 g2 g3 g4 g5 g6 g7 g8 g9 g10
    obtain ⟨n0, e0, q0, _⟩ := DataW.trod_int Tryd.underlying3 g0
    obtain ⟨n1, e1, q1, _⟩ := DataW.trod_int Tryd.underlying3 g1
    obtain ⟨n2, e2, q2, _⟩ := DataW.trod_int Tryd.underlying2 g2
    obtain ⟨s3, e3, q3, _⟩ := DataW.trod_string Tryd.underlying9 g3
    obtain ⟨n4, e4, q4, _⟩ := DataW.trod_int Tryd.underlying3 g4
    obtain ⟨n5, e5, q5, _⟩ := DataW.trod_int Tryd.underlying2 g5
    obtain ⟨b6, e6, q6⟩ := DataW.trod_bool Tryd.underlying4 g6
    obtain ⟨n7, e7, q7, _⟩ := DataW.trod_int Tryd.underlying3 g7
    obtain ⟨n8, e8, q8, _⟩ := DataW.trod_int Tryd.underlying2 g8
    obtain ⟨n9, e9, q9, _⟩ := DataW.trod_int Tryd.underlying2 g9
    simp only [List.cons.injEq, and_true] at e0 e1 e2 e3 e4 e5 e6 e7 e8 e9
    subst e0 e1 e2 e3 e4 e5 e6 e7 e8 e9
    have hd : d = .agg ([y0, y1, y2, y3, y4, y5, y6, y7, y8, y9, y10].map (·.1)) := congrArg Prod.fst hxy
    have hw3 : s3.size ≤ 140737488351232 := by
      have := hsz s3.size (by
        rw [hd, q3]
        simp [DataW.weights, Tryd.underlying28, DataW.weightsEach])
      simpa [reachBytes] using this
    obtain ⟨ps, hP, hl, hz, hbl⟩ := open_params_upto g10 (fun n hn => hsz n (by
      rw [hd]
      simp only [DataW.weights, Tryd.underlying28, List.map_cons, List.map_nil, DataW.weightsEach, List.mem_append]
      simp [hn]))
    obtain ⟨pb, pl, pc, hv10⟩ : ∃ pb pl pc, v10 = .slice pb pl pc := by
      rcases hP with ⟨b, cap, rfl, _⟩ | ⟨B, off, cap, rfl, _⟩
      · exact ⟨_, _, _, rfl⟩
      · exact ⟨_, _, _, rfl⟩
    subst hv10
    refine ⟨⟨n0, n1, n2, s3, n4, n5, b6, n7, n8, n9⟩, pb, pl, pc, ps, rfl, hP, hz, ?_⟩
    rw [hd] at hbk
    simp only [List.map_cons, List.map_nil, Rows.uptoBulk, Rows.uptoBulkAll, q3] at hbk
    have hq : s3.data.toList.length = s3.size := by simp
    show ps.length + s3.size ≤ 1048576
    omega
end Go.Proofs.YtjigjckclpccmaaDoor
