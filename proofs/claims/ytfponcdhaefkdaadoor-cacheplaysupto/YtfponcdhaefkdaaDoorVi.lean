import Derived.Test.YtfponcdhaefkdaaDoorVe
import Derived.Test.YtfponcdhaefkdaaDoorVh
/- A script and bounds among the arguments, of bounded bulk. -/
namespace Go.Proofs.YtfponcdhaefkdaaDoor
open Go.ChangeShapes Go.WideShapes Go.ChangeAt Go.RowKit Go.Deep
set_option linter.unusedVariables false
set_option linter.unusedSimpArgs false
theorem cells26x : Tryd.prog.cellsOf 26 = 3 := by kernel_rfl
theorem cells2' : Tryd.prog.cellsOf 2 = 1 := by kernel_rfl
theorem cells60' : Tryd.prog.cellsOf 60 = 13 := by kernel_rfl
theorem cells36' : Tryd.prog.cellsOf 36 = 4 := by kernel_rfl
theorem bytes60 : Tryd.prog.bytesOf 60 = 184 := by kernel_rfl
theorem wf_i64' {n : Int} (h : (Lit.int .i64 n).wf = true) : -9223372036854775808 ≤ n ∧ n ≤ 9223372036854775807 := by
  simp [Lit.wf] at h
  have h1 : IntKind.i64.min = -9223372036854775808 := by decide
  rw [h1] at h
  exact h
theorem bulk_mem {H : Type} : ∀ {ds : List (DataW H)} {d : DataW H}, d ∈ ds → Rows.uptoBulk d ≤ Rows.uptoBulkAll ds
  | d0 :: ds, d, hd => by
    simp only [Rows.uptoBulkAll]
    rcases List.mem_cons.1 hd with rfl | hd
    · omega
    · have := bulk_mem hd; omega
  | [], d, hd => by cases hd
set_option maxRecDepth 100000 in
theorem open_responseT {H : Type} {enc : TypeId × Value → H} {W : World} {cs : List Value} {n : Nat} {x : DataW H × List MemPlace} (hlen : cs.length = 3) (h : DataW.trod enc Tryd.prog W 0 (fun _ => true) true n 26 cs = some x) (hsz : ∀ n ∈ x.1.weights Tryd.prog 26, n ≤ reachBytes) :
    ∃ (n : Int) (b : ByteArray) (y : SV) (l : List Fd), cs = (rsv n (sv y) b).toList ∧ In EFd W (sv y) l ∧ (∀ e ∈ l, e.n.size ≤ 140737488351232 ∧ e.v.size ≤ 140737488351232) ∧ l.length * 40 ≤ 140737488351232 ∧ b.size ≤ 140737488351232 ∧ totF l ≤ Rows.uptoBulk x.1 := by
  obtain ⟨xs, k', hk, hxy, _, hxl, hf⟩ := DataW.trod_struct Tryd.underlying26 h
  obtain ⟨d, p⟩ := x
  simp only at hsz ⊢
  match xs, hxl, cs, hlen with
  | [y0, y1, y2], _, [v0, v1, v2], _ =>
    have g0 := hf 0 _ rfl
    have g1 := hf 1 _ rfl
    have g2 := hf 2 _ rfl
    simp [cells3', cells9, cells22, Value.cells] at g0 g1 g2
    obtain ⟨n0, e0, q0, _⟩ := DataW.trod_int Tryd.underlying3 g0
    obtain ⟨n2, e2, q2, _⟩ := DataW.trod_string Tryd.underlying9 g2
    simp only [List.cons.injEq, and_true] at e0 e2
    subst e0 e2
    have hd : d = .agg ([y0, y1, y2].map (·.1)) := congrArg Prod.fst hxy
    have hin : ∀ z, (z ∈ y1.1.weights Tryd.prog 22 ∨ z ∈ y2.1.weights Tryd.prog 9) → z ≤ reachBytes := fun z hz => hsz z (by
      rw [hd]
      simp only [DataW.weights, Tryd.underlying26, List.map_cons, List.map_nil, DataW.weightsEach, List.mem_append]
      rcases hz with hz | hz <;> simp [hz])
    obtain ⟨sl, fl, rfl, hI, hz1, hz2, hz3⟩ := open_fieldsC g1 fun z hz => hin z (.inl hz)
    refine ⟨n0, n2, sl, fl, rfl, hI, hz1, hz2, ?_, ?_⟩
    · have := hin n2.size (.inr (by rw [q2]; simp [DataW.weights]))
      simpa [reachBytes] using this
    · rw [hd]
      simp only [List.map_cons, List.map_nil, Rows.uptoBulk, Rows.uptoBulkAll]
      omega
set_option maxRecDepth 100000 in
theorem open_requestT {H : Type} {enc : TypeId × Value → H} {W : World} {cs : List Value} {n : Nat} {x : DataW H × List MemPlace} (hlen : cs.length = 6) (h : DataW.trod enc Tryd.prog W 0 (fun _ => true) true n 24 cs = some x) (hsz : ∀ n ∈ x.1.weights Tryd.prog 24, n ≤ reachBytes) :
    ∃ (m s a q b : ByteArray) (y : SV) (l : List Fd), cs = (rqv ⟨m, s, a, q, y, b⟩).toList ∧ In EFd W (sv y) l ∧ (∀ e ∈ l, e.n.size ≤ 140737488351232 ∧ e.v.size ≤ 140737488351232) ∧ l.length * 40 ≤ 140737488351232 ∧ m.size ≤ 140737488351232 ∧ s.size ≤ 140737488351232 ∧ a.size ≤ 140737488351232 ∧ q.size ≤ 140737488351232 ∧ b.size ≤ 140737488351232 ∧ totF l ≤ Rows.uptoBulk x.1 := by
  obtain ⟨xs, k', hk, hxy, _, hxl, hf⟩ := DataW.trod_struct Tryd.underlying24 h
  obtain ⟨d, p⟩ := x
  simp only at hsz ⊢
  match xs, hxl, cs, hlen with
  | [y0, y1, y2, y3, y4, y5], _, [v0, v1, v2, v3, v4, v5], _ =>
    have g0 := hf 0 _ rfl
    have g1 := hf 1 _ rfl
    have g2 := hf 2 _ rfl
    have g3 := hf 3 _ rfl
    have g4 := hf 4 _ rfl
    have g5 := hf 5 _ rfl
    simp [cells9, cells22, Value.cells] at g0 g1 g2 g3 g4 g5
    obtain ⟨n0, e0, q0, _⟩ := DataW.trod_string Tryd.underlying9 g0
    obtain ⟨n1, e1, q1, _⟩ := DataW.trod_string Tryd.underlying9 g1
    obtain ⟨n2, e2, q2, _⟩ := DataW.trod_string Tryd.underlying9 g2
    obtain ⟨n3, e3, q3, _⟩ := DataW.trod_string Tryd.underlying9 g3
    obtain ⟨n5, e5, q5, _⟩ := DataW.trod_string Tryd.underlying9 g5
    simp only [List.cons.injEq, and_true] at e0 e1 e2 e3 e5
    subst e0 e1 e2 e3 e5
    have hd : d = .agg ([y0, y1, y2, y3, y4, y5].map (·.1)) := congrArg Prod.fst hxy
    have hin : ∀ z, (z ∈ y0.1.weights Tryd.prog 9 ∨ z ∈ y1.1.weights Tryd.prog 9 ∨ z ∈ y2.1.weights Tryd.prog 9 ∨ z ∈ y3.1.weights Tryd.prog 9 ∨ z ∈ y4.1.weights Tryd.prog 22 ∨ z ∈ y5.1.weights Tryd.prog 9) → z ≤ reachBytes := fun z hz => hsz z (by
      rw [hd]
      simp only [DataW.weights, Tryd.underlying24, List.map_cons, List.map_nil, DataW.weightsEach, List.mem_append]
      rcases hz with hz | hz | hz | hz | hz | hz <;> simp [hz])
    obtain ⟨sl, fl, rfl, hI, hz1, hz2, hz3⟩ := open_fieldsC g4 fun z hz => hin z (.inr (.inr (.inr (.inr (.inl hz)))))
    refine ⟨n0, n1, n2, n3, n5, sl, fl, rfl, hI, hz1, hz2, ?_, ?_, ?_, ?_, ?_, ?_⟩
    · have := hin n0.size (.inl (by rw [q0]; simp [DataW.weights]))
      simpa [reachBytes] using this
    · have := hin n1.size (.inr (.inl (by rw [q1]; simp [DataW.weights])))
      simpa [reachBytes] using this
    · have := hin n2.size (.inr (.inr (.inl (by rw [q2]; simp [DataW.weights]))))
      simpa [reachBytes] using this
    · have := hin n3.size (.inr (.inr (.inr (.inl (by rw [q3]; simp [DataW.weights])))))
      simpa [reachBytes] using this
    · have := hin n5.size (.inr (.inr (.inr (.inr (.inr (by rw [q5]; simp [DataW.weights]))))))
      simpa [reachBytes] using this
    · rw [hd]
      simp only [List.map_cons, List.map_nil, Rows.uptoBulk, Rows.uptoBulkAll]
      omega
set_option maxRecDepth 100000 in
theorem open_conf {H : Type} {enc : TypeId × Value → H} {W : World} {v : Value} {d : DataW H} {p : List MemPlace} {b0 : Nat} (hval : Value.okWide Tryd.prog W .any b0 36 v) (h : DataW.Trod enc Tryd.prog W 0 (fun _ => true) true 36 v d p) : ∃ a b c e : Int, v = .agg #[.int .i64 a, .int .i64 b, .int .i64 c, .int .i64 e] := by
  obtain ⟨cs, rfl, hcs⟩ := okWide_struct Tryd.underlying36 hval
  rw [cells36'] at hcs
  obtain ⟨fuel, hf0⟩ := h
  obtain ⟨xs, k', hk, hxy, _, hxl, hf⟩ := DataW.trod_struct Tryd.underlying36 hf0
  have hlen : cs.toList.length = 4 := by simpa using hcs
  obtain ⟨l⟩ := cs
  match xs, hxl, l, hlen with
  | [y0, y1, y2, y3], _, [v0, v1, v2, v3], _ =>
    have g0 := hf 0 _ rfl
    have g1 := hf 1 _ rfl
    have g2 := hf 2 _ rfl
    have g3 := hf 3 _ rfl
    simp [cells2', Value.cells] at g0 g1 g2 g3
    obtain ⟨n0, e0, _, _⟩ := DataW.trod_int Tryd.underlying2 g0
    obtain ⟨n1, e1, _, _⟩ := DataW.trod_int Tryd.underlying2 g1
    obtain ⟨n2, e2, _, _⟩ := DataW.trod_int Tryd.underlying2 g2
    obtain ⟨n3, e3, _, _⟩ := DataW.trod_int Tryd.underlying2 g3
    simp only [List.cons.injEq, and_true] at e0 e1 e2 e3
    subst e0 e1 e2 e3
    exact ⟨n0, n1, n2, n3, rfl⟩
set_option maxRecDepth 100000 in
set_option maxHeartbeats 4000000 in
/-- a script among the arguments -/
theorem open_script {H : Type} {enc : TypeId × Value → H} {W : World} {v : Value} {n : Nat} {x : DataW H × List MemPlace} (h : DataW.trod enc Tryd.prog W 0 (fun _ => true) true n 53 [v] = some x) (hsz : ∀ n ∈ x.1.weights Tryd.prog 53, n ≤ reachBytes) (hbk : Rows.uptoBulk x.1 ≤ 1048576) :
    ∃ (s : SV) (l : List Os), v = sv s ∧ In EO W (sv s) l ∧ (∀ o ∈ l, Oi W o) ∧ l.length ≤ 1099511627776 := by
  rcases open_slice Tryd.underlying53 h with ⟨hc, _⟩ | ⟨a, len, cap, m, k, D, Pl, hc, _, hl, hm, hmm, hx, hall⟩
  · simp only [List.cons.injEq, and_true] at hc
    exact ⟨(none, 0, 0), [], hc, .inl ⟨rfl, rfl⟩, fun o ho => (by cases ho), by simp⟩
  · simp only [List.cons.injEq, and_true] at hc
    simp only [if_true] at hmm
    subst hmm
    have hw : len * 184 ≤ 140737488351232 := by
      have := hsz (((List.range len).map D).length * 184 + ((List.range (m - len)).map fun j => D (len + j)).length * 184) (by
        rw [hx]
        simp only [DataW.weights, Tryd.underlying53, bytes60, List.mem_cons]
        exact .inl (by rw [Nat.add_mul]))
      simp only [List.length_map, List.length_range, reachBytes] at this
      omega
    have each : ∀ i, i < len → ∃ o : Os, W.cells? 0 (a.add (i * 13)) 13 = some (opv o).toList ∧ Oi W o := fun i hi => by
      obtain ⟨cs', h1, h2⟩ := hall i (by omega)
      rw [cells60'] at h1
      obtain ⟨_, hlen, _⟩ := World.cells?_some h1
      have hbi : Rows.uptoBulk (D i) ≤ 1048576 := by
        have h3 := bulk_mem (ds := (List.range len).map D) (d := D i) (List.mem_map.2 ⟨i, List.mem_range.2 hi, rfl⟩)
        rw [hx] at hbk
        simp only [Rows.uptoBulk] at hbk
        omega
      obtain ⟨xs, k', hk, hxy, _, hxl, hf⟩ := DataW.trod_struct Tryd.underlying60 h2
      match xs, hxl, cs', hlen with
      | [y0, y1, y2, y3, y4, y5], _, [v0, v1, v2, v3, v4, v5, v6, v7, v8, v9, v10, v11, v12], _ =>
        have g0 := hf 0 _ rfl
        have g1 := hf 1 _ rfl
        have g2 := hf 2 _ rfl
        have g3 := hf 3 _ rfl
        have g4 := hf 4 _ rfl
        have g5 := hf 5 _ rfl
        simp [cells3', cells4, cells24, cells26x, cells2'] at g0 g1 g2 g3 g4 g5
        obtain ⟨n0, e0, _, _⟩ := DataW.trod_int Tryd.underlying3 g0
        obtain ⟨n1, e1, _⟩ := DataW.trod_bool Tryd.underlying4 g1
        obtain ⟨n4, e4, _, _⟩ := DataW.trod_int Tryd.underlying2 g4
        obtain ⟨n5, e5, _, w5⟩ := DataW.trod_int Tryd.underlying2 g5
        simp only [List.cons.injEq, and_true] at e0 e1 e4 e5
        subst e0 e1 e4 e5
        have hd : D i = .agg ([y0, y1, y2, y3, y4, y5].map (·.1)) := congrArg Prod.fst hxy
        have hin : ∀ z, (z ∈ y2.1.weights Tryd.prog 24 ∨ z ∈ y3.1.weights Tryd.prog 26) → z ≤ reachBytes := fun z hz => hsz z (by
          rw [hx]
          simp only [DataW.weights, Tryd.underlying53, List.mem_cons, List.mem_append]
          refine .inr (.inl (weightsAll_mem (d := D i) (List.mem_map.2 ⟨i, List.mem_range.2 hi, rfl⟩) ?_))
          rw [hd]
          simp only [DataW.weights, Tryd.underlying60, List.map_cons, List.map_nil, DataW.weightsEach, List.mem_append]
          rcases hz with hz | hz <;> simp [hz])
        rw [hd] at hbi
        simp only [List.map_cons, List.map_nil, Rows.uptoBulk, Rows.uptoBulkAll] at hbi
        obtain ⟨qm, qs, qa, qp, qb, qy, ql, eq, hIq, zq1, zq2, zm, zs, za, zp, zb, zt⟩ := open_requestT rfl g2 (fun z hz => hin z (.inl hz))
        obtain ⟨rn, rb, ry, rl, er, hIr, zr1, zr2, zrb, zrt⟩ := open_responseT rfl g3 (fun z hz => hin z (.inr hz))
        simp only [rqv, rsv, List.cons.injEq, and_true] at eq er
        obtain ⟨rfl, rfl, rfl, rfl, rfl, rfl⟩ := eq
        obtain ⟨rfl, rfl, rfl⟩ := er
        exact ⟨⟨n0, n1, ⟨qm, qs, qa, qp, qy, qb⟩, rn, ry, rb, n4, n5, ql, rl⟩, h1, ⟨hIq, hIr, az_of ⟨zm, zs, za, zp⟩ zq1 (Nat.le_trans zt (by omega)) zr1 (Nat.le_trans zrt (by omega)) zrb, (wf_i64' w5).2⟩⟩
    have : Inhabited Os := ⟨⟨0, false, ⟨⟨#[]⟩, ⟨#[]⟩, ⟨#[]⟩, ⟨#[]⟩, (none, 0, 0), ⟨#[]⟩⟩, 0, (none, 0, 0), ⟨#[]⟩, 0, 0, [], []⟩⟩
    obtain ⟨f, hfo⟩ := choose_lt each
    refine ⟨(some a, len, m), (List.range len).map f, ?_, ?_, fun o ho => ?_, by simp; omega⟩
    · rw [hc]; rfl
    · show In EO W (.slice (some a) len m) _
      exact in_of_cells okO f hl (by unfold maxLen at hm; omega) fun i hi => (hfo i hi).1
    · obtain ⟨i, hi, rfl⟩ := List.mem_map.1 ho
      exact (hfo i (List.mem_range.1 hi)).2
end Go.Proofs.YtfponcdhaefkdaaDoor
/- A script, its values small; the mark of CachePlays. -/
namespace Go.Proofs.YtfponcdhaefkdaaDoor
open Go.ChangeShapes Go.WideShapes Go.ChangeAt Go.RowKit Go.Deep
set_option linter.unusedVariables false
set_option linter.unusedSimpArgs false
theorem vs_small {l : List Fd} {s : ByteArray} (h : ∀ e ∈ l, e.n.size ≤ 140737488351232 ∧ e.v.size ≤ 140737488351232) : ∀ v ∈ vsL l s, v.size ≤ 140737488351232 := by
  intro v hv
  obtain ⟨f, hf, he⟩ := List.mem_filterMap.1 hv
  split at he
  · injection he with he
    rw [← he]
    exact (h f hf).2
  · cases he
/-- a step, its values small -/
def Oz (W : World) (o : Os) : Prop := Oi W o ∧ ∀ v ∈ vsL o.fr varyS, v.size ≤ 140737488351232
set_option maxRecDepth 100000 in
set_option maxHeartbeats 4000000 in
/-- a script among the arguments -/
theorem open_scriptV {H : Type} {enc : TypeId × Value → H} {W : World} {v : Value} {n : Nat} {x : DataW H × List MemPlace} (h : DataW.trod enc Tryd.prog W 0 (fun _ => true) true n 53 [v] = some x) (hsz : ∀ n ∈ x.1.weights Tryd.prog 53, n ≤ reachBytes) (hbk : Rows.uptoBulk x.1 ≤ 1048576) :
    ∃ (s : SV) (l : List Os), v = sv s ∧ In EO W (sv s) l ∧ (∀ o ∈ l, Oz W o) ∧ l.length ≤ 1099511627776 := by
  rcases open_slice Tryd.underlying53 h with ⟨hc, _⟩ | ⟨a, len, cap, m, k, D, Pl, hc, _, hl, hm, hmm, hx, hall⟩
  · simp only [List.cons.injEq, and_true] at hc
    exact ⟨(none, 0, 0), [], hc, .inl ⟨rfl, rfl⟩, fun o ho => (by cases ho), by simp⟩
  · simp only [List.cons.injEq, and_true] at hc
    simp only [if_true] at hmm
    subst hmm
    have hw : len * 184 ≤ 140737488351232 := by
      have := hsz (((List.range len).map D).length * 184 + ((List.range (m - len)).map fun j => D (len + j)).length * 184) (by
        rw [hx]
        simp only [DataW.weights, Tryd.underlying53, bytes60, List.mem_cons]
        exact .inl (by rw [Nat.add_mul]))
      simp only [List.length_map, List.length_range, reachBytes] at this
      omega
    have each : ∀ i, i < len → ∃ o : Os, W.cells? 0 (a.add (i * 13)) 13 = some (opv o).toList ∧ Oz W o := fun i hi => by
      obtain ⟨cs', h1, h2⟩ := hall i (by omega)
      rw [cells60'] at h1
      obtain ⟨_, hlen, _⟩ := World.cells?_some h1
      have hbi : Rows.uptoBulk (D i) ≤ 1048576 := by
        have h3 := bulk_mem (ds := (List.range len).map D) (d := D i) (List.mem_map.2 ⟨i, List.mem_range.2 hi, rfl⟩)
        rw [hx] at hbk
        simp only [Rows.uptoBulk] at hbk
        omega
      obtain ⟨xs, k', hk, hxy, _, hxl, hf⟩ := DataW.trod_struct Tryd.underlying60 h2
      match xs, hxl, cs', hlen with
      | [y0, y1, y2, y3, y4, y5], _, [v0, v1, v2, v3, v4, v5, v6, v7, v8, v9, v10, v11, v12], _ =>
        have g0 := hf 0 _ rfl
        have g1 := hf 1 _ rfl
        have g2 := hf 2 _ rfl
        have g3 := hf 3 _ rfl
        have g4 := hf 4 _ rfl
        have g5 := hf 5 _ rfl
        simp [cells3', cells4, cells24, cells26x, cells2'] at g0 g1 g2 g3 g4 g5
        obtain ⟨n0, e0, _, _⟩ := DataW.trod_int Tryd.underlying3 g0
        obtain ⟨n1, e1, _⟩ := DataW.trod_bool Tryd.underlying4 g1
        obtain ⟨n4, e4, _, _⟩ := DataW.trod_int Tryd.underlying2 g4
        obtain ⟨n5, e5, _, w5⟩ := DataW.trod_int Tryd.underlying2 g5
        simp only [List.cons.injEq, and_true] at e0 e1 e4 e5
        subst e0 e1 e4 e5
        have hd : D i = .agg ([y0, y1, y2, y3, y4, y5].map (·.1)) := congrArg Prod.fst hxy
        have hin : ∀ z, (z ∈ y2.1.weights Tryd.prog 24 ∨ z ∈ y3.1.weights Tryd.prog 26) → z ≤ reachBytes := fun z hz => hsz z (by
          rw [hx]
          simp only [DataW.weights, Tryd.underlying53, List.mem_cons, List.mem_append]
          refine .inr (.inl (weightsAll_mem (d := D i) (List.mem_map.2 ⟨i, List.mem_range.2 hi, rfl⟩) ?_))
          rw [hd]
          simp only [DataW.weights, Tryd.underlying60, List.map_cons, List.map_nil, DataW.weightsEach, List.mem_append]
          rcases hz with hz | hz <;> simp [hz])
        rw [hd] at hbi
        simp only [List.map_cons, List.map_nil, Rows.uptoBulk, Rows.uptoBulkAll] at hbi
        obtain ⟨qm, qs, qa, qp, qb, qy, ql, eq, hIq, zq1, zq2, zm, zs, za, zp, zb, zt⟩ := open_requestT rfl g2 (fun z hz => hin z (.inl hz))
        obtain ⟨rn, rb, ry, rl, er, hIr, zr1, zr2, zrb, zrt⟩ := open_responseT rfl g3 (fun z hz => hin z (.inr hz))
        simp only [rqv, rsv, List.cons.injEq, and_true] at eq er
        obtain ⟨rfl, rfl, rfl, rfl, rfl, rfl⟩ := eq
        obtain ⟨rfl, rfl, rfl⟩ := er
        exact ⟨⟨n0, n1, ⟨qm, qs, qa, qp, qy, qb⟩, rn, ry, rb, n4, n5, ql, rl⟩, h1, ⟨⟨hIq, hIr, az_of ⟨zm, zs, za, zp⟩ zq1 (Nat.le_trans zt (by omega)) zr1 (Nat.le_trans zrt (by omega)) zrb, (wf_i64' w5).2⟩, vs_small zr1⟩⟩
    have : Inhabited Os := ⟨⟨0, false, ⟨⟨#[]⟩, ⟨#[]⟩, ⟨#[]⟩, ⟨#[]⟩, (none, 0, 0), ⟨#[]⟩⟩, 0, (none, 0, 0), ⟨#[]⟩, 0, 0, [], []⟩⟩
    obtain ⟨f, hfo⟩ := choose_lt each
    refine ⟨(some a, len, m), (List.range len).map f, ?_, ?_, fun o ho => ?_, by simp; omega⟩
    · rw [hc]; rfl
    · show In EO W (.slice (some a) len m) _
      exact in_of_cells okO f hl (by unfold maxLen at hm; omega) fun i hi => (hfo i hi).1
    · obtain ⟨i, hi, rfl⟩ := List.mem_map.1 ho
      exact (hfo i (List.mem_range.1 hi)).2
set_option maxRecDepth 100000 in
theorem mark_of_laidP {W : World} (h0 : laidMetH Tryd.prog Rows.cachePlaysRow.laid W) : ∃ mn mv mb mt, W.heap[0]? = some (.cells #[.string mn, .string mv, .bool mb] mt (0, 0)) := by
  have h : laidMet Tryd.prog [("unicode/utf8.acceptRanges", Rows.laid_unicode_utf8_acceptRanges), ("herald/heraldlaw19.mark", Rows.laid_herald_heraldlaw19_mark), ("unicode/utf8.first", Rows.laid_unicode_utf8_first)] W := h0
  obtain ⟨ps, ⟨ga, ta, ca, fa, pa, qa, _, _, _, _, ⟨g, t, cs, fuel, p, q, hg, ht, hvar, hd, hq, hqa⟩, hps⟩, _, hcell⟩ := h
  obtain rfl := Option.some.inj (gMark.symm.trans hg)
  obtain rfl := Option.some.inj (gMarkType.symm.trans ht)
  obtain ⟨xs, k', hk, hxy, hl, hxl, hf⟩ := DataW.trod_struct Tryd.underlying51 hd
  rw [cells30] at hl
  obtain ⟨l⟩ := cs
  match xs, hxl, l, hl with
  | [y0, y1, y2], _, [v0, v1, v2], _ =>
    have g0 := hf 0 _ rfl
    have g1 := hf 1 _ rfl
    have g2 := hf 2 _ rfl
    simp [cells9, cells4] at g0 g1 g2
    obtain ⟨s0, e0, q0, _⟩ := DataW.trod_string Tryd.underlying9 g0
    obtain ⟨s1, e1, q1, _⟩ := DataW.trod_string Tryd.underlying9 g1
    obtain ⟨b2, e2, q2⟩ := DataW.trod_bool Tryd.underlying4 g2
    simp only [List.cons.injEq, and_true] at e0 e1 e2
    subst e0 e1 e2
    have hpl : MemPlace.cell 0 0 ∈ ps := by
      rw [hps, hqa]
      apply List.mem_append_right
      apply List.mem_append_left
      apply List.mem_append_left
      show MemPlace.cell 0 0 ∈ MemPlace.row ⟨0, 0, none⟩ 3
      decide
    obtain ⟨⟨c, t, hc⟩, _⟩ := hcell 0 0 hpl
    refine ⟨s0, s1, b2, t, ?_⟩
    have hv : W.var? Tryd.prog "herald/heraldlaw19.mark" = some c := by
      simp [World.var?, gMark, hc]
    rw [hvar] at hv
    rw [hc, ← Option.some.inj hv]
end Go.Proofs.YtfponcdhaefkdaaDoor
