/- FeedFrames: its arguments opened. -/
import Derived.Test.YtmhbaaemihljjaaDoorE0
import Derived.Test.YtmhbaaemihljjaaDoorY7
import Derived.OpenShut
import Derived.Deep.SlicePairs
namespace Go.Proofs.YtmhbaaemihljjaaDoor
namespace Y8
open Go.ChangeShapes Go.WideShapes Go.ChangeAt Go.RowKit Go.Deep
open EM (SV sv EF okF El)
set_option linter.unusedVariables false
set_option linter.unusedSimpArgs false

theorem cells49 : Tryd.prog.cellsOf 49 = 2 := by kernel_rfl
theorem cells28 : Tryd.prog.cellsOf 28 = 11 := by kernel_rfl
theorem cells26 : Tryd.prog.cellsOf 26 = 1 := by kernel_rfl
theorem cells2 : Tryd.prog.cellsOf 2 = 1 := by kernel_rfl
theorem cells3 : Tryd.prog.cellsOf 3 = 1 := by kernel_rfl
theorem cells4 : Tryd.prog.cellsOf 4 = 1 := by kernel_rfl
theorem cells9 : Tryd.prog.cellsOf 9 = 1 := by kernel_rfl

theorem wf_i64 {n : Int} (h : (Lit.int .i64 n).wf = true) : -9223372036854775808 ≤ n ∧ n ≤ 9223372036854775807 := by
  simp [Lit.wf] at h
  have h1 : IntKind.i64.min = -9223372036854775808 := by decide
  rw [h1] at h
  exact h
theorem bulk_one {H : Type} (d : DataW H) : 1 ≤ Rows.uptoBulk d := by
  cases d with
  | lit l => cases l <;> simp [Rows.uptoBulk]
  | nil => simp [Rows.uptoBulk]
  | ptr d => simp [Rows.uptoBulk]
  | slice elems spare => simp [Rows.uptoBulk]
  | agg parts => simp [Rows.uptoBulk]
  | iface t d => simp [Rows.uptoBulk]
  | map entries => simp [Rows.uptoBulk]
  | held h => simp [Rows.uptoBulk]
theorem bulk_length {H : Type} (l : List (DataW H)) : l.length ≤ Rows.uptoBulkAll l := by
  induction l with
  | nil => simp [Rows.uptoBulkAll]
  | cons x r ih => have := bulk_one x; simp only [Rows.uptoBulkAll, List.length_cons]; omega
theorem bulk_two {H : Type} (l : List (DataW H)) (h : ∀ d ∈ l, 2 ≤ Rows.uptoBulk d) : 2 * l.length ≤ Rows.uptoBulkAll l := by
  induction l with
  | nil => simp [Rows.uptoBulkAll]
  | cons x r ih =>
    have := h x (List.mem_cons_self ..)
    have := ih fun d hd => h d (List.mem_cons_of_mem _ hd)
    simp only [Rows.uptoBulkAll, List.length_cons]
    omega
theorem bulk_mem {H : Type} {l : List (DataW H)} {d : DataW H} (h : d ∈ l) : Rows.uptoBulk d ≤ Rows.uptoBulkAll l := by
  induction l with
  | nil => cases h
  | cons x r ih =>
    simp only [Rows.uptoBulkAll]
    rcases List.mem_cons.1 h with rfl | h
    · omega
    · have := ih h; omega

def intOf' : Value → Int
  | .int _ n => n
  | _ => 0
theorem spot_none {W : World} {a : Addr} {u : Value} (h : W.cell? a = some u) : a.spot = none := by
  unfold World.cell? at h
  split at h
  · split at h
    · cases h
    · rename_i h1
      simpa using h1
  · cases h

/-- params among the arguments -/
theorem open_params {H : Type} {enc : TypeId × Value → H} {W : World} {v : Value} {n : Nat} {x : DataW H × List MemPlace} (h : DataW.trod enc Tryd.prog W 0 (fun _ => true) true n 26 [v] = some x) :
    ∃ ps, PIn W v ps ∧ ps.length ≤ Rows.uptoBulk x.1 := by
  rcases open_slice_pairs Tryd.underlying26 Tryd.underlying49 cells49 rfl rfl cells3 cells2 h with ⟨hc, _⟩ | ⟨a, len, cap, m, k, V0, V1, D0, D1, P0, P1, hc, _, hl, hm, hmm, hx, hall⟩
  · simp only [List.cons.injEq, and_true] at hc
    exact ⟨[], .inl ⟨none, 0, hc, rfl⟩, by simp⟩
  · simp only [List.cons.injEq, and_true] at hc
    simp only [if_true] at hmm
    subst hmm
    by_cases h0 : len = 0
    · subst h0
      exact ⟨[], .inl ⟨some a, m, hc, rfl⟩, by simp⟩
    · obtain ⟨B, off, spot⟩ := a
      obtain ⟨z0, _⟩ := hall 0 (by omega)
      have hsp : spot = none := by
        have := spot_none z0
        simpa [Addr.add] using this
      subst hsp
      have hbk : len ≤ Rows.uptoBulk x.1 := by
        rw [hx]
        have := bulk_length ((List.range len).map fun i => DataW.agg [D0 i, D1 i])
        simp only [List.length_map, List.length_range] at this
        simp only [Rows.uptoBulk]
        omega
      refine ⟨(List.range len).map fun i => (intOf' (V0 i), intOf' (V1 i)), .inr ⟨B, off, m, ?_, ?_, ?_, ?_, ?_⟩, by simpa using hbk⟩
      · rw [hc]; simp
      · simpa using hl
      · unfold maxLen at hm; omega
      · have := World.block_lt_of_cell? _ _ z0
        simpa [Addr.add] using this
      · intro i hi
        have hi' : i < len := by simpa using hi
        obtain ⟨c0, c1, t0, t1⟩ := hall i (by omega)
        obtain ⟨n0, e0, _⟩ := DataW.trod_int Tryd.underlying3 t0
        obtain ⟨n1, e1, _⟩ := DataW.trod_int Tryd.underlying2 t1
        simp only [List.cons.injEq, and_true] at e0 e1
        rw [e0] at c0
        rw [e1] at c1
        simp only [List.getElem_map, List.getElem_range, e0, e1, intOf']
        rw [Addr.add_lit] at c0 c1
        exact ⟨c0, by rw [Nat.add_assoc]; exact c1⟩

/-- a frame's eleven cells -/
theorem frame_cells {H : Type} {enc : TypeId × Value → H} {W : World} {cs : List Value} {n : Nat} {x : DataW H × List MemPlace} (hlen : cs.length = 11) (h : DataW.trod enc Tryd.prog W 0 (fun _ => true) true n 28 cs = some x) :
    2 ≤ Rows.uptoBulk x.1 ∧ (Rows.uptoBulk x.1 ≤ 1048576 → ∃ e : FP, cs = (fv e.1.1 (sv e.1.2)).toList ∧ PIn W (sv e.1.2) e.2 ∧ 6 * e.2.length + e.1.1.data.size ≤ 30000000) := by
  obtain ⟨xs, k', hk, hxy, _, hxl, hf⟩ := DataW.trod_struct Tryd.underlying28 h
  match xs, hxl, cs, hlen with
  | [y0, y1, y2, y3, y4, y5, y6, y7, y8, y9, y10], _, [v0, v1, v2, v3, v4, v5, v6, v7, v8, v9, v10], _ =>
    have g0 := hf 0 _ rfl
    have g1 := hf 1 _ rfl
    have g2 := hf 2 _ rfl
    have g3 := hf 3 _ rfl
    have g4 := hf 4 _ rfl
    have g5 := hf 5 _ rfl
    have g6 := hf 6 _ rfl
    have g7 := hf 7 _ rfl
    have g8 := hf 8 _ rfl
    have g9 := hf 9 _ rfl
    have g10 := hf 10 _ rfl
    simp [cells3, cells4, cells9, cells2, cells26] at g0 g1 g2 g3 g4 g5 g6 g7 g8 g9 g10
    obtain ⟨n0, e0, q0, _⟩ := DataW.trod_int Tryd.underlying3 g0
    obtain ⟨n1, e1, q1, _⟩ := DataW.trod_int Tryd.underlying3 g1
    obtain ⟨n2, e2, q2, _⟩ := DataW.trod_int Tryd.underlying2 g2
    obtain ⟨s3, e3, q3, _⟩ := DataW.trod_string Tryd.underlying9 g3
    obtain ⟨n4, e4, q4, _⟩ := DataW.trod_int Tryd.underlying3 g4
    obtain ⟨n5, e5, q5, _⟩ := DataW.trod_int Tryd.underlying2 g5
    obtain ⟨b6, e6, q6⟩ := DataW.trod_bool Tryd.underlying4 g6
    obtain ⟨n7, e7, q7, _⟩ := DataW.trod_int Tryd.underlying3 g7
    obtain ⟨n8, e8, q8, _⟩ := DataW.trod_int Tryd.underlying2 g8
    obtain ⟨n9, e9, q9, _⟩ := DataW.trod_int Tryd.underlying2 g9
    simp only [List.cons.injEq, and_true] at e0 e1 e2 e3 e4 e5 e6 e7 e8 e9
    subst e0 e1 e2 e3 e4 e5 e6 e7 e8 e9
    have hd : x.1 = .agg ([y0, y1, y2, y3, y4, y5, y6, y7, y8, y9, y10].map (·.1)) := congrArg Prod.fst hxy
    refine ⟨?_, fun hbk => ?_⟩
    · rw [hd]
      have := bulk_one y0.1
      simp only [List.map_cons, List.map_nil, Rows.uptoBulk, Rows.uptoBulkAll]
      omega
    · obtain ⟨ps, hP, hbl⟩ := open_params g10
      obtain ⟨pb, pl, pc, hv10⟩ : ∃ pb pl pc, v10 = .slice pb pl pc := by
        rcases hP with ⟨b, cap, rfl, _⟩ | ⟨B, off, cap, rfl, _⟩
        · exact ⟨_, _, _, rfl⟩
        · exact ⟨_, _, _, rfl⟩
      subst hv10
      refine ⟨((⟨n0, n1, n2, s3, n4, n5, b6, n7, n8, n9⟩, pb, pl, pc), ps), rfl, hP, ?_⟩
      rw [hd] at hbk
      simp only [List.map_cons, List.map_nil, Rows.uptoBulk, Rows.uptoBulkAll, q3] at hbk
      have hq : s3.data.toList.length = s3.size := by simp
      show 6 * ps.length + s3.size ≤ 30000000
      omega

theorem open_frame {H : Type} {enc : TypeId × Value → H} {W : World} {v : Value} {d : DataW H} {p : List MemPlace} {b0 : Nat} (hval : Value.okWide Tryd.prog W .any b0 28 v) (h : DataW.Trod enc Tryd.prog W 0 (fun _ => true) true 28 v d p) (hbk : Rows.uptoBulk d ≤ 1048576) :
    ∃ (f : Fr) (pb : Option Addr) (pl pc : Nat) (ps : List (Int × Int)), v = .agg (fv f (.slice pb pl pc)) ∧ PIn W (.slice pb pl pc) ps ∧ 6 * ps.length + f.data.size ≤ 30000000 := by
  obtain ⟨cs, rfl, hcs⟩ := okWide_struct Tryd.underlying28 hval
  rw [cells28] at hcs
  obtain ⟨fuel, hf0⟩ := h
  obtain ⟨_, h2⟩ := frame_cells (by simpa [Value.cells] using hcs) hf0
  obtain ⟨⟨⟨f, pb, pl, pc⟩, ps⟩, h3, h4, h5⟩ := h2 hbk
  refine ⟨f, pb, pl, pc, ps, ?_, h4, h5⟩
  simp only [Value.cells] at h3
  obtain ⟨l⟩ := cs
  simp only at h3
  rw [h3]
  rfl

theorem add_add (a : Addr) (x y : Nat) : (a.add x).add y = a.add (x + y) := by
  unfold Addr.add
  by_cases hx : x = 0
  · by_cases hy : y = 0 <;> simp [hx, hy]
  · by_cases hy : y = 0
    · simp [hx, hy]
    · have : x + y ≠ 0 := by omega
      simp [hx, hy, this, Nat.add_assoc]
theorem in_of_cells {α : Type} {E : El α} (ok : E.Ok) {W : World} {a : Addr} {len cap : Nat} (f : Nat → α) (hl : len ≤ cap) (hm : cap ≤ 9223372036854775807) (h : ∀ i, i < len → W.cells? 0 (a.add (i * E.sz)) E.sz = some (E.enc (f i))) :
    EM.In E W (.slice (some a) len cap) ((List.range len).map f) := by
  refine .inr ⟨a, cap, by simp, by simpa using hl, hm, fun j u hu => ?_⟩
  have hj : j < len * E.sz := by
    have := (List.getElem?_eq_some_iff.1 hu).1
    rw [ok.length] at this
    simpa using this
  have hp := ok.pos
  have hi : j / E.sz < len := Nat.div_lt_of_lt_mul (by rw [Nat.mul_comm]; exact hj)
  have hr : j % E.sz < E.sz := Nat.mod_lt _ hp
  have hjj : j / E.sz * E.sz + j % E.sz = j := by rw [Nat.mul_comm]; exact Nat.div_add_mod j E.sz
  have h1 := ok.get ((List.range len).map f) (j / E.sz) (j % E.sz) (by simpa using hi) hr
  rw [hjj, hu] at h1
  obtain ⟨_, h2, h3⟩ := World.cells?_some (h _ hi)
  have h4 := h3 (j % E.sz) hr
  rw [add_add, hjj] at h4
  rw [h4]
  simpa using h1.symm

/-- frames among the arguments -/
theorem open_frames {H : Type} {enc : TypeId × Value → H} {W : World} {sa : Option Addr} {sl sc : Nat} {d : DataW H} {p : List MemPlace} (h : DataW.Trod enc Tryd.prog W 0 (fun _ => true) true 54 (.slice sa sl sc) d p) (hb : Rows.uptoBulk d ≤ 1048576) :
    ∃ l : List FP, l.length = sl ∧ EM.In EF W (.slice sa sl sc) (l.map (·.1)) ∧ (∀ e ∈ l, PIn W (sv e.1.2) e.2 ∧ 6 * e.2.length + e.1.1.data.size ≤ 30000000) ∧ sl ≤ 1000000 := by
  obtain ⟨fuel, hf⟩ := h
  rcases open_slice Tryd.underlying54 hf with ⟨hc, _⟩ | ⟨a, len, cap, m, k, D, Pl, hc, _, hl, hm, hmm, hx, hall⟩
  · simp [Value.cells] at hc
    obtain ⟨rfl, rfl, rfl⟩ := hc
    exact ⟨[], rfl, .inl ⟨rfl, rfl⟩, fun o ho => (by cases ho), Nat.zero_le _⟩
  · simp [Value.cells] at hc
    obtain ⟨rfl, rfl, rfl⟩ := hc
    simp only [if_true] at hmm
    subst hmm
    simp only [Prod.mk.injEq] at hx
    obtain ⟨hd, hp⟩ := hx
    rw [hd] at hb
    simp only [Rows.uptoBulk] at hb
    have two : ∀ i, i < m → 2 ≤ Rows.uptoBulk (D i) := fun i hi => by
      obtain ⟨cs', h1, h2⟩ := hall i hi
      rw [cells28] at h1
      obtain ⟨_, hlen, _⟩ := World.cells?_some h1
      exact (frame_cells hlen h2).1
    have each : ∀ i, i < sl → ∃ e : FP, W.cells? 0 (a.add (i * 11)) 11 = some ((fv e.1.1 (sv e.1.2)).toList) ∧ PIn W (sv e.1.2) e.2 ∧ 6 * e.2.length + e.1.1.data.size ≤ 30000000 := fun i hi => by
      obtain ⟨cs', h1, h2⟩ := hall i (by omega)
      rw [cells28] at h1
      obtain ⟨_, hlen, _⟩ := World.cells?_some h1
      have h3 := bulk_mem (List.mem_map.2 ⟨i, List.mem_range.2 hi, rfl⟩ : D i ∈ (List.range sl).map D)
      obtain ⟨e, h4, h5, h6⟩ := (frame_cells hlen h2).2 (by show Rows.uptoBulk (D i) ≤ 1048576; omega)
      exact ⟨e, by rw [h1, h4], h5, h6⟩
    have : Inhabited FP := ⟨((Fr.zero, none, 0, 0), [])⟩
    obtain ⟨f, hfo⟩ := choose_lt each
    refine ⟨(List.range sl).map f, by simp, ?_, fun e he => ?_, ?_⟩
    · rw [List.map_map]
      exact in_of_cells okF (fun i => (f i).1) hl (by unfold maxLen at hm; omega) fun i hi => (hfo i hi).1
    · obtain ⟨i, hi, rfl⟩ := List.mem_map.1 he
      exact (hfo i (List.mem_range.1 hi)).2
    · have h1 := bulk_two ((List.range sl).map D) fun d hd => by
        obtain ⟨i, hi, rfl⟩ := List.mem_map.1 hd
        exact two i (by have := List.mem_range.1 hi; omega)
      simp only [List.length_map, List.length_range] at h1
      omega
end Y8
end Go.Proofs.YtmhbaaemihljjaaDoor
