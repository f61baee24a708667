/- The arguments opened. -/
import Derived.Test.YtdgdjanchpfleaaS
import Derived.ProofKit
import Derived.OpenShut
import Derived.SizedLaws
import Derived.Deep.DeepHandedRow
import Derived.Deep.SlicePairs
namespace Go.Proofs.Ytdgdjanchpfleaa
open Go.ChangeShapes Go.WideShapes Go.ChangeAt Go.RowKit Go.Deep
set_option linter.unusedVariables false
set_option linter.unusedSimpArgs false

theorem own : ownKnob Try.prog.godebug = none := by kernel_rfl
theorem laidOut : laidOutB Try.prog = true := by kernel_rfl
theorem cells24 : Try.prog.cellsOf 24 = 11 := by kernel_rfl
theorem cells45 : Try.prog.cellsOf 45 = 2 := by kernel_rfl
theorem cells22 : Try.prog.cellsOf 22 = 1 := by kernel_rfl
theorem cells2 : Try.prog.cellsOf 2 = 1 := by kernel_rfl
theorem cells3 : Try.prog.cellsOf 3 = 1 := by kernel_rfl
theorem cells4 : Try.prog.cellsOf 4 = 1 := by kernel_rfl
theorem cells9 : Try.prog.cellsOf 9 = 1 := by kernel_rfl
theorem bytes45 : Try.prog.bytesOf 45 = 16 := by kernel_rfl
theorem bytes24 : Try.prog.bytesOf 24 = 112 := by kernel_rfl

/-- One argument's weights are among all. -/
theorem weights_of {H : Type} {ts : List TypeId} {ds : List (DataW H)} (h : (DataW.weightsEach Try.prog ts ds).all (· ≤ reachBytes) = true) {j : Nat} {t : TypeId} {d : DataW H} (ht : ts[j]? = some t) (hd : ds[j]? = some d) :
    ∀ n ∈ d.weights Try.prog t, n ≤ reachBytes := fun n hn => by
  have := List.all_eq_true.1 h n (DataW.weights_mem_each ht hd n hn)
  simpa using this
theorem weightsAll_mem {H : Type} {P : Program} {e : TypeId} : ∀ {ds : List (DataW H)} {d : DataW H} {n : Nat}, d ∈ ds → n ∈ d.weights P e → n ∈ DataW.weightsAll P e ds
  | d0 :: ds, d, n, hd, hn => by
    simp only [DataW.weightsAll, List.mem_append]
    rcases List.mem_cons.1 hd with rfl | hd
    · exact .inl hn
    · exact .inr (weightsAll_mem hd hn)
  | [], d, n, hd, hn => by cases hd

theorem add_add (a : Addr) (x y : Nat) : (a.add x).add y = a.add (x + y) := by
  unfold Addr.add
  by_cases hx : x = 0
  · by_cases hy : y = 0 <;> simp [hx, hy]
  · by_cases hy : y = 0
    · simp [hx, hy]
    · have : x + y ≠ 0 := by omega
      simp [hx, hy, this, Nat.add_assoc]

theorem in_of_cells {α : Type} {E : El α} (ok : E.Ok) {W : World} {a : Addr} {len cap : Nat} (f : Nat → α) (hl : len ≤ cap) (hm : cap ≤ 9223372036854775807) (h : ∀ i, i < len → W.cells? 0 (a.add (i * E.sz)) E.sz = some (E.enc (f i))) :
    In E W (.slice (some a) len cap) ((List.range len).map f) := by
  refine .inr ⟨a, cap, by simp, by simpa using hl, hm, fun j u hu => ?_⟩
  have hj : j < len * E.sz := by
    have := (List.getElem?_eq_some_iff.1 hu).1
    rw [ok.length] at this
    simpa using this
  have hp := ok.pos
  have hi : j / E.sz < len := Nat.div_lt_of_lt_mul (by rw [Nat.mul_comm]; exact hj)
  have hr : j % E.sz < E.sz := Nat.mod_lt _ hp
  have hjj : j / E.sz * E.sz + j % E.sz = j := by rw [Nat.mul_comm]; exact Nat.div_add_mod j E.sz
  have h1 := ok.get ((List.range len).map f) (j / E.sz) (j % E.sz) (by simpa using hi) hr
  rw [hjj, hu] at h1
  obtain ⟨_, h2, h3⟩ := World.cells?_some (h _ hi)
  have h4 := h3 (j % E.sz) hr
  rw [add_add, hjj] at h4
  rw [h4]
  simpa using h1.symm

/-- params among the arguments -/
theorem open_params {H : Type} {enc : TypeId × Value → H} {W : World} {v : Value} {n : Nat} {x : DataW H × List MemPlace} (h : DataW.trod enc Try.prog W 0 (fun _ => true) true n 22 [v] = some x) (hsz : ∀ n ∈ x.1.weights Try.prog 22, n ≤ reachBytes) :
    ∃ (s : SV) (l : List (Int × Int)), v = sv s ∧ In EP W (sv s) l ∧ l.length * 16 ≤ 140737488351232 := by
  rcases open_slice Try.underlying22 h with ⟨hc, _⟩ | ⟨a, len, cap, m, k, D, Pl, hc, _, hl, hm, hmm, hx, hall⟩
  · simp only [List.cons.injEq, and_true] at hc
    exact ⟨(none, 0, 0), [], hc, .inl ⟨rfl, rfl⟩, by simp⟩
  · simp only [List.cons.injEq, and_true] at hc
    simp only [if_true] at hmm
    subst hmm
    have hw : len * 16 ≤ 140737488351232 := by
      have := hsz (((List.range len).map D).length * 16 + ((List.range (m - len)).map fun j => D (len + j)).length * 16) (by
        rw [hx]
        simp only [DataW.weights, Try.underlying22, bytes45, List.mem_cons]
        exact .inl (by rw [Nat.add_mul]))
      simp only [List.length_map, List.length_range, reachBytes] at this
      omega
    have each : ∀ i, i < m → ∃ q : Int × Int, W.cells? 0 (a.add (i * 2)) 2 = some [.int .i64 q.1, .int .i64 q.2] := fun i hi => by
      obtain ⟨cs', h1, h2⟩ := hall i hi
      rw [cells45] at h1
      obtain ⟨_, hlen, _⟩ := World.cells?_some h1
      obtain ⟨xs, k', hk, hxy, _, hxl, hf⟩ := DataW.trod_struct Try.underlying45 h2
      match xs, hxl, cs', hlen with
      | [y0, y1], _, [v0, v1], _ =>
        have g0 := hf 0 _ rfl
        have g1 := hf 1 _ rfl
        simp [cells3, cells2] at g0 g1
        obtain ⟨n0, e0, _⟩ := DataW.trod_int Try.underlying3 g0
        obtain ⟨n1, e1, _⟩ := DataW.trod_int Try.underlying2 g1
        simp only [List.cons.injEq, and_true] at e0 e1
        subst e0 e1
        exact ⟨(n0, n1), h1⟩
    obtain ⟨f, hf⟩ := choose_lt each
    refine ⟨(some a, len, m), (List.range len).map f, ?_, ?_, by simpa using hw⟩
    · rw [hc]; rfl
    · show In EP W (.slice (some a) len m) _
      exact in_of_cells okP f hl (by unfold maxLen at hm; omega) fun i hi => hf i (by omega)

/-- a frame's eleven cells -/
theorem frame_cells {H : Type} {enc : TypeId × Value → H} {W : World} {cs : List Value} {n : Nat} {x : DataW H × List MemPlace} (hlen : cs.length = 11) (h : DataW.trod enc Try.prog W 0 (fun _ => true) true n 24 cs = some x) (hsz : ∀ n ∈ x.1.weights Try.prog 24, n ≤ reachBytes) :
    ∃ (f : Fr) (s : SV) (ps : List (Int × Int)), cs = (fv f (sv s)).toList ∧ In EP W (sv s) ps ∧ ps.length * 16 ≤ 140737488351232 ∧ f.data.size ≤ 140737488351232 := by
  obtain ⟨xs, k', hk, hxy, _, hxl, hf⟩ := DataW.trod_struct Try.underlying24 h
  match xs, hxl, cs, hlen with
  | [y0, y1, y2, y3, y4, y5, y6, y7, y8, y9, y10], _, [v0, v1, v2, v3, v4, v5, v6, v7, v8, v9, v10], _ =>
    have g0 := hf 0 _ rfl
    have g1 := hf 1 _ rfl
    have g2 := hf 2 _ rfl
    have g3 := hf 3 _ rfl
    have g4 := hf 4 _ rfl
    have g5 := hf 5 _ rfl
    have g6 := hf 6 _ rfl
    have g7 := hf 7 _ rfl
    have g8 := hf 8 _ rfl
    have g9 := hf 9 _ rfl
    have g10 := hf 10 _ rfl
    simp [cells3, cells4, cells9, cells2, cells22] at g0 g1 g2 g3 g4 g5 g6 g7 g8 g9 g10
    obtain ⟨n0, e0, q0, _⟩ := DataW.trod_int Try.underlying3 g0
    obtain ⟨n1, e1, q1, _⟩ := DataW.trod_int Try.underlying3 g1
    obtain ⟨n2, e2, q2, _⟩ := DataW.trod_int Try.underlying2 g2
    obtain ⟨s3, e3, q3, _⟩ := DataW.trod_string Try.underlying9 g3
    obtain ⟨n4, e4, q4, _⟩ := DataW.trod_int Try.underlying3 g4
    obtain ⟨n5, e5, q5, _⟩ := DataW.trod_int Try.underlying2 g5
    obtain ⟨b6, e6, q6⟩ := DataW.trod_bool Try.underlying4 g6
    obtain ⟨n7, e7, q7, _⟩ := DataW.trod_int Try.underlying3 g7
    obtain ⟨n8, e8, q8, _⟩ := DataW.trod_int Try.underlying2 g8
    obtain ⟨n9, e9, q9, _⟩ := DataW.trod_int Try.underlying2 g9
    simp only [List.cons.injEq, and_true] at e0 e1 e2 e3 e4 e5 e6 e7 e8 e9
    subst e0 e1 e2 e3 e4 e5 e6 e7 e8 e9
    have hd : x.1 = .agg ([y0, y1, y2, y3, y4, y5, y6, y7, y8, y9, y10].map (·.1)) := congrArg Prod.fst hxy
    have hin : ∀ z, z ∈ y10.1.weights Try.prog 22 → z ≤ reachBytes := fun z hz => hsz z (by
      rw [hd]
      simp only [DataW.weights, Try.underlying24, List.map_cons, List.map_nil, DataW.weightsEach, List.mem_append]
      simp [hz])
    have hin3 : ∀ z, z ∈ y3.1.weights Try.prog 9 → z ≤ reachBytes := fun z hz => hsz z (by
      rw [hd]
      simp only [DataW.weights, Try.underlying24, List.map_cons, List.map_nil, DataW.weightsEach, List.mem_append]
      simp [hz])
    obtain ⟨s, ps, rfl, hI, hl⟩ := open_params g10 hin
    refine ⟨⟨n0, n1, n2, s3, n4, n5, b6, n7, n8, n9⟩, s, ps, rfl, hI, hl, ?_⟩
    have := hin3 s3.size (by rw [q3]; simp [DataW.weights])
    simpa [reachBytes] using this

/-- a frame among the arguments -/
theorem open_frame {H : Type} {enc : TypeId × Value → H} {W : World} {v : Value} {d : DataW H} {p : List MemPlace} {b0 : Nat} (hval : Value.okWide Try.prog W .any b0 24 v) (h : DataW.Trod enc Try.prog W 0 (fun _ => true) true 24 v d p) (hsz : ∀ n ∈ d.weights Try.prog 24, n ≤ reachBytes) :
    ∃ (f : Fr) (s : SV) (ps : List (Int × Int)), v = .agg (fv f (sv s)) ∧ In EP W (sv s) ps ∧ ps.length * 16 ≤ 140737488351232 ∧ f.data.size ≤ 140737488351232 := by
  obtain ⟨cs, rfl, hcs⟩ := okWide_struct Try.underlying24 hval
  rw [cells24] at hcs
  obtain ⟨fuel, hf0⟩ := h
  obtain ⟨f, s, ps, h3, h4, h5, h6⟩ := frame_cells (by simpa [Value.cells] using hcs) hf0 hsz
  refine ⟨f, s, ps, ?_, h4, h5, h6⟩
  simp only [Value.cells] at h3
  obtain ⟨l⟩ := cs
  simp only at h3
  rw [h3]

/-- a frame, its params' slice, its params -/
abbrev FP := (Fr × SV) × List (Int × Int)
/-- frames among the arguments -/
theorem open_frames {H : Type} {enc : TypeId × Value → H} {W : World} {v : Value} {n : Nat} {x : DataW H × List MemPlace} (h : DataW.trod enc Try.prog W 0 (fun _ => true) true n 37 [v] = some x) (hsz : ∀ n ∈ x.1.weights Try.prog 37, n ≤ reachBytes) :
    ∃ (s : SV) (l : List FP), v = sv s ∧ In EF W (sv s) (l.map (·.1)) ∧ (∀ e ∈ l, In EP W (sv e.1.2) e.2 ∧ e.2.length * 16 ≤ 140737488351232 ∧ e.1.1.data.size ≤ 140737488351232) ∧ l.length * 112 ≤ 140737488351232 := by
  rcases open_slice Try.underlying37 h with ⟨hc, _⟩ | ⟨a, len, cap, m, k, D, Pl, hc, _, hl, hm, hmm, hx, hall⟩
  · simp only [List.cons.injEq, and_true] at hc
    exact ⟨(none, 0, 0), [], hc, .inl ⟨rfl, rfl⟩, fun o ho => (by cases ho), by simp⟩
  · simp only [List.cons.injEq, and_true] at hc
    simp only [if_true] at hmm
    subst hmm
    have hw : len * 112 ≤ 140737488351232 := by
      have := hsz (((List.range len).map D).length * 112 + ((List.range (m - len)).map fun j => D (len + j)).length * 112) (by
        rw [hx]
        simp only [DataW.weights, Try.underlying37, bytes24, List.mem_cons]
        exact .inl (by rw [Nat.add_mul]))
      simp only [List.length_map, List.length_range, reachBytes] at this
      omega
    have each : ∀ i, i < len → ∃ e : FP, W.cells? 0 (a.add (i * 11)) 11 = some ((fv e.1.1 (sv e.1.2)).toList) ∧ In EP W (sv e.1.2) e.2 ∧ e.2.length * 16 ≤ 140737488351232 ∧ e.1.1.data.size ≤ 140737488351232 := fun i hi => by
      obtain ⟨cs', h1, h2⟩ := hall i (by omega)
      rw [cells24] at h1
      obtain ⟨_, hlen, _⟩ := World.cells?_some h1
      obtain ⟨f, s, ps, h3, h4, h5, h6⟩ := frame_cells hlen h2 fun z hz => hsz z (by
        rw [hx]
        simp only [DataW.weights, Try.underlying37, List.mem_cons, List.mem_append]
        exact .inr (.inl (weightsAll_mem (d := D i) (List.mem_map.2 ⟨i, List.mem_range.2 hi, rfl⟩) hz)))
      exact ⟨((f, s), ps), by rw [h1, h3], h4, h5, h6⟩
    have : Inhabited FP := ⟨((Fr.zero, none, 0, 0), [])⟩
    obtain ⟨f, hfo⟩ := choose_lt each
    refine ⟨(some a, len, m), (List.range len).map f, ?_, ?_, fun e he => ?_, by simpa using hw⟩
    · rw [hc]; rfl
    · rw [List.map_map]
      show In EF W (.slice (some a) len m) _
      exact in_of_cells okF (fun i => (f i).1) hl (by unfold maxLen at hm; omega) fun i hi => (hfo i hi).1
    · obtain ⟨i, hi, rfl⟩ := List.mem_map.1 he
      exact (hfo i (List.mem_range.1 hi)).2
end Go.Proofs.Ytdgdjanchpfleaa
