/- Pieces and scripts among the arguments, of bounded bulk. -/
import Derived.Test.YtbmaknjeflblcaaE0
namespace Go.Proofs.Ytbmaknjeflblcaa
open Go.ChangeShapes Go.WideShapes Go.ChangeAt Go.RowKit Go.Deep
set_option linter.unusedVariables false
set_option linter.unusedSimpArgs false

/-- a piece -/
structure Pc where
  t : ByteArray
  k : Int
  c : Int
  s : Int
  o : Int
def pcv (x : Pc) : List Value := [.string x.t, .int .i64 x.k, .int .i64 x.c, .int .i64 x.s, .int .i64 x.o]
def EP : El Pc := ⟨47, 49, 5, 48, pcv⟩
theorem okP : EP.Ok := ⟨Try.underlying47, by kernel_rfl, by decide, by decide, fun _ => rfl, fun a u hu => by
  simp only [EP, pcv, List.mem_cons, List.not_mem_nil, or_false] at hu
  rcases hu with rfl | rfl | rfl | rfl | rfl <;> rfl⟩
/-- a step of a script -/
structure Op where
  k : Int
  s : Int
  id : Int
  t : ByteArray
  e : Bool
  c : Int
  st : Int
  f : Int
  y : SV
  l : List (Int × Int)
def opv (x : Op) : List Value := [.int .i64 x.k, .int .i64 x.s, .int .i64 x.id, .string x.t, .bool x.e, .int .i64 x.c, .int .i64 x.st, .int .i64 x.f, sv x.y]
def EO : El Op := ⟨38, 41, 9, 96, opv⟩
theorem okO : EO.Ok := ⟨Try.underlying38, by kernel_rfl, by decide, by decide, fun _ => rfl, fun a u hu => by
  simp only [EO, opv, List.mem_cons, List.not_mem_nil, or_false] at hu
  rcases hu with rfl | rfl | rfl | rfl | rfl | rfl | rfl | rfl | rfl <;> rfl⟩
structure PcZ (x : Pc) : Prop where
  k : wf64 x.k
  c : wf64 x.c
  s : wf64 x.s
  o : wf64 x.o
structure OpZ (W : World) (B : Nat) (x : Op) : Prop where
  s : wf64 x.s
  id : wf64 x.id
  c : wf64 x.c
  st : wf64 x.st
  f : wf64 x.f
  I : In EL W (sv x.y) x.l
  w : Wf2 x.l
  n : x.l.length ≤ B
def totP (l : List Pc) : Nat := (l.map fun x => x.t.size).sum
def totO (l : List Op) : Nat := (l.map fun x => x.t.size).sum
theorem cells49 : Try.prog.cellsOf 49 = 5 := by kernel_rfl
theorem cells41 : Try.prog.cellsOf 41 = 9 := by kernel_rfl
theorem cells43 : Try.prog.cellsOf 43 = 2 := by kernel_rfl
theorem cells9 : Try.prog.cellsOf 9 = 1 := by kernel_rfl
theorem cells3 : Try.prog.cellsOf 3 = 1 := by kernel_rfl
theorem cells4 : Try.prog.cellsOf 4 = 1 := by kernel_rfl
theorem cells39 : Try.prog.cellsOf 39 = 1 := by kernel_rfl
theorem bulk_mem {H : Type} : ∀ {l : List (DataW H)} {d : DataW H}, d ∈ l → Rows.uptoBulk d ≤ Rows.uptoBulkAll l
  | e :: l, d, h => by
    simp only [Rows.uptoBulkAll]
    rcases List.mem_cons.1 h with rfl | h
    · omega
    · have := bulk_mem h; omega
theorem bulk_pos {H : Type} (d : DataW H) : 1 ≤ Rows.uptoBulk d := by
  cases d with
  | lit l => cases l <;> simp [Rows.uptoBulk]
  | _ => simp [Rows.uptoBulk]
theorem bulk_length {H : Type} : ∀ l : List (DataW H), l.length ≤ Rows.uptoBulkAll l
  | [] => by simp
  | d :: l => by have := bulk_length l; have := bulk_pos d; simp only [Rows.uptoBulkAll, List.length_cons]; omega
theorem bulk_sum {H : Type} (D : Nat → DataW H) (g : Nat → Nat) : ∀ is : List Nat, (∀ i ∈ is, g i ≤ Rows.uptoBulk (D i)) → (is.map g).sum ≤ Rows.uptoBulkAll (is.map D)
  | [], _ => by simp
  | i :: r, h => by
    have h1 := bulk_sum D g r fun j hj => h j (List.mem_cons_of_mem _ hj)
    have h2 := h i List.mem_cons_self
    simp only [List.map_cons, List.sum_cons, Rows.uptoBulkAll]
    omega
set_option maxRecDepth 100000 in
theorem open_lefts {H : Type} {enc : TypeId × Value → H} {W : World} {v : Value} {n : Nat} {x : DataW H × List MemPlace} (h : DataW.trod enc Try.prog W 0 (fun _ => true) true n 39 [v] = some x) :
    ∃ (s : SV) (l : List (Int × Int)), v = sv s ∧ In EL W (sv s) l ∧ Wf2 l ∧ l.length ≤ Rows.uptoBulk x.1 := by
  rcases open_slice Try.underlying39 h with ⟨hc, _⟩ | ⟨a, len, cap, m, k, D, Pl, hc, _, hl, hm, hmm, hx, hall⟩
  · simp only [List.cons.injEq, and_true] at hc
    exact ⟨(none, 0, 0), [], hc, .inl ⟨rfl, rfl⟩, fun o ho => (by cases ho), by simp⟩
  · simp only [List.cons.injEq, and_true] at hc
    simp only [if_true] at hmm
    subst hmm
    have hbk : Rows.uptoBulkAll ((List.range len).map D) ≤ Rows.uptoBulk x.1 := by rw [hx]; simp only [Rows.uptoBulk]; omega
    have each : ∀ i, i < len → ∃ t : Int × Int, W.cells? 0 (a.add (i * 2)) 2 = some [.int .i64 t.1, .int .i64 t.2] ∧ wf64 t.1 ∧ wf64 t.2 := fun i hi => by
      obtain ⟨cs', h1, h2⟩ := hall i (by omega)
      rw [cells43] at h1
      obtain ⟨_, hlen, _⟩ := World.cells?_some h1
      obtain ⟨xs, k', hk, hxy, _, hxl, hf⟩ := DataW.trod_struct Try.underlying43 h2
      match xs, hxl, cs', hlen with
      | [y0, y1], _, [v0, v1], _ =>
        have g0 := hf 0 _ rfl
        have g1 := hf 1 _ rfl
        simp [cells2] at g0 g1
        obtain ⟨n0, e0, _, w0⟩ := DataW.trod_int Try.underlying2 g0
        obtain ⟨n1, e1, _, w1⟩ := DataW.trod_int Try.underlying2 g1
        simp only [List.cons.injEq, and_true] at e0 e1
        subst e0 e1
        exact ⟨(n0, n1), h1, wf_I64 w0, wf_I64 w1⟩
    obtain ⟨f, hfo⟩ := choose_lt each
    refine ⟨(some a, len, m), (List.range len).map f, ?_, ?_, fun t ht => ?_, ?_⟩
    · rw [hc]; rfl
    · show In EL W (.slice (some a) len m) _
      exact in_of_cells okL f hl (by unfold maxLen at hm; omega) fun i hi => (hfo i hi).1
    · obtain ⟨i, hi, rfl⟩ := List.mem_map.1 ht
      exact (hfo i (List.mem_range.1 hi)).2
    · have := bulk_length ((List.range len).map D)
      simp at this ⊢
      omega
set_option maxRecDepth 100000 in
theorem open_pieces {H : Type} {enc : TypeId × Value → H} {W : World} {v : Value} {n : Nat} {x : DataW H × List MemPlace} (h : DataW.trod enc Try.prog W 0 (fun _ => true) true n 47 [v] = some x) :
    ∃ (s : SV) (l : List Pc), v = sv s ∧ In EP W (sv s) l ∧ (∀ q ∈ l, PcZ q) ∧ l.length ≤ Rows.uptoBulk x.1 ∧ totP l ≤ Rows.uptoBulk x.1 := by
  rcases open_slice Try.underlying47 h with ⟨hc, _⟩ | ⟨a, len, cap, m, k, D, Pl, hc, _, hl, hm, hmm, hx, hall⟩
  · simp only [List.cons.injEq, and_true] at hc
    exact ⟨(none, 0, 0), [], hc, .inl ⟨rfl, rfl⟩, fun o ho => (by cases ho), by simp, by simp [totP]⟩
  · simp only [List.cons.injEq, and_true] at hc
    simp only [if_true] at hmm
    subst hmm
    have hbk : Rows.uptoBulkAll ((List.range len).map D) ≤ Rows.uptoBulk x.1 := by rw [hx]; simp only [Rows.uptoBulk]; omega
    have each : ∀ i, i < len → ∃ q : Pc, W.cells? 0 (a.add (i * 5)) 5 = some (pcv q) ∧ PcZ q ∧ q.t.size ≤ Rows.uptoBulk (D i) := fun i hi => by
      obtain ⟨cs', h1, h2⟩ := hall i (by omega)
      rw [cells49] at h1
      obtain ⟨_, hlen, _⟩ := World.cells?_some h1
      obtain ⟨xs, k', hk, hxy, _, hxl, hf⟩ := DataW.trod_struct Try.underlying49 h2
      match xs, hxl, cs', hlen with
      | [y0, y1, y2, y3, y4], _, [v0, v1, v2, v3, v4], _ =>
        have g0 := hf 0 _ rfl
        have g1 := hf 1 _ rfl
        have g2 := hf 2 _ rfl
        have g3 := hf 3 _ rfl
        have g4 := hf 4 _ rfl
        simp [cells2, cells3, cells9] at g0 g1 g2 g3 g4
        obtain ⟨n0, e0, q0, _⟩ := DataW.trod_string Try.underlying9 g0
        obtain ⟨n1, e1, _, w1⟩ := DataW.trod_int Try.underlying3 g1
        obtain ⟨n2, e2, _, w2⟩ := DataW.trod_int Try.underlying2 g2
        obtain ⟨n3, e3, _, w3⟩ := DataW.trod_int Try.underlying2 g3
        obtain ⟨n4, e4, _, w4⟩ := DataW.trod_int Try.underlying2 g4
        simp only [List.cons.injEq, and_true] at e0 e1 e2 e3 e4
        subst e0 e1 e2 e3 e4
        have hd : D i = .agg ([y0, y1, y2, y3, y4].map (·.1)) := congrArg Prod.fst hxy
        have h5 := Lib.size_eq n0
        refine ⟨⟨n0, n1, n2, n3, n4⟩, h1, ⟨wf_I64 w1, wf_I64 w2, wf_I64 w3, wf_I64 w4⟩, ?_⟩
        rw [hd, show y0 = _ from q0]
        simp only [List.map_cons, List.map_nil, Rows.uptoBulk, Rows.uptoBulkAll]
        omega
    have : Inhabited Pc := ⟨⟨⟨#[]⟩, 0, 0, 0, 0⟩⟩
    obtain ⟨f, hfo⟩ := choose_lt each
    refine ⟨(some a, len, m), (List.range len).map f, ?_, ?_, fun t ht => ?_, ?_, ?_⟩
    · rw [hc]; rfl
    · show In EP W (.slice (some a) len m) _
      exact in_of_cells okP f hl (by unfold maxLen at hm; omega) fun i hi => (hfo i hi).1
    · obtain ⟨i, hi, rfl⟩ := List.mem_map.1 ht
      exact (hfo i (List.mem_range.1 hi)).2.1
    · have := bulk_length ((List.range len).map D)
      simp at this ⊢
      omega
    · have := bulk_sum D (fun i => (f i).t.size) (List.range len) fun i hi => (hfo i (List.mem_range.1 hi)).2.2
      unfold totP
      rw [List.map_map]
      exact Nat.le_trans this hbk
set_option maxRecDepth 100000 in
theorem open_ops {H : Type} {enc : TypeId × Value → H} {W : World} {v : Value} {n : Nat} {x : DataW H × List MemPlace} (h : DataW.trod enc Try.prog W 0 (fun _ => true) true n 38 [v] = some x) :
    ∃ (s : SV) (l : List Op), v = sv s ∧ In EO W (sv s) l ∧ (∀ q ∈ l, OpZ W (Rows.uptoBulk x.1) q) ∧ l.length ≤ Rows.uptoBulk x.1 ∧ totO l ≤ Rows.uptoBulk x.1 := by
  rcases open_slice Try.underlying38 h with ⟨hc, _⟩ | ⟨a, len, cap, m, k, D, Pl, hc, _, hl, hm, hmm, hx, hall⟩
  · simp only [List.cons.injEq, and_true] at hc
    exact ⟨(none, 0, 0), [], hc, .inl ⟨rfl, rfl⟩, fun o ho => (by cases ho), by simp, by simp [totO]⟩
  · simp only [List.cons.injEq, and_true] at hc
    simp only [if_true] at hmm
    subst hmm
    have hbk : Rows.uptoBulkAll ((List.range len).map D) ≤ Rows.uptoBulk x.1 := by rw [hx]; simp only [Rows.uptoBulk]; omega
    have each : ∀ i, i < len → ∃ q : Op, W.cells? 0 (a.add (i * 9)) 9 = some (opv q) ∧ OpZ W (Rows.uptoBulk x.1) q ∧ q.t.size ≤ Rows.uptoBulk (D i) := fun i hi => by
      obtain ⟨cs', h1, h2⟩ := hall i (by omega)
      rw [cells41] at h1
      obtain ⟨_, hlen, _⟩ := World.cells?_some h1
      obtain ⟨xs, k', hk, hxy, _, hxl, hf⟩ := DataW.trod_struct Try.underlying41 h2
      match xs, hxl, cs', hlen with
      | [y0, y1, y2, y3, y4, y5, y6, y7, y8], _, [v0, v1, v2, v3, v4, v5, v6, v7, v8], _ =>
        have g0 := hf 0 _ rfl
        have g1 := hf 1 _ rfl
        have g2 := hf 2 _ rfl
        have g3 := hf 3 _ rfl
        have g4 := hf 4 _ rfl
        have g5 := hf 5 _ rfl
        have g6 := hf 6 _ rfl
        have g7 := hf 7 _ rfl
        have g8 := hf 8 _ rfl
        simp [cells2, cells3, cells9, cells4, cells39] at g0 g1 g2 g3 g4 g5 g6 g7 g8
        obtain ⟨n0, e0, _, w0⟩ := DataW.trod_int Try.underlying3 g0
        obtain ⟨n1, e1, _, w1⟩ := DataW.trod_int Try.underlying3 g1
        obtain ⟨n2, e2, _, w2⟩ := DataW.trod_int Try.underlying2 g2
        obtain ⟨n3, e3, q3, _⟩ := DataW.trod_string Try.underlying9 g3
        obtain ⟨n4, e4, _⟩ := DataW.trod_bool Try.underlying4 g4
        obtain ⟨n5, e5, _, w5⟩ := DataW.trod_int Try.underlying2 g5
        obtain ⟨n6, e6, _, w6⟩ := DataW.trod_int Try.underlying2 g6
        obtain ⟨n7, e7, _, w7⟩ := DataW.trod_int Try.underlying3 g7
        obtain ⟨s8, l8, e8, hI8, hw8, hn8⟩ := open_lefts g8
        simp only [List.cons.injEq, and_true] at e0 e1 e2 e3 e4 e5 e6 e7
        subst e0 e1 e2 e3 e4 e5 e6 e7 e8
        have hd : D i = .agg ([y0, y1, y2, y3, y4, y5, y6, y7, y8].map (·.1)) := congrArg Prod.fst hxy
        have h5 := Lib.size_eq n3
        have hb := bulk_mem (d := D i) (l := (List.range len).map D) (List.mem_map.2 ⟨i, List.mem_range.2 hi, rfl⟩)
        rw [hd] at hb
        simp only [List.map_cons, List.map_nil, Rows.uptoBulk, Rows.uptoBulkAll] at hb
        refine ⟨⟨n0, n1, n2, n3, n4, n5, n6, n7, s8, l8⟩, h1, ⟨wf_I64 w1, wf_I64 w2, wf_I64 w5, wf_I64 w6, wf_I64 w7, hI8, hw8, by show l8.length ≤ _; omega⟩, ?_⟩
        rw [hd, show y3 = _ from q3]
        simp only [List.map_cons, List.map_nil, Rows.uptoBulk, Rows.uptoBulkAll]
        omega
    have : Inhabited Op := ⟨⟨0, 0, 0, ⟨#[]⟩, false, 0, 0, 0, (none, 0, 0), []⟩⟩
    obtain ⟨f, hfo⟩ := choose_lt each
    refine ⟨(some a, len, m), (List.range len).map f, ?_, ?_, fun t ht => ?_, ?_, ?_⟩
    · rw [hc]; rfl
    · show In EO W (.slice (some a) len m) _
      exact in_of_cells okO f hl (by unfold maxLen at hm; omega) fun i hi => (hfo i hi).1
    · obtain ⟨i, hi, rfl⟩ := List.mem_map.1 ht
      exact (hfo i (List.mem_range.1 hi)).2.1
    · have := bulk_length ((List.range len).map D)
      simp at this ⊢
      omega
    · have := bulk_sum D (fun i => (f i).t.size) (List.range len) fun i hi => (hfo i (List.mem_range.1 hi)).2.2
      unfold totO
      rw [List.map_map]
      exact Nat.le_trans this hbk
end Go.Proofs.Ytbmaknjeflblcaa
