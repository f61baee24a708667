/- Pages among the arguments. -/
import Derived.Test.YtacboeeimnikdaaDoorP0
namespace Go.Proofs.YtacboeeimnikdaaDoor
open Go.ChangeShapes Go.WideShapes Go.ChangeAt Go.RowKit Go.Deep
set_option linter.unusedVariables false
set_option linter.unusedSimpArgs false
theorem cells26 : Tryd.prog.cellsOf 26 = 5 := by kernel_rfl
theorem cells29 : Tryd.prog.cellsOf 29 = 2 := by kernel_rfl
theorem cells24 : Tryd.prog.cellsOf 24 = 1 := by kernel_rfl
theorem cells3 : Tryd.prog.cellsOf 3 = 1 := by kernel_rfl
theorem bulk_pos {H : Type} (d : DataW H) : 1 ≤ Rows.uptoBulk d := by
  cases d with
  | lit l => cases l <;> simp [Rows.uptoBulk]
  | _ => simp [Rows.uptoBulk]
theorem bulk_length {H : Type} : ∀ L : List (DataW H), L.length ≤ Rows.uptoBulkAll L
  | [] => by simp [Rows.uptoBulkAll]
  | d :: L => by
    have h1 := bulk_pos d
    have h2 := bulk_length L
    simp only [List.length_cons, Rows.uptoBulkAll]
    omega
theorem slice_bulk {H : Type} {enc : TypeId × Value → H} {W : World} {α : Type} {E : El α} {t e : TypeId} (hu : Tryd.prog.underlying t = some (.slice e)) {s : SV} {l : List α} {n : Nat} {x : DataW H × List MemPlace} (h : DataW.trod enc Tryd.prog W 0 (fun _ => true) true n t [sv s] = some x) (hl : In E W (sv s) l) (hb : Rows.uptoBulk x.1 ≤ 1048576) : l.length ≤ 1048576 := by
  obtain ⟨b, c, e, _⟩ := hl.slice
  rcases open_slice hu h with ⟨hc, _⟩ | ⟨a, len, cap, m, k, D, Pl, hc, _, _, _, _, hx, _⟩
  · simp only [List.cons.injEq, and_true] at hc
    rw [hc] at e
    injection e with _ e2 _
    omega
  · simp only [List.cons.injEq, and_true] at hc
    rw [hc] at e
    injection e with _ e2 _
    rw [hx] at hb
    simp only [Rows.uptoBulk] at hb
    have := bulk_length ((List.range len).map D)
    simp at this
    omega
theorem strs_bulk {H : Type} {enc : TypeId × Value → H} {W : World} {s : SV} {l : List ByteArray} {n : Nat} {x : DataW H × List MemPlace} (h : DataW.trod enc Tryd.prog W 0 (fun _ => true) true n 22 [sv s] = some x) (hl : In ES W (sv s) l) (hb : Rows.uptoBulk x.1 ≤ 1048576) : l.length ≤ 1048576 := slice_bulk Tryd.underlying22 h hl hb
set_option maxRecDepth 100000 in
/-- choices among the arguments -/
theorem open_choices {H : Type} {enc : TypeId × Value → H} {W : World} {v : Value} {n : Nat} {x : DataW H × List MemPlace} (h : DataW.trod enc Tryd.prog W 0 (fun _ => true) true n 24 [v] = some x) :
    ∃ (s : SV) (l : List Ch), v = sv s ∧ In ECh W (sv s) l := by
  rcases open_slice Tryd.underlying24 h with ⟨hc, _⟩ | ⟨a, len, cap, m, k, D, Pl, hc, _, hl, hm, hmm, hx, hall⟩
  · simp only [List.cons.injEq, and_true] at hc
    exact ⟨(none, 0, 0), [], hc, .inl ⟨rfl, rfl⟩⟩
  · simp only [List.cons.injEq, and_true] at hc
    simp only [if_true] at hmm
    subst hmm
    have each : ∀ i, i < len → ∃ e : Ch, W.cells? 0 (a.add (i * 2)) 2 = some (chv e).toList := fun i hi => by
      obtain ⟨cs', h1, h2⟩ := hall i (by omega)
      rw [cells29] at h1
      obtain ⟨_, hlen, _⟩ := World.cells?_some h1
      obtain ⟨xs, k', hk, hxy, _, hxl, hf⟩ := DataW.trod_struct Tryd.underlying29 h2
      match xs, hxl, cs', hlen with
      | [y0, y1], _, [v0, v1], _ =>
        have g0 := hf 0 _ rfl
        have g1 := hf 1 _ rfl
        simp [cells9] at g0 g1
        obtain ⟨s0, e0, q0, _⟩ := DataW.trod_string Tryd.underlying9 g0
        obtain ⟨s1, e1, q1, _⟩ := DataW.trod_string Tryd.underlying9 g1
        simp only [List.cons.injEq, and_true] at e0 e1
        subst e0 e1
        exact ⟨⟨s0, s1⟩, h1⟩
    have : Inhabited Ch := ⟨⟨⟨#[]⟩, ⟨#[]⟩⟩⟩
    obtain ⟨f, hfo⟩ := choose_lt each
    refine ⟨(some a, len, m), (List.range len).map f, ?_, ?_⟩
    · rw [hc]; rfl
    · show In ECh W (.slice (some a) len m) _
      exact in_of_cells okCh f hl (by unfold maxLen at hm; omega) fun i hi => hfo i hi
set_option maxRecDepth 100000 in
/-- pages among the arguments -/
theorem open_pages {H : Type} {enc : TypeId × Value → H} {W : World} {v : Value} {n : Nat} {x : DataW H × List MemPlace} (h : DataW.trod enc Tryd.prog W 0 (fun _ => true) true n 34 [v] = some x) :
    ∃ (s : SV) (l : List PC), v = sv s ∧ In EPg W (sv s) l ∧ ChIn W l := by
  rcases open_slice Tryd.underlying34 h with ⟨hc, _⟩ | ⟨a, len, cap, m, k, D, Pl, hc, _, hl, hm, hmm, hx, hall⟩
  · simp only [List.cons.injEq, and_true] at hc
    exact ⟨(none, 0, 0), [], hc, .inl ⟨rfl, rfl⟩, fun x hx => by simp at hx⟩
  · simp only [List.cons.injEq, and_true] at hc
    simp only [if_true] at hmm
    subst hmm
    have each : ∀ i, i < len → ∃ e : PC, W.cells? 0 (a.add (i * 5)) 5 = some (pgv e.1).toList ∧ In ECh W (sv e.1.ys) e.2 := fun i hi => by
      obtain ⟨cs', h1, h2⟩ := hall i (by omega)
      rw [cells26] at h1
      obtain ⟨_, hlen, _⟩ := World.cells?_some h1
      obtain ⟨xs, k', hk, hxy, _, hxl, hf⟩ := DataW.trod_struct Tryd.underlying26 h2
      match xs, hxl, cs', hlen with
      | [y0, y1, y2, y3, y4], _, [v0, v1, v2, v3, v4], _ =>
        have g0 := hf 0 _ rfl
        have g1 := hf 1 _ rfl
        have g2 := hf 2 _ rfl
        have g3 := hf 3 _ rfl
        have g4 := hf 4 _ rfl
        simp [cells9, cells3, cells24] at g0 g1 g2 g3 g4
        obtain ⟨s0, e0, q0, _⟩ := DataW.trod_string Tryd.underlying9 g0
        obtain ⟨s1, e1, q1, _⟩ := DataW.trod_string Tryd.underlying9 g1
        obtain ⟨s2, e2, _⟩ := DataW.trod_int Tryd.underlying3 g2
        obtain ⟨s3, e3, q3, _⟩ := DataW.trod_string Tryd.underlying9 g3
        obtain ⟨s4, l4, e4, hI4⟩ := open_choices g4
        simp only [List.cons.injEq, and_true] at e0 e1 e2 e3
        subst e0 e1 e2 e3 e4
        exact ⟨(⟨s0, s1, s2, s3, s4⟩, l4), h1, hI4⟩
    have : Inhabited PC := ⟨(⟨⟨#[]⟩, ⟨#[]⟩, 0, ⟨#[]⟩, (none, 0, 0)⟩, [])⟩
    obtain ⟨f, hfo⟩ := choose_lt each
    refine ⟨(some a, len, m), (List.range len).map f, ?_, ?_, fun e he => ?_⟩
    · rw [hc]; rfl
    · show In EPg W (.slice (some a) len m) _
      exact in_of_cells okPg f hl (by unfold maxLen at hm; omega) fun i hi => (hfo i hi).1
    · obtain ⟨i, hi, rfl⟩ := List.mem_map.1 he
      exact (hfo i (List.mem_range.1 hi)).2
end Go.Proofs.YtacboeeimnikdaaDoor
