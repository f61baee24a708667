/- Targets and rules among the arguments, of bounded bulk. -/
import Derived.Test.YtldnibkgdpeocaaE0
namespace Go.Proofs.Ytldnibkgdpeocaa
open Go.ChangeShapes Go.WideShapes Go.ChangeAt Go.RowKit Go.Deep
set_option linter.unusedVariables false
set_option linter.unusedSimpArgs false

theorem cells26 : Try.prog.cellsOf 26 = 2 := by kernel_rfl
theorem cells27 : Try.prog.cellsOf 27 = 1 := by kernel_rfl
theorem cells29 : Try.prog.cellsOf 29 = 3 := by kernel_rfl
theorem cells9 : Try.prog.cellsOf 9 = 1 := by kernel_rfl
theorem bulk_mem {H : Type} : ∀ {l : List (DataW H)} {d : DataW H}, d ∈ l → Rows.uptoBulk d ≤ Rows.uptoBulkAll l
  | e :: l, d, h => by
    simp only [Rows.uptoBulkAll]
    rcases List.mem_cons.1 h with rfl | h
    · omega
    · have := bulk_mem h; omega
theorem bulk_pos {H : Type} (d : DataW H) : 1 ≤ Rows.uptoBulk d := by
  cases d with
  | lit l => cases l <;> simp [Rows.uptoBulk]
  | _ => simp [Rows.uptoBulk]
theorem bulk_length {H : Type} : ∀ l : List (DataW H), l.length ≤ Rows.uptoBulkAll l
  | [] => by simp
  | d :: l => by have := bulk_length l; have := bulk_pos d; simp only [Rows.uptoBulkAll, List.length_cons]; omega

/-- a target in two cells -/
theorem open_tg {H : Type} {enc : TypeId × Value → H} {W : World} {cs : List Value} {n : Nat} {x : DataW H × List MemPlace} (h : DataW.trod enc Try.prog W 0 (fun _ => true) true n 26 cs = some x) (hc : cs.length = 2) :
    ∃ t : Tg, cs = [.string t.1, .string t.2] ∧ t.1.size ≤ Rows.uptoBulk x.1 ∧ t.2.size ≤ Rows.uptoBulk x.1 := by
  obtain ⟨xs, k', hk, hxy, _, hxl, hf⟩ := DataW.trod_struct Try.underlying26 h
  match xs, hxl, cs, hc with
  | [y0, y1], _, [v0, v1], _ =>
    have g0 := hf 0 _ rfl
    have g1 := hf 1 _ rfl
    simp [cells9] at g0 g1
    obtain ⟨s0, e0, q0, _⟩ := DataW.trod_string Try.underlying9 g0
    obtain ⟨s1, e1, q1, _⟩ := DataW.trod_string Try.underlying9 g1
    simp only [List.cons.injEq, and_true] at e0 e1
    subst e0 e1
    have hd : x.1 = .agg ([y0, y1].map (·.1)) := congrArg Prod.fst hxy
    have h5 := Lib.size_eq s0
    have h6 := Lib.size_eq s1
    refine ⟨(s0, s1), rfl, ?_, ?_⟩
    · rw [hd, show y0 = _ from q0]
      simp only [List.map_cons, List.map_nil, Rows.uptoBulk, Rows.uptoBulkAll]
      omega
    · rw [hd, show y1 = _ from q1]
      simp only [List.map_cons, List.map_nil, Rows.uptoBulk, Rows.uptoBulkAll]
      omega
set_option maxRecDepth 100000 in
theorem open_targets {H : Type} {enc : TypeId × Value → H} {W : World} {v : Value} {n : Nat} {x : DataW H × List MemPlace} (h : DataW.trod enc Try.prog W 0 (fun _ => true) true n 27 [v] = some x) :
    ∃ (s : SV) (l : List Tg), v = sv s ∧ In ET W (sv s) l ∧ l.length ≤ Rows.uptoBulk x.1 ∧ ∀ t ∈ l, t.1.size ≤ Rows.uptoBulk x.1 ∧ t.2.size ≤ Rows.uptoBulk x.1 := by
  rcases open_slice Try.underlying27 h with ⟨hc, _⟩ | ⟨a, len, cap, m, k, D, Pl, hc, _, hl, hm, hmm, hx, hall⟩
  · simp only [List.cons.injEq, and_true] at hc
    exact ⟨(none, 0, 0), [], hc, .inl ⟨rfl, rfl⟩, by simp, fun o ho => by cases ho⟩
  · simp only [List.cons.injEq, and_true] at hc
    simp only [if_true] at hmm
    subst hmm
    have hbk : Rows.uptoBulkAll ((List.range len).map D) ≤ Rows.uptoBulk x.1 := by rw [hx]; simp only [Rows.uptoBulk]; omega
    have each : ∀ i, i < len → ∃ t : Tg, W.cells? 0 (a.add (i * 2)) 2 = some (tgv t).toList ∧ t.1.size ≤ Rows.uptoBulk x.1 ∧ t.2.size ≤ Rows.uptoBulk x.1 := fun i hi => by
      obtain ⟨cs', h1, h2⟩ := hall i (by omega)
      rw [cells26] at h1
      obtain ⟨_, hlen, _⟩ := World.cells?_some h1
      obtain ⟨t, rfl, b1, b2⟩ := open_tg h2 hlen
      have := bulk_mem (d := D i) (l := (List.range len).map D) (List.mem_map.2 ⟨i, List.mem_range.2 hi, rfl⟩)
      simp only at b1 b2
      exact ⟨t, h1, by omega, by omega⟩
    have : Inhabited Tg := ⟨zT⟩
    obtain ⟨f, hfo⟩ := choose_lt each
    refine ⟨(some a, len, m), (List.range len).map f, ?_, ?_, ?_, fun t ht => ?_⟩
    · rw [hc]; rfl
    · show In ET W (.slice (some a) len m) _
      exact in_of_cells okT f hl (by unfold maxLen at hm; omega) fun i hi => (hfo i hi).1
    · have := bulk_length ((List.range len).map D)
      simp at this ⊢
      omega
    · obtain ⟨i, hi, rfl⟩ := List.mem_map.1 ht
      exact (hfo i (List.mem_range.1 hi)).2
set_option maxRecDepth 100000 in
theorem open_rules {H : Type} {enc : TypeId × Value → H} {W : World} {v : Value} {n : Nat} {x : DataW H × List MemPlace} (h : DataW.trod enc Try.prog W 0 (fun _ => true) true n 23 [v] = some x) :
    ∃ (s : SV) (l : List Ru), v = sv s ∧ In ER W (sv s) l ∧ PsIn W l ∧ l.length ≤ Rows.uptoBulk x.1 ∧ ∀ r ∈ l, r.l.length ≤ Rows.uptoBulk x.1 ∧ (r.t.1.size ≤ Rows.uptoBulk x.1 ∧ r.t.2.size ≤ Rows.uptoBulk x.1) ∧ ∀ c ∈ r.l, c.1.size ≤ Rows.uptoBulk x.1 ∧ c.2.size ≤ Rows.uptoBulk x.1 := by
  rcases open_slice Try.underlying23 h with ⟨hc, _⟩ | ⟨a, len, cap, m, k, D, Pl, hc, _, hl, hm, hmm, hx, hall⟩
  · simp only [List.cons.injEq, and_true] at hc
    exact ⟨(none, 0, 0), [], hc, .inl ⟨rfl, rfl⟩, (fun r hr => by cases hr), by simp, (fun o ho => by cases ho)⟩
  · simp only [List.cons.injEq, and_true] at hc
    simp only [if_true] at hmm
    subst hmm
    have hbk : Rows.uptoBulkAll ((List.range len).map D) ≤ Rows.uptoBulk x.1 := by rw [hx]; simp only [Rows.uptoBulk]; omega
    have each : ∀ i, i < len → ∃ r : Ru, W.cells? 0 (a.add (i * 3)) 3 = some (ruv r).toList ∧ In ET W (sv r.y) r.l ∧ r.l.length ≤ Rows.uptoBulk x.1 ∧ (r.t.1.size ≤ Rows.uptoBulk x.1 ∧ r.t.2.size ≤ Rows.uptoBulk x.1) ∧ ∀ c ∈ r.l, c.1.size ≤ Rows.uptoBulk x.1 ∧ c.2.size ≤ Rows.uptoBulk x.1 := fun i hi => by
      obtain ⟨cs', h1, h2⟩ := hall i (by omega)
      rw [cells29] at h1
      obtain ⟨_, hlen, _⟩ := World.cells?_some h1
      obtain ⟨xs, k', hk, hxy, _, hxl, hf⟩ := DataW.trod_struct Try.underlying29 h2
      match xs, hxl, cs', hlen with
      | [y0, y1], _, [v0, v1, v2], _ =>
        have g0 := hf 0 _ rfl
        have g1 := hf 1 _ rfl
        simp [cells26, cells27] at g0 g1
        obtain ⟨t, e0, b1, b2⟩ := open_tg g0 rfl
        obtain ⟨s, l, e1, hI, b3, b4⟩ := open_targets g1
        simp only [List.cons.injEq, and_true] at e0
        obtain ⟨rfl, rfl⟩ := e0
        subst e1
        have hd : D i = .agg ([y0, y1].map (·.1)) := congrArg Prod.fst hxy
        have hb := bulk_mem (d := D i) (l := (List.range len).map D) (List.mem_map.2 ⟨i, List.mem_range.2 hi, rfl⟩)
        rw [hd] at hb
        simp only [List.map_cons, List.map_nil, Rows.uptoBulk, Rows.uptoBulkAll] at hb
        refine ⟨⟨t, s, l⟩, h1, hI, by show l.length ≤ _; omega, ⟨by show t.1.size ≤ _; omega, by show t.2.size ≤ _; omega⟩, fun c hc' => ?_⟩
        have := b4 c hc'
        exact ⟨by omega, by omega⟩
    have : Inhabited Ru := ⟨⟨zT, (none, 0, 0), []⟩⟩
    obtain ⟨f, hfo⟩ := choose_lt each
    refine ⟨(some a, len, m), (List.range len).map f, ?_, ?_, fun r hr => ?_, ?_, fun r hr => ?_⟩
    · rw [hc]; rfl
    · show In ER W (.slice (some a) len m) _
      exact in_of_cells okR f hl (by unfold maxLen at hm; omega) fun i hi => (hfo i hi).1
    · obtain ⟨i, hi, rfl⟩ := List.mem_map.1 hr
      exact (hfo i (List.mem_range.1 hi)).2.1
    · have := bulk_length ((List.range len).map D)
      simp at this ⊢
      omega
    · obtain ⟨i, hi, rfl⟩ := List.mem_map.1 hr
      exact (hfo i (List.mem_range.1 hi)).2.2
end Go.Proofs.Ytldnibkgdpeocaa
