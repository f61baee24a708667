/- What start-up lays; the arguments opened. -/
import Derived.Test.YtfkimdgbkfogcaaDoorC1
import Derived.Test.YtfkimdgbkfogcaaDoorCards
import Derived.Test.YtfkimdgbkfogcaaDoorTie
import Derived.ProofKit
import Derived.OpenShut
import Derived.SizedLaws
import Derived.Deep.DeepHandedRow
import Derived.Deep.SlicePairs
import Derived.Lib.LaidTab
namespace Go.Proofs.YtfkimdgbkfogcaaDoor
open Go.ChangeShapes Go.WideShapes Go.ChangeAt Go.RowKit Go.Deep
set_option linter.unusedVariables false
set_option linter.unusedSimpArgs false

theorem own : ownKnob Tryd.prog.godebug = none := by kernel_rfl
theorem laidOut : laidOutB Tryd.prog = true := by kernel_rfl
theorem cells27 : Tryd.prog.cellsOf 27 = 6 := by kernel_rfl
theorem cells46 : Tryd.prog.cellsOf 46 = 2 := by kernel_rfl
theorem cells32 : Tryd.prog.cellsOf 32 = 3 := by kernel_rfl
theorem cells30 : Tryd.prog.cellsOf 30 = 1 := by kernel_rfl
theorem cells68 : Tryd.prog.cellsOf 68 = 6 := by kernel_rfl
theorem cells2 : Tryd.prog.cellsOf 2 = 1 := by kernel_rfl
theorem cells3 : Tryd.prog.cellsOf 3 = 1 := by kernel_rfl
theorem cells4 : Tryd.prog.cellsOf 4 = 1 := by kernel_rfl
theorem bytes46 : Tryd.prog.bytesOf 46 = 16 := by kernel_rfl
theorem bytes32 : Tryd.prog.bytesOf 32 = 40 := by kernel_rfl

/-- One argument's weights are among all. -/
theorem weights_of {H : Type} {ts : List TypeId} {ds : List (DataW H)} (h : (DataW.weightsEach Tryd.prog ts ds).all (· ≤ reachBytes) = true) {j : Nat} {t : TypeId} {d : DataW H} (ht : ts[j]? = some t) (hd : ds[j]? = some d) :
    ∀ n ∈ d.weights Tryd.prog t, n ≤ reachBytes := fun n hn => by
  have := List.all_eq_true.1 h n (DataW.weights_mem_each ht hd n hn)
  simpa using this
theorem weightsAll_mem {H : Type} {P : Program} {e : TypeId} : ∀ {ds : List (DataW H)} {d : DataW H} {n : Nat}, d ∈ ds → n ∈ d.weights P e → n ∈ DataW.weightsAll P e ds
  | d0 :: ds, d, n, hd, hn => by
    simp only [DataW.weightsAll, List.mem_append]
    rcases List.mem_cons.1 hd with rfl | hd
    · exact .inl hn
    · exact .inr (weightsAll_mem hd hn)
  | [], d, n, hd, hn => by cases hd

theorem add_add (a : Addr) (x y : Nat) : (a.add x).add y = a.add (x + y) := by
  unfold Addr.add
  by_cases hx : x = 0
  · by_cases hy : y = 0 <;> simp [hx, hy]
  · by_cases hy : y = 0
    · simp [hx, hy]
    · have : x + y ≠ 0 := by omega
      simp [hx, hy, this, Nat.add_assoc]

theorem in_of_cells {α : Type} {E : El α} (ok : E.Ok) {W : World} {a : Addr} {len cap : Nat} (f : Nat → α) (hl : len ≤ cap) (hm : cap ≤ 9223372036854775807) (h : ∀ i, i < len → W.cells? 0 (a.add (i * E.sz)) E.sz = some (E.enc (f i))) :
    In E W (.slice (some a) len cap) ((List.range len).map f) := by
  refine .inr ⟨a, cap, by simp, by simpa using hl, hm, fun j u hu => ?_⟩
  have hj : j < len * E.sz := by
    have := (List.getElem?_eq_some_iff.1 hu).1
    rw [ok.length] at this
    simpa using this
  have hp := ok.pos
  have hi : j / E.sz < len := Nat.div_lt_of_lt_mul (by rw [Nat.mul_comm]; exact hj)
  have hr : j % E.sz < E.sz := Nat.mod_lt _ hp
  have hjj : j / E.sz * E.sz + j % E.sz = j := by rw [Nat.mul_comm]; exact Nat.div_add_mod j E.sz
  have h1 := ok.get ((List.range len).map f) (j / E.sz) (j % E.sz) (by simpa using hi) hr
  rw [hjj, hu] at h1
  obtain ⟨_, h2, h3⟩ := World.cells?_some (h _ hi)
  have h4 := h3 (j % E.sz) hr
  rw [add_add, hjj] at h4
  rw [h4]
  simpa using h1.symm

/-- a set among the arguments -/
theorem open_set {H : Type} {enc : TypeId × Value → H} {W : World} {v : Value} {d : DataW H} {p : List MemPlace} {b0 : Nat} (hval : Value.okWide Tryd.prog W .any b0 27 v) (h : DataW.Trod enc Tryd.prog W 0 (fun _ => true) true 27 v d p) :
    ∃ s : St, v = .agg s.a := by
  obtain ⟨cs, rfl, hcs⟩ := okWide_struct Tryd.underlying27 hval
  rw [cells27] at hcs
  obtain ⟨fuel, hf0⟩ := h
  obtain ⟨xs, k', hk, hxy, _, hxl, hf⟩ := DataW.trod_struct Tryd.underlying27 hf0
  have hlen : cs.toList.length = 6 := by simpa using hcs
  obtain ⟨l⟩ := cs
  match xs, hxl, l, hlen with
  | [y0, y1, y2, y3, y4, y5], _, [v0, v1, v2, v3, v4, v5], _ =>
    have g0 := hf 0 _ rfl
    have g1 := hf 1 _ rfl
    have g2 := hf 2 _ rfl
    have g3 := hf 3 _ rfl
    have g4 := hf 4 _ rfl
    have g5 := hf 5 _ rfl
    simp [cells2, Value.cells] at g0 g1 g2 g3 g4 g5
    obtain ⟨n0, e0, _⟩ := DataW.trod_int Tryd.underlying2 g0
    obtain ⟨n1, e1, _⟩ := DataW.trod_int Tryd.underlying2 g1
    obtain ⟨n2, e2, _⟩ := DataW.trod_int Tryd.underlying2 g2
    obtain ⟨n3, e3, _⟩ := DataW.trod_int Tryd.underlying2 g3
    obtain ⟨n4, e4, _⟩ := DataW.trod_int Tryd.underlying2 g4
    obtain ⟨n5, e5, _⟩ := DataW.trod_int Tryd.underlying2 g5
    simp only [List.cons.injEq, and_true] at e0 e1 e2 e3 e4 e5
    subst e0 e1 e2 e3 e4 e5
    exact ⟨⟨n0, n1, n2, n3, n4, n5⟩, rfl⟩

/-- params among the arguments -/
theorem open_params {H : Type} {enc : TypeId × Value → H} {W : World} {v : Value} {n : Nat} {x : DataW H × List MemPlace} (h : DataW.trod enc Tryd.prog W 0 (fun _ => true) true n 30 [v] = some x) (hsz : ∀ n ∈ x.1.weights Tryd.prog 30, n ≤ reachBytes) :
    ∃ l, In EP W v l ∧ l.length * 16 ≤ 140737488351232 := by
  rcases open_slice Tryd.underlying30 h with ⟨hc, _⟩ | ⟨a, len, cap, m, k, D, Pl, hc, _, hl, hm, hmm, hx, hall⟩
  · simp only [List.cons.injEq, and_true] at hc
    exact ⟨[], .inl ⟨hc, rfl⟩, by simp⟩
  · simp only [List.cons.injEq, and_true] at hc
    simp only [if_true] at hmm
    subst hmm
    have hw : len * 16 ≤ 140737488351232 := by
      have := hsz (((List.range len).map D).length * 16 + ((List.range (m - len)).map fun j => D (len + j)).length * 16) (by
        rw [hx]
        simp only [DataW.weights, Tryd.underlying30, bytes46, List.mem_cons]
        exact .inl (by rw [Nat.add_mul]))
      simp only [List.length_map, List.length_range, reachBytes] at this
      omega
    have each : ∀ i, i < m → ∃ q : Int × Int, W.cells? 0 (a.add (i * 2)) 2 = some [.int .i64 q.1, .int .i64 q.2] := fun i hi => by
      obtain ⟨cs', h1, h2⟩ := hall i hi
      rw [cells46] at h1
      obtain ⟨_, hlen, _⟩ := World.cells?_some h1
      obtain ⟨xs, k', hk, hxy, _, hxl, hf⟩ := DataW.trod_struct Tryd.underlying46 h2
      match xs, hxl, cs', hlen with
      | [y0, y1], _, [v0, v1], _ =>
        have g0 := hf 0 _ rfl
        have g1 := hf 1 _ rfl
        simp [cells3, cells2] at g0 g1
        obtain ⟨n0, e0, _⟩ := DataW.trod_int Tryd.underlying3 g0
        obtain ⟨n1, e1, _⟩ := DataW.trod_int Tryd.underlying2 g1
        simp only [List.cons.injEq, and_true] at e0 e1
        subst e0 e1
        exact ⟨(n0, n1), h1⟩
    obtain ⟨f, hf⟩ := choose_lt each
    refine ⟨(List.range len).map f, ?_, by simpa using hw⟩
    rw [hc]
    exact in_of_cells okP f hl (by unfold maxLen at hm; omega) fun i hi => hf i (by omega)

/-- a script among the arguments -/
theorem open_script {H : Type} {enc : TypeId × Value → H} {W : World} {v : Value} {n : Nat} {x : DataW H × List MemPlace} (h : DataW.trod enc Tryd.prog W 0 (fun _ => true) true n 22 [v] = some x) (hsz : ∀ n ∈ x.1.weights Tryd.prog 22, n ≤ reachBytes) :
    ∃ os : List OP, In EO W v os ∧ os.length * 40 ≤ 140737488351232 ∧ ∀ o ∈ os, ∃ l, In EP W (sv o.2.2) l ∧ l.length * 16 ≤ 140737488351232 := by
  rcases open_slice Tryd.underlying22 h with ⟨hc, _⟩ | ⟨a, len, cap, m, k, D, Pl, hc, _, hl, hm, hmm, hx, hall⟩
  · simp only [List.cons.injEq, and_true] at hc
    exact ⟨[], .inl ⟨hc, rfl⟩, by simp, fun o ho => by cases ho⟩
  · simp only [List.cons.injEq, and_true] at hc
    simp only [if_true] at hmm
    subst hmm
    have hw : len * 40 ≤ 140737488351232 := by
      have := hsz (((List.range len).map D).length * 40 + ((List.range (m - len)).map fun j => D (len + j)).length * 40) (by
        rw [hx]
        simp only [DataW.weights, Tryd.underlying22, bytes32, List.mem_cons]
        exact .inl (by rw [Nat.add_mul]))
      simp only [List.length_map, List.length_range, reachBytes] at this
      omega
    have each : ∀ i, i < m → ∃ q : OP, W.cells? 0 (a.add (i * 3)) 3 = some [.int .i64 q.1, .bool q.2.1, sv q.2.2] ∧ (i < len → ∃ l, In EP W (sv q.2.2) l ∧ l.length * 16 ≤ 140737488351232) := fun i hi => by
      obtain ⟨cs', h1, h2⟩ := hall i hi
      rw [cells32] at h1
      obtain ⟨_, hlen, _⟩ := World.cells?_some h1
      obtain ⟨xs, k', hk, hxy, _, hxl, hf⟩ := DataW.trod_struct Tryd.underlying32 h2
      match xs, hxl, cs', hlen with
      | [y0, y1, y2], _, [v0, v1, v2], _ =>
        have g0 := hf 0 _ rfl
        have g1 := hf 1 _ rfl
        have g2 := hf 2 _ rfl
        simp [cells3, cells4, cells30] at g0 g1 g2
        obtain ⟨n0, e0, _⟩ := DataW.trod_int Tryd.underlying3 g0
        obtain ⟨n1, e1, _⟩ := DataW.trod_bool Tryd.underlying4 g1
        simp only [List.cons.injEq, and_true] at e0 e1
        subst e0 e1
        have hDi : D i = .agg ([y0, y1, y2].map (·.1)) := congrArg Prod.fst hxy
        have hs : ∃ b n c, v2 = .slice b n c := by
          rcases open_slice Tryd.underlying30 g2 with ⟨e, _⟩ | ⟨_, _, _, _, _, _, _, e, _⟩
          · simp only [List.cons.injEq, and_true] at e; exact ⟨_, _, _, e⟩
          · simp only [List.cons.injEq, and_true] at e; exact ⟨_, _, _, e⟩
        obtain ⟨b, n2, c, rfl⟩ := hs
        refine ⟨(n0, n1, b, n2, c), h1, fun hil => open_params g2 fun z hz => hsz z ?_⟩
        rw [hx]
        simp only [DataW.weights, Tryd.underlying22, List.mem_cons, List.mem_append]
        refine .inr (.inl (weightsAll_mem (d := D i) (List.mem_map.2 ⟨i, List.mem_range.2 hil, rfl⟩) ?_))
        rw [hDi]
        simp only [DataW.weights, Tryd.underlying32, List.map_cons, List.map_nil, DataW.weightsEach, List.mem_append]
        simp [hz]
    have : Inhabited OP := ⟨(0, false, none, 0, 0)⟩
    obtain ⟨f, hf⟩ := choose_lt each
    refine ⟨(List.range len).map f, ?_, by simpa using hw, fun o ho => ?_⟩
    · rw [hc]
      exact in_of_cells okO f hl (by unfold maxLen at hm; omega) fun i hi => (hf i (by omega)).1
    · obtain ⟨i, hi, rfl⟩ := List.mem_map.1 ho
      have hi' := List.mem_range.1 hi
      exact (hf i (by omega)).2 hi'

theorem int_of_trod {H : Type} {enc : TypeId × Value → H} {P : Program} {w : World} {base : Nat} {sp : Nat → Bool} {held : Bool} {fuel : Nat} {t : TypeId} {k : IntKind} {c : Value} {y : DataW H × List MemPlace}
    (ht : P.underlying t = some (.int k)) (h : DataW.trod enc P w base sp held fuel t [c] = some y) : ∃ n, c = .int k n ∧ y = (.lit (.int k n), []) := by
  cases fuel with
  | zero => simp [DataW.trod] at h
  | succ fuel =>
    cases c with
    | int k' n =>
      simp [DataW.trod, ht] at h
      obtain ⟨⟨rfl, _⟩, rfl⟩ := h
      exact ⟨n, rfl, rfl⟩
    | _ => simp [DataW.trod, ht] at h

theorem gStd : Tryd.prog.globalNamed "herald/setting.standard" = some 0 := by kernel_rfl
theorem gStdType : (Tryd.prog.globals[0]?).map (·.type) = some 27 := by kernel_rfl
end Go.Proofs.YtfkimdgbkfogcaaDoor
