/- A list of commands among the arguments, opened. -/
import Derived.Test.YtghppkfopglgaaaGreatDoorKbb
namespace Go.Proofs.YtghppkfopglgaaaGreatDoor
open Go.ChangeShapes Go.WideShapes Go.ChangeAt Go.RowKit Go.Deep
set_option linter.unusedVariables false
set_option linter.unusedSimpArgs false
theorem add_addA (a : Addr) (x y : Nat) : (a.add x).add y = a.add (x + y) := by
  unfold Addr.add
  by_cases hx : x = 0
  · by_cases hy : y = 0 <;> simp [hx, hy]
  · by_cases hy : y = 0
    · simp [hx, hy]
    · have : x + y ≠ 0 := by omega
      simp [hx, hy, this, Nat.add_assoc]
theorem in_of_cells {α : Type} {E : El α} (ok : E.Ok) {W : World} {a : Addr} {len cap : Nat} (f : Nat → α) (hl : len ≤ cap) (hm : cap ≤ 9223372036854775807) (h : ∀ i, i < len → W.cells? 0 (a.add (i * E.sz)) E.sz = some (E.enc (f i))) :
    In E W (.slice (some a) len cap) ((List.range len).map f) := by
  refine .inr ⟨a, cap, by simp, by simpa using hl, hm, fun j u hu => ?_⟩
  have hj : j < len * E.sz := by
    have := (List.getElem?_eq_some_iff.1 hu).1
    rw [ok.length] at this
    simpa using this
  have hp := ok.pos
  have hi : j / E.sz < len := Nat.div_lt_of_lt_mul (by rw [Nat.mul_comm]; exact hj)
  have hr : j % E.sz < E.sz := Nat.mod_lt _ hp
  have hjj : j / E.sz * E.sz + j % E.sz = j := by rw [Nat.mul_comm]; exact Nat.div_add_mod j E.sz
  have h1 := ok.get ((List.range len).map f) (j / E.sz) (j % E.sz) (by simpa using hi) hr
  rw [hjj, hu] at h1
  obtain ⟨_, h2, h3⟩ := World.cells?_some (h _ hi)
  have h4 := h3 (j % E.sz) hr
  rw [add_addA, hjj] at h4
  rw [h4]
  simpa using h1.symm
theorem wts_mem {H : Type} {P : Program} {e : TypeId} {d : DataW H} {m : Nat} (hm : m ∈ d.weights P e) : ∀ {L : List (DataW H)}, d ∈ L → m ∈ DataW.weightsAll P e L
  | [], h => absurd h (by simp)
  | c :: L, h => by
    simp only [DataW.weightsAll, List.mem_append]
    rcases List.mem_cons.1 h with rfl | h
    · exact .inl hm
    · exact .inr (wts_mem hm h)
theorem cutL (cs : List Value) (a b c : Nat) (h : a + b = c) : cs.drop a = (cs.drop a).take b ++ cs.drop c := by
  rw [← h, ← List.drop_drop]
  exact (List.take_append_drop b (cs.drop a)).symm
theorem kc36 : Tryz.prog.cellsOf 36 = 6 := by kernel_rfl
theorem kc40 : Tryz.prog.cellsOf 40 = 4 := by kernel_rfl
theorem kc41 : Tryz.prog.cellsOf 41 = 1 := by kernel_rfl
theorem kc42 : Tryz.prog.cellsOf 42 = 1 := by kernel_rfl
theorem kc43 : Tryz.prog.cellsOf 43 = 1 := by kernel_rfl
theorem kc45 : Tryz.prog.cellsOf 45 = 19 := by kernel_rfl
theorem kc38 : Tryz.prog.cellsOf 38 = 20 := by kernel_rfl
theorem kc31 : Tryz.prog.cellsOf 31 = 6 := by kernel_rfl
theorem kc34 : Tryz.prog.cellsOf 34 = 5 := by kernel_rfl
theorem kc29 : Tryz.prog.cellsOf 29 = 1 := by kernel_rfl
theorem kc32 : Tryz.prog.cellsOf 32 = 1 := by kernel_rfl
theorem kc62 : Tryz.prog.cellsOf 62 = 1 := by kernel_rfl
theorem kc61 : Tryz.prog.cellsOf 61 = 2 := by kernel_rfl
theorem kc64 : Tryz.prog.cellsOf 64 = 3 := by kernel_rfl
theorem kc59 : Tryz.prog.cellsOf 59 = 2 := by kernel_rfl
theorem kc66 : Tryz.prog.cellsOf 66 = 3 := by kernel_rfl
theorem kc102 : Tryz.prog.cellsOf 102 = 42 := by kernel_rfl
section
variable {H : Type} {enc : TypeId × Value → H} {W : World} {n : Nat} {cs : List Value} {x : DataW H × List MemPlace}
theorem op_str (h : DataW.trod enc Tryz.prog W 0 (fun _ => true) true n 9 cs = some x) (hb : ∀ m ∈ x.1.weights Tryz.prog 9, m ≤ reachBytes) : ∃ s : ByteArray, cs = [.string s] ∧ s.size ≤ 140737488355328 := by
  obtain ⟨s, e, q, _⟩ := DataW.trod_string Tryz.underlying9 h
  have := hb s.data.toList.length (by rw [q]; simp [DataW.weights])
  rw [← sz_eq] at this
  unfold reachBytes at this
  exact ⟨s, e, by omega⟩
theorem op_int (h : DataW.trod enc Tryz.prog W 0 (fun _ => true) true n 3 cs = some x) (hb : ∀ m ∈ x.1.weights Tryz.prog 3, m ≤ reachBytes) : ∃ s : Int, cs = [.int .i64 s] ∧ I64 s := by
  obtain ⟨s, e, _, q⟩ := DataW.trod_int Tryz.underlying3 h
  exact ⟨s, e, wf_I64 q⟩
theorem op_i64 (h : DataW.trod enc Tryz.prog W 0 (fun _ => true) true n 2 cs = some x) (hb : ∀ m ∈ x.1.weights Tryz.prog 2, m ≤ reachBytes) : ∃ s : Int, cs = [.int .i64 s] ∧ I64 s := by
  obtain ⟨s, e, _, q⟩ := DataW.trod_int Tryz.underlying2 h
  exact ⟨s, e, wf_I64 q⟩
theorem op_bool (h : DataW.trod enc Tryz.prog W 0 (fun _ => true) true n 4 cs = some x) (hb : ∀ m ∈ x.1.weights Tryz.prog 4, m ≤ reachBytes) : ∃ s : Bool, cs = [.bool s] ∧ True := by
  obtain ⟨s, e, _⟩ := DataW.trod_bool Tryz.underlying4 h
  exact ⟨s, e, trivial⟩
theorem open_rows {α : Type} {E : El α} (ok : E.Ok) (Q : α → Prop) (hcl : Tryz.prog.cellsOf E.e = E.sz) (each : ∀ n cs (y : DataW H × List MemPlace), DataW.trod enc Tryz.prog W 0 (fun _ => true) true n E.e cs = some y → (∀ m ∈ y.1.weights Tryz.prog E.e, m ≤ reachBytes) → ∃ a, cs = E.enc a ∧ Q a)
    (h : DataW.trod enc Tryz.prog W 0 (fun _ => true) true n E.t cs = some x) (hb : ∀ m ∈ x.1.weights Tryz.prog E.t, m ≤ reachBytes) : ∃ (s : Sl) (l : List α), cs = [s.v] ∧ In E W s.v l ∧ (∀ a ∈ l, Q a) ∧ l.length * Tryz.prog.bytesOf E.e ≤ reachBytes := by
  rcases open_slice ok.und h with ⟨hc, _⟩ | ⟨a, len, cap, m, k, D, Pl, hc, _, hl, hm, hmm, hx, hall⟩
  · exact ⟨Sl.z, [], hc, .inl ⟨rfl, rfl⟩, fun a ha => absurd ha (by simp), by simp⟩
  · simp only [if_true] at hmm
    subst hmm
    have hbb : (len + (m - len)) * Tryz.prog.bytesOf E.e ≤ reachBytes ∧ ∀ i, i < len → ∀ m ∈ (D i).weights Tryz.prog E.e, m ≤ reachBytes := by
      rw [hx] at hb
      simp only [DataW.weights, ok.und, List.mem_cons, List.mem_append, List.length_map, List.length_range] at hb
      exact ⟨hb _ (.inl rfl), fun i hi m hm => hb m (.inr (.inl (wts_mem hm (List.mem_map.2 ⟨i, List.mem_range.2 hi, rfl⟩))))⟩
    have hex : ∀ i, i < len → ∃ e : α, W.cells? 0 (a.add (i * E.sz)) E.sz = some (E.enc e) ∧ Q e := fun i hi => by
      obtain ⟨cs', h1, h2⟩ := hall i (by omega)
      rw [hcl] at h1
      obtain ⟨e, he, hq⟩ := each _ _ _ h2 (hbb.2 i hi)
      exact ⟨e, by rw [← he]; exact h1, hq⟩
    by_cases h0 : len = 0
    · subst h0
      exact ⟨⟨some a, 0, m⟩, [], hc, .inr ⟨a, m, rfl, by simp, by unfold maxLen at hm; omega, fun j u hu => absurd hu (by simp [El.cs])⟩, fun a ha => absurd ha (by simp), by simp⟩
    have : Inhabited α := ⟨Classical.choose (hex 0 (by omega))⟩
    obtain ⟨f, hfo⟩ := choose_lt hex
    refine ⟨⟨some a, len, m⟩, (List.range len).map f, hc, ?_, fun e he => ?_, ?_⟩
    · exact in_of_cells ok f hl (by unfold maxLen at hm; omega) fun i hi => (hfo i hi).1
    · obtain ⟨i, hi, rfl⟩ := List.mem_map.1 he
      exact (hfo i (List.mem_range.1 hi)).2
    · simp only [List.length_map, List.length_range]
      exact Nat.le_trans (Nat.mul_le_mul_right _ (Nat.le_add_right _ _)) hbb.1
theorem op_ch (h : DataW.trod enc Tryz.prog W 0 (fun _ => true) true n 59 cs = some x) (hb : ∀ m ∈ x.1.weights Tryz.prog 59, m ≤ reachBytes) : ∃ a : Ch, cs = ECh.enc a ∧ (a.v.size ≤ 140737488355328 ∧ a.b.size ≤ 140737488355328) := by
  obtain ⟨xs, k', hk, hxy, hlen, hxl, hf⟩ := DataW.trod_struct Tryz.underlying59 h
  rw [kc59] at hlen
  match xs, hxl with
  | [y0, y1], _ =>
    have hd : x.1 = .agg ([y0, y1].map (·.1)) := congrArg Prod.fst hxy
    rw [hd] at hb
    simp only [List.map_cons, List.map_nil, DataW.weights, Tryz.underlying59, DataW.weightsEach, List.mem_append] at hb
    have g0 : DataW.trod enc Tryz.prog W 0 (fun _ => true) true k' 9 ((cs.drop 0).take (Tryz.prog.cellsOf 9)) = some y0 := hf 0 _ rfl
    rw [cells9] at g0
    obtain ⟨a0, e0, z0⟩ := op_str g0 (fun m (hm : m ∈ DataW.weights Tryz.prog 9 y0.1) => hb m (by simp [hm]))
    have g1 : DataW.trod enc Tryz.prog W 0 (fun _ => true) true k' 9 ((cs.drop 1).take (Tryz.prog.cellsOf 9)) = some y1 := hf 1 _ rfl
    rw [cells9] at g1
    obtain ⟨a1, e1, z1⟩ := op_str g1 (fun m (hm : m ∈ DataW.weights Tryz.prog 9 y1.1) => hb m (by simp [hm]))
    have hcs : cs = (cs.drop 0).take 1 ++ ((cs.drop 1).take 1 ++ []) := by
      have z : cs.drop 2 = [] := List.drop_of_length_le (by omega)
      have t0 := cutL cs 0 1 1 rfl
      have t1 := cutL cs 1 1 2 rfl
      rw [z] at t1
      rw [t1] at t0
      exact t0
    rw [e0, e1] at hcs
    exact ⟨⟨a0, a1⟩, hcs, z0, z1⟩
theorem op_fd (h : DataW.trod enc Tryz.prog W 0 (fun _ => true) true n 66 cs = some x) (hb : ∀ m ∈ x.1.weights Tryz.prog 66, m ≤ reachBytes) : ∃ a : Fd, cs = EFd.enc a ∧ (a.n.size ≤ 140737488355328 ∧ a.v.size ≤ 140737488355328) := by
  obtain ⟨xs, k', hk, hxy, hlen, hxl, hf⟩ := DataW.trod_struct Tryz.underlying66 h
  rw [kc66] at hlen
  match xs, hxl with
  | [y0, y1, y2], _ =>
    have hd : x.1 = .agg ([y0, y1, y2].map (·.1)) := congrArg Prod.fst hxy
    rw [hd] at hb
    simp only [List.map_cons, List.map_nil, DataW.weights, Tryz.underlying66, DataW.weightsEach, List.mem_append] at hb
    have g0 : DataW.trod enc Tryz.prog W 0 (fun _ => true) true k' 9 ((cs.drop 0).take (Tryz.prog.cellsOf 9)) = some y0 := hf 0 _ rfl
    rw [cells9] at g0
    obtain ⟨a0, e0, z0⟩ := op_str g0 (fun m (hm : m ∈ DataW.weights Tryz.prog 9 y0.1) => hb m (by simp [hm]))
    have g1 : DataW.trod enc Tryz.prog W 0 (fun _ => true) true k' 9 ((cs.drop 1).take (Tryz.prog.cellsOf 9)) = some y1 := hf 1 _ rfl
    rw [cells9] at g1
    obtain ⟨a1, e1, z1⟩ := op_str g1 (fun m (hm : m ∈ DataW.weights Tryz.prog 9 y1.1) => hb m (by simp [hm]))
    have g2 : DataW.trod enc Tryz.prog W 0 (fun _ => true) true k' 4 ((cs.drop 2).take (Tryz.prog.cellsOf 4)) = some y2 := hf 2 _ rfl
    rw [cells4] at g2
    obtain ⟨a2, e2, z2⟩ := op_bool g2 (fun m (hm : m ∈ DataW.weights Tryz.prog 4 y2.1) => hb m (by simp [hm]))
    have hcs : cs = (cs.drop 0).take 1 ++ ((cs.drop 1).take 1 ++ ((cs.drop 2).take 1 ++ [])) := by
      have z : cs.drop 3 = [] := List.drop_of_length_le (by omega)
      have t0 := cutL cs 0 1 1 rfl
      have t1 := cutL cs 1 1 2 rfl
      have t2 := cutL cs 2 1 3 rfl
      rw [z] at t2
      rw [t2] at t1
      rw [t1] at t0
      exact t0
    rw [e0, e1, e2] at hcs
    exact ⟨⟨a0, a1, a2⟩, hcs, z0, z1⟩
theorem op_tg (h : DataW.trod enc Tryz.prog W 0 (fun _ => true) true n 61 cs = some x) (hb : ∀ m ∈ x.1.weights Tryz.prog 61, m ≤ reachBytes) : ∃ a : Tg, cs = ETg.enc a ∧ TxTg a := by
  obtain ⟨xs, k', hk, hxy, hlen, hxl, hf⟩ := DataW.trod_struct Tryz.underlying61 h
  rw [kc61] at hlen
  match xs, hxl with
  | [y0, y1], _ =>
    have hd : x.1 = .agg ([y0, y1].map (·.1)) := congrArg Prod.fst hxy
    rw [hd] at hb
    simp only [List.map_cons, List.map_nil, DataW.weights, Tryz.underlying61, DataW.weightsEach, List.mem_append] at hb
    have g0 : DataW.trod enc Tryz.prog W 0 (fun _ => true) true k' 9 ((cs.drop 0).take (Tryz.prog.cellsOf 9)) = some y0 := hf 0 _ rfl
    rw [cells9] at g0
    obtain ⟨a0, e0, z0⟩ := op_str g0 (fun m (hm : m ∈ DataW.weights Tryz.prog 9 y0.1) => hb m (by simp [hm]))
    have g1 : DataW.trod enc Tryz.prog W 0 (fun _ => true) true k' 9 ((cs.drop 1).take (Tryz.prog.cellsOf 9)) = some y1 := hf 1 _ rfl
    rw [cells9] at g1
    obtain ⟨a1, e1, z1⟩ := op_str g1 (fun m (hm : m ∈ DataW.weights Tryz.prog 9 y1.1) => hb m (by simp [hm]))
    have hcs : cs = (cs.drop 0).take 1 ++ ((cs.drop 1).take 1 ++ []) := by
      have z : cs.drop 2 = [] := List.drop_of_length_le (by omega)
      have t0 := cutL cs 0 1 1 rfl
      have t1 := cutL cs 1 1 2 rfl
      rw [z] at t1
      rw [t1] at t0
      exact t0
    rw [e0, e1] at hcs
    exact ⟨⟨a0, a1⟩, hcs, z0, z1⟩
theorem op_si (h : DataW.trod enc Tryz.prog W 0 (fun _ => true) true n 36 cs = some x) (hb : ∀ m ∈ x.1.weights Tryz.prog 36, m ≤ reachBytes) : ∃ a : Si, cs = [.int .i64 a.t, .int .i64 a.p, .int .i64 a.s, .int .i64 a.w, .int .i64 a.f, .int .i64 a.l] ∧ SiOk a := by
  obtain ⟨xs, k', hk, hxy, hlen, hxl, hf⟩ := DataW.trod_struct Tryz.underlying36 h
  rw [kc36] at hlen
  match xs, hxl with
  | [y0, y1, y2, y3, y4, y5], _ =>
    have hd : x.1 = .agg ([y0, y1, y2, y3, y4, y5].map (·.1)) := congrArg Prod.fst hxy
    rw [hd] at hb
    simp only [List.map_cons, List.map_nil, DataW.weights, Tryz.underlying36, DataW.weightsEach, List.mem_append] at hb
    have g0 : DataW.trod enc Tryz.prog W 0 (fun _ => true) true k' 2 ((cs.drop 0).take (Tryz.prog.cellsOf 2)) = some y0 := hf 0 _ rfl
    rw [cells2'] at g0
    obtain ⟨a0, e0, z0⟩ := op_i64 g0 (fun m (hm : m ∈ DataW.weights Tryz.prog 2 y0.1) => hb m (by simp [hm]))
    have g1 : DataW.trod enc Tryz.prog W 0 (fun _ => true) true k' 2 ((cs.drop 1).take (Tryz.prog.cellsOf 2)) = some y1 := hf 1 _ rfl
    rw [cells2'] at g1
    obtain ⟨a1, e1, z1⟩ := op_i64 g1 (fun m (hm : m ∈ DataW.weights Tryz.prog 2 y1.1) => hb m (by simp [hm]))
    have g2 : DataW.trod enc Tryz.prog W 0 (fun _ => true) true k' 2 ((cs.drop 2).take (Tryz.prog.cellsOf 2)) = some y2 := hf 2 _ rfl
    rw [cells2'] at g2
    obtain ⟨a2, e2, z2⟩ := op_i64 g2 (fun m (hm : m ∈ DataW.weights Tryz.prog 2 y2.1) => hb m (by simp [hm]))
    have g3 : DataW.trod enc Tryz.prog W 0 (fun _ => true) true k' 2 ((cs.drop 3).take (Tryz.prog.cellsOf 2)) = some y3 := hf 3 _ rfl
    rw [cells2'] at g3
    obtain ⟨a3, e3, z3⟩ := op_i64 g3 (fun m (hm : m ∈ DataW.weights Tryz.prog 2 y3.1) => hb m (by simp [hm]))
    have g4 : DataW.trod enc Tryz.prog W 0 (fun _ => true) true k' 2 ((cs.drop 4).take (Tryz.prog.cellsOf 2)) = some y4 := hf 4 _ rfl
    rw [cells2'] at g4
    obtain ⟨a4, e4, z4⟩ := op_i64 g4 (fun m (hm : m ∈ DataW.weights Tryz.prog 2 y4.1) => hb m (by simp [hm]))
    have g5 : DataW.trod enc Tryz.prog W 0 (fun _ => true) true k' 2 ((cs.drop 5).take (Tryz.prog.cellsOf 2)) = some y5 := hf 5 _ rfl
    rw [cells2'] at g5
    obtain ⟨a5, e5, z5⟩ := op_i64 g5 (fun m (hm : m ∈ DataW.weights Tryz.prog 2 y5.1) => hb m (by simp [hm]))
    have hcs : cs = (cs.drop 0).take 1 ++ ((cs.drop 1).take 1 ++ ((cs.drop 2).take 1 ++ ((cs.drop 3).take 1 ++ ((cs.drop 4).take 1 ++ ((cs.drop 5).take 1 ++ []))))) := by
      have z : cs.drop 6 = [] := List.drop_of_length_le (by omega)
      have t0 := cutL cs 0 1 1 rfl
      have t1 := cutL cs 1 1 2 rfl
      have t2 := cutL cs 2 1 3 rfl
      have t3 := cutL cs 3 1 4 rfl
      have t4 := cutL cs 4 1 5 rfl
      have t5 := cutL cs 5 1 6 rfl
      rw [z] at t5
      rw [t5] at t4
      rw [t4] at t3
      rw [t3] at t2
      rw [t2] at t1
      rw [t1] at t0
      exact t0
    rw [e0, e1, e2, e3, e4, e5] at hcs
    exact ⟨⟨a0, a1, a2, a3, a4, a5⟩, hcs, z0, z1, z2, z3, z4, z5⟩
theorem op_cf (h : DataW.trod enc Tryz.prog W 0 (fun _ => true) true n 40 cs = some x) (hb : ∀ m ∈ x.1.weights Tryz.prog 40, m ≤ reachBytes) : ∃ a b c d : Int, cs = [.int .i64 a, .int .i64 b, .int .i64 c, .int .i64 d] ∧ I64 a ∧ I64 b ∧ I64 c ∧ I64 d := by
  obtain ⟨xs, k', hk, hxy, hlen, hxl, hf⟩ := DataW.trod_struct Tryz.underlying40 h
  rw [kc40] at hlen
  match xs, hxl with
  | [y0, y1, y2, y3], _ =>
    have hd : x.1 = .agg ([y0, y1, y2, y3].map (·.1)) := congrArg Prod.fst hxy
    rw [hd] at hb
    simp only [List.map_cons, List.map_nil, DataW.weights, Tryz.underlying40, DataW.weightsEach, List.mem_append] at hb
    have g0 : DataW.trod enc Tryz.prog W 0 (fun _ => true) true k' 2 ((cs.drop 0).take (Tryz.prog.cellsOf 2)) = some y0 := hf 0 _ rfl
    rw [cells2'] at g0
    obtain ⟨a0, e0, z0⟩ := op_i64 g0 (fun m (hm : m ∈ DataW.weights Tryz.prog 2 y0.1) => hb m (by simp [hm]))
    have g1 : DataW.trod enc Tryz.prog W 0 (fun _ => true) true k' 2 ((cs.drop 1).take (Tryz.prog.cellsOf 2)) = some y1 := hf 1 _ rfl
    rw [cells2'] at g1
    obtain ⟨a1, e1, z1⟩ := op_i64 g1 (fun m (hm : m ∈ DataW.weights Tryz.prog 2 y1.1) => hb m (by simp [hm]))
    have g2 : DataW.trod enc Tryz.prog W 0 (fun _ => true) true k' 2 ((cs.drop 2).take (Tryz.prog.cellsOf 2)) = some y2 := hf 2 _ rfl
    rw [cells2'] at g2
    obtain ⟨a2, e2, z2⟩ := op_i64 g2 (fun m (hm : m ∈ DataW.weights Tryz.prog 2 y2.1) => hb m (by simp [hm]))
    have g3 : DataW.trod enc Tryz.prog W 0 (fun _ => true) true k' 2 ((cs.drop 3).take (Tryz.prog.cellsOf 2)) = some y3 := hf 3 _ rfl
    rw [cells2'] at g3
    obtain ⟨a3, e3, z3⟩ := op_i64 g3 (fun m (hm : m ∈ DataW.weights Tryz.prog 2 y3.1) => hb m (by simp [hm]))
    have hcs : cs = (cs.drop 0).take 1 ++ ((cs.drop 1).take 1 ++ ((cs.drop 2).take 1 ++ ((cs.drop 3).take 1 ++ []))) := by
      have z : cs.drop 4 = [] := List.drop_of_length_le (by omega)
      have t0 := cutL cs 0 1 1 rfl
      have t1 := cutL cs 1 1 2 rfl
      have t2 := cutL cs 2 1 3 rfl
      have t3 := cutL cs 3 1 4 rfl
      rw [z] at t3
      rw [t3] at t2
      rw [t2] at t1
      rw [t1] at t0
      exact t0
    rw [e0, e1, e2, e3] at hcs
    exact ⟨a0, a1, a2, a3, hcs, z0, z1, z2, z3⟩
theorem op_pg (h : DataW.trod enc Tryz.prog W 0 (fun _ => true) true n 34 cs = some x) (hb : ∀ m ∈ x.1.weights Tryz.prog 34, m ≤ reachBytes) : ∃ a : Pg × Sl, cs = EPg.enc a ∧ (In ECh W a.2.v a.1.ch ∧ PgOk a.1 ∧ TxPg a.1) := by
  obtain ⟨xs, k', hk, hxy, hlen, hxl, hf⟩ := DataW.trod_struct Tryz.underlying34 h
  rw [kc34] at hlen
  match xs, hxl with
  | [y0, y1, y2, y3, y4], _ =>
    have hd : x.1 = .agg ([y0, y1, y2, y3, y4].map (·.1)) := congrArg Prod.fst hxy
    rw [hd] at hb
    simp only [List.map_cons, List.map_nil, DataW.weights, Tryz.underlying34, DataW.weightsEach, List.mem_append] at hb
    have g0 : DataW.trod enc Tryz.prog W 0 (fun _ => true) true k' 9 ((cs.drop 0).take (Tryz.prog.cellsOf 9)) = some y0 := hf 0 _ rfl
    rw [cells9] at g0
    obtain ⟨a0, e0, z0⟩ := op_str g0 (fun m (hm : m ∈ DataW.weights Tryz.prog 9 y0.1) => hb m (by simp [hm]))
    have g1 : DataW.trod enc Tryz.prog W 0 (fun _ => true) true k' 9 ((cs.drop 1).take (Tryz.prog.cellsOf 9)) = some y1 := hf 1 _ rfl
    rw [cells9] at g1
    obtain ⟨a1, e1, z1⟩ := op_str g1 (fun m (hm : m ∈ DataW.weights Tryz.prog 9 y1.1) => hb m (by simp [hm]))
    have g2 : DataW.trod enc Tryz.prog W 0 (fun _ => true) true k' 3 ((cs.drop 2).take (Tryz.prog.cellsOf 3)) = some y2 := hf 2 _ rfl
    rw [cells3] at g2
    obtain ⟨a2, e2, z2⟩ := op_int g2 (fun m (hm : m ∈ DataW.weights Tryz.prog 3 y2.1) => hb m (by simp [hm]))
    have g3 : DataW.trod enc Tryz.prog W 0 (fun _ => true) true k' 9 ((cs.drop 3).take (Tryz.prog.cellsOf 9)) = some y3 := hf 3 _ rfl
    rw [cells9] at g3
    obtain ⟨a3, e3, z3⟩ := op_str g3 (fun m (hm : m ∈ DataW.weights Tryz.prog 9 y3.1) => hb m (by simp [hm]))
    have g4 : DataW.trod enc Tryz.prog W 0 (fun _ => true) true k' 32 ((cs.drop 4).take (Tryz.prog.cellsOf 32)) = some y4 := hf 4 _ rfl
    rw [kc32] at g4
    obtain ⟨s4, l4, e4, i4, q4, b4⟩ := open_rows (E := ECh) okCh (fun a : Ch => a.v.size ≤ 140737488355328 ∧ a.b.size ≤ 140737488355328) kc59 (fun n cs y h hb => op_ch h hb) g4 (fun m (hm : m ∈ DataW.weights Tryz.prog 32 y4.1) => hb m (by simp [hm]))
    have hcs : cs = (cs.drop 0).take 1 ++ ((cs.drop 1).take 1 ++ ((cs.drop 2).take 1 ++ ((cs.drop 3).take 1 ++ ((cs.drop 4).take 1 ++ [])))) := by
      have z : cs.drop 5 = [] := List.drop_of_length_le (by omega)
      have t0 := cutL cs 0 1 1 rfl
      have t1 := cutL cs 1 1 2 rfl
      have t2 := cutL cs 2 1 3 rfl
      have t3 := cutL cs 3 1 4 rfl
      have t4 := cutL cs 4 1 5 rfl
      rw [z] at t4
      rw [t4] at t3
      rw [t3] at t2
      rw [t2] at t1
      rw [t1] at t0
      exact t0
    rw [e0, e1, e2, e3, e4] at hcs
    exact ⟨(⟨a0, a1, a2, a3, l4⟩, s4), hcs, i4, z2, z0, z1, z3, q4⟩
theorem op_ru (h : DataW.trod enc Tryz.prog W 0 (fun _ => true) true n 64 cs = some x) (hb : ∀ m ∈ x.1.weights Tryz.prog 64, m ≤ reachBytes) : ∃ a : Ru × Sl, cs = ERu.enc a ∧ (In ETg W a.2.v a.1.push ∧ TxTg a.1.of ∧ ∀ t ∈ a.1.push, TxTg t) := by
  obtain ⟨xs, k', hk, hxy, hlen, hxl, hf⟩ := DataW.trod_struct Tryz.underlying64 h
  rw [kc64] at hlen
  match xs, hxl with
  | [y0, y1], _ =>
    have hd : x.1 = .agg ([y0, y1].map (·.1)) := congrArg Prod.fst hxy
    rw [hd] at hb
    simp only [List.map_cons, List.map_nil, DataW.weights, Tryz.underlying64, DataW.weightsEach, List.mem_append] at hb
    have g0 : DataW.trod enc Tryz.prog W 0 (fun _ => true) true k' 61 ((cs.drop 0).take (Tryz.prog.cellsOf 61)) = some y0 := hf 0 _ rfl
    rw [kc61] at g0
    obtain ⟨a0, e0, z0⟩ := op_tg g0 (fun m (hm : m ∈ DataW.weights Tryz.prog 61 y0.1) => hb m (by simp [hm]))
    have g1 : DataW.trod enc Tryz.prog W 0 (fun _ => true) true k' 62 ((cs.drop 2).take (Tryz.prog.cellsOf 62)) = some y1 := hf 1 _ rfl
    rw [kc62] at g1
    obtain ⟨s1, l1, e1, i1, q1, b1⟩ := open_rows (E := ETg) okTg (fun a : Tg => TxTg a) kc61 (fun n cs y h hb => op_tg h hb) g1 (fun m (hm : m ∈ DataW.weights Tryz.prog 62 y1.1) => hb m (by simp [hm]))
    have hcs : cs = (cs.drop 0).take 2 ++ ((cs.drop 2).take 1 ++ []) := by
      have z : cs.drop 3 = [] := List.drop_of_length_le (by omega)
      have t0 := cutL cs 0 2 2 rfl
      have t1 := cutL cs 2 1 3 rfl
      rw [z] at t1
      rw [t1] at t0
      exact t0
    rw [e0, e1] at hcs
    exact ⟨(⟨a0, l1⟩, s1), hcs, i1, z0, q1⟩
theorem op_og (h : DataW.trod enc Tryz.prog W 0 (fun _ => true) true n 9 cs = some x) (hb : ∀ m ∈ x.1.weights Tryz.prog 9, m ≤ reachBytes) : ∃ a : ByteArray, cs = EOg.enc a ∧ a.size ≤ 140737488355328 := op_str h hb
theorem op_rq (h : DataW.trod enc Tryz.prog W 0 (fun _ => true) true n 31 cs = some x) (hb : ∀ m ∈ x.1.weights Tryz.prog 31, m ≤ reachBytes) : ∃ (a : Rq) (s : Sl), cs = (rqA a s.v).toList ∧ (In EFd W s.v a.fs ∧ TxRq a) := by
  obtain ⟨xs, k', hk, hxy, hlen, hxl, hf⟩ := DataW.trod_struct Tryz.underlying31 h
  rw [kc31] at hlen
  match xs, hxl with
  | [y0, y1, y2, y3, y4, y5], _ =>
    have hd : x.1 = .agg ([y0, y1, y2, y3, y4, y5].map (·.1)) := congrArg Prod.fst hxy
    rw [hd] at hb
    simp only [List.map_cons, List.map_nil, DataW.weights, Tryz.underlying31, DataW.weightsEach, List.mem_append] at hb
    have g0 : DataW.trod enc Tryz.prog W 0 (fun _ => true) true k' 9 ((cs.drop 0).take (Tryz.prog.cellsOf 9)) = some y0 := hf 0 _ rfl
    rw [cells9] at g0
    obtain ⟨a0, e0, z0⟩ := op_str g0 (fun m (hm : m ∈ DataW.weights Tryz.prog 9 y0.1) => hb m (by simp [hm]))
    have g1 : DataW.trod enc Tryz.prog W 0 (fun _ => true) true k' 9 ((cs.drop 1).take (Tryz.prog.cellsOf 9)) = some y1 := hf 1 _ rfl
    rw [cells9] at g1
    obtain ⟨a1, e1, z1⟩ := op_str g1 (fun m (hm : m ∈ DataW.weights Tryz.prog 9 y1.1) => hb m (by simp [hm]))
    have g2 : DataW.trod enc Tryz.prog W 0 (fun _ => true) true k' 9 ((cs.drop 2).take (Tryz.prog.cellsOf 9)) = some y2 := hf 2 _ rfl
    rw [cells9] at g2
    obtain ⟨a2, e2, z2⟩ := op_str g2 (fun m (hm : m ∈ DataW.weights Tryz.prog 9 y2.1) => hb m (by simp [hm]))
    have g3 : DataW.trod enc Tryz.prog W 0 (fun _ => true) true k' 9 ((cs.drop 3).take (Tryz.prog.cellsOf 9)) = some y3 := hf 3 _ rfl
    rw [cells9] at g3
    obtain ⟨a3, e3, z3⟩ := op_str g3 (fun m (hm : m ∈ DataW.weights Tryz.prog 9 y3.1) => hb m (by simp [hm]))
    have g4 : DataW.trod enc Tryz.prog W 0 (fun _ => true) true k' 29 ((cs.drop 4).take (Tryz.prog.cellsOf 29)) = some y4 := hf 4 _ rfl
    rw [kc29] at g4
    obtain ⟨s4, l4, e4, i4, q4, b4⟩ := open_rows (E := EFd) okFd (fun a : Fd => a.n.size ≤ 140737488355328 ∧ a.v.size ≤ 140737488355328) kc66 (fun n cs y h hb => op_fd h hb) g4 (fun m (hm : m ∈ DataW.weights Tryz.prog 29 y4.1) => hb m (by simp [hm]))
    have g5 : DataW.trod enc Tryz.prog W 0 (fun _ => true) true k' 9 ((cs.drop 5).take (Tryz.prog.cellsOf 9)) = some y5 := hf 5 _ rfl
    rw [cells9] at g5
    obtain ⟨a5, e5, z5⟩ := op_str g5 (fun m (hm : m ∈ DataW.weights Tryz.prog 9 y5.1) => hb m (by simp [hm]))
    have hcs : cs = (cs.drop 0).take 1 ++ ((cs.drop 1).take 1 ++ ((cs.drop 2).take 1 ++ ((cs.drop 3).take 1 ++ ((cs.drop 4).take 1 ++ ((cs.drop 5).take 1 ++ []))))) := by
      have z : cs.drop 6 = [] := List.drop_of_length_le (by omega)
      have t0 := cutL cs 0 1 1 rfl
      have t1 := cutL cs 1 1 2 rfl
      have t2 := cutL cs 2 1 3 rfl
      have t3 := cutL cs 3 1 4 rfl
      have t4 := cutL cs 4 1 5 rfl
      have t5 := cutL cs 5 1 6 rfl
      rw [z] at t5
      rw [t5] at t4
      rw [t4] at t3
      rw [t3] at t2
      rw [t2] at t1
      rw [t1] at t0
      exact t0
    rw [e0, e1, e2, e3, e4, e5] at hcs
    exact ⟨⟨a0, a1, a2, a3, a5, l4⟩, s4, hcs, i4, z0, z1, z2, z3, z5, q4⟩
theorem op_wo (h : DataW.trod enc Tryz.prog W 0 (fun _ => true) true n 45 cs = some x) (hb : ∀ m ∈ x.1.weights Tryz.prog 45, m ≤ reachBytes) : ∃ (a : Wo) (sp su so : Sl), cs = (woA a sp su so).toList ∧ (WoRd W a sp su so ∧ WoOk a ∧ TxWo a) := by
  obtain ⟨xs, k', hk, hxy, hlen, hxl, hf⟩ := DataW.trod_struct Tryz.underlying45 h
  rw [kc45] at hlen
  match xs, hxl with
  | [y0, y1, y2, y3, y4, y5], _ =>
    have hd : x.1 = .agg ([y0, y1, y2, y3, y4, y5].map (·.1)) := congrArg Prod.fst hxy
    rw [hd] at hb
    simp only [List.map_cons, List.map_nil, DataW.weights, Tryz.underlying45, DataW.weightsEach, List.mem_append] at hb
    have g0 : DataW.trod enc Tryz.prog W 0 (fun _ => true) true k' 36 ((cs.drop 0).take (Tryz.prog.cellsOf 36)) = some y0 := hf 0 _ rfl
    rw [kc36] at g0
    obtain ⟨a0, e0, z0⟩ := op_si g0 (fun m (hm : m ∈ DataW.weights Tryz.prog 36 y0.1) => hb m (by simp [hm]))
    have g1 : DataW.trod enc Tryz.prog W 0 (fun _ => true) true k' 36 ((cs.drop 6).take (Tryz.prog.cellsOf 36)) = some y1 := hf 1 _ rfl
    rw [kc36] at g1
    obtain ⟨a1, e1, z1⟩ := op_si g1 (fun m (hm : m ∈ DataW.weights Tryz.prog 36 y1.1) => hb m (by simp [hm]))
    have g2 : DataW.trod enc Tryz.prog W 0 (fun _ => true) true k' 40 ((cs.drop 12).take (Tryz.prog.cellsOf 40)) = some y2 := hf 2 _ rfl
    rw [kc40] at g2
    obtain ⟨c0, c1, c2, c3, e2, j0, j1, j2, j3⟩ := op_cf g2 (fun m (hm : m ∈ DataW.weights Tryz.prog 40 y2.1) => hb m (by simp [hm]))
    have g3 : DataW.trod enc Tryz.prog W 0 (fun _ => true) true k' 41 ((cs.drop 16).take (Tryz.prog.cellsOf 41)) = some y3 := hf 3 _ rfl
    rw [kc41] at g3
    obtain ⟨s3, l3, e3, i3, q3, b3⟩ := open_rows (E := EPg) okPg (fun a : Pg × Sl => In ECh W a.2.v a.1.ch ∧ PgOk a.1 ∧ TxPg a.1) kc34 (fun n cs y h hb => op_pg h hb) g3 (fun m (hm : m ∈ DataW.weights Tryz.prog 41 y3.1) => hb m (by simp [hm]))
    have g4 : DataW.trod enc Tryz.prog W 0 (fun _ => true) true k' 42 ((cs.drop 17).take (Tryz.prog.cellsOf 42)) = some y4 := hf 4 _ rfl
    rw [kc42] at g4
    obtain ⟨s4, l4, e4, i4, q4, b4⟩ := open_rows (E := ERu) okRu (fun a : Ru × Sl => In ETg W a.2.v a.1.push ∧ TxTg a.1.of ∧ ∀ t ∈ a.1.push, TxTg t) kc64 (fun n cs y h hb => op_ru h hb) g4 (fun m (hm : m ∈ DataW.weights Tryz.prog 42 y4.1) => hb m (by simp [hm]))
    have g5 : DataW.trod enc Tryz.prog W 0 (fun _ => true) true k' 43 ((cs.drop 18).take (Tryz.prog.cellsOf 43)) = some y5 := hf 5 _ rfl
    rw [kc43] at g5
    obtain ⟨s5, l5, e5, i5, q5, b5⟩ := open_rows (E := EOg) okOg (fun a : ByteArray => a.size ≤ 140737488355328) cells9 (fun n cs y h hb => op_og h hb) g5 (fun m (hm : m ∈ DataW.weights Tryz.prog 43 y5.1) => hb m (by simp [hm]))
    have hcs : cs = (cs.drop 0).take 6 ++ ((cs.drop 6).take 6 ++ ((cs.drop 12).take 4 ++ ((cs.drop 16).take 1 ++ ((cs.drop 17).take 1 ++ ((cs.drop 18).take 1 ++ []))))) := by
      have z : cs.drop 19 = [] := List.drop_of_length_le (by omega)
      have t0 := cutL cs 0 6 6 rfl
      have t1 := cutL cs 6 6 12 rfl
      have t2 := cutL cs 12 4 16 rfl
      have t3 := cutL cs 16 1 17 rfl
      have t4 := cutL cs 17 1 18 rfl
      have t5 := cutL cs 18 1 19 rfl
      rw [z] at t5
      rw [t5] at t4
      rw [t4] at t3
      rw [t3] at t2
      rw [t2] at t1
      rw [t1] at t0
      exact t0
    rw [e0, e1, e2, e3, e4, e5] at hcs
    exact ⟨⟨a0, a1, c0, c1, c2, c3, l3.map (·.1), l4.map (·.1), l5⟩, s3, s4, s5, hcs, ⟨⟨l3, rfl, i3, fun q hq => (q3 q hq).1⟩, ⟨l4, rfl, i4, fun q hq => (q4 q hq).1⟩, i5⟩, ⟨z0, z1, j0, j1, j2, j3, fun p hp => by
      obtain ⟨q, hq, rfl⟩ := List.mem_map.1 hp
      exact (q3 q hq).2.1⟩, ⟨fun p hp => by
      obtain ⟨q, hq, rfl⟩ := List.mem_map.1 hp
      exact (q3 q hq).2.2, fun p hp => by
      obtain ⟨q, hq, rfl⟩ := List.mem_map.1 hp
      exact (q4 q hq).2, q5⟩⟩
theorem op_mv (h : DataW.trod enc Tryz.prog W 0 (fun _ => true) true n 38 cs = some x) (hb : ∀ m ∈ x.1.weights Tryz.prog 38, m ≤ reachBytes) : ∃ (a : Mv) (sf sc : Sl), cs = (mvA a sf.v sc.v).toList ∧ (In EFd W sf.v a.rq.fs ∧ In ECh W sc.v a.pg.ch ∧ MvOk a ∧ TxPg a.pg ∧ TxRq a.rq ∧ a.by'.size ≤ 140737488355328) := by
  obtain ⟨xs, k', hk, hxy, hlen, hxl, hf⟩ := DataW.trod_struct Tryz.underlying38 h
  rw [kc38] at hlen
  match xs, hxl with
  | [y0, y1, y2, y3, y4, y5], _ =>
    have hd : x.1 = .agg ([y0, y1, y2, y3, y4, y5].map (·.1)) := congrArg Prod.fst hxy
    rw [hd] at hb
    simp only [List.map_cons, List.map_nil, DataW.weights, Tryz.underlying38, DataW.weightsEach, List.mem_append] at hb
    have g0 : DataW.trod enc Tryz.prog W 0 (fun _ => true) true k' 3 ((cs.drop 0).take (Tryz.prog.cellsOf 3)) = some y0 := hf 0 _ rfl
    rw [cells3] at g0
    obtain ⟨a0, e0, z0⟩ := op_int g0 (fun m (hm : m ∈ DataW.weights Tryz.prog 3 y0.1) => hb m (by simp [hm]))
    have g1 : DataW.trod enc Tryz.prog W 0 (fun _ => true) true k' 2 ((cs.drop 1).take (Tryz.prog.cellsOf 2)) = some y1 := hf 1 _ rfl
    rw [cells2'] at g1
    obtain ⟨a1, e1, z1⟩ := op_i64 g1 (fun m (hm : m ∈ DataW.weights Tryz.prog 2 y1.1) => hb m (by simp [hm]))
    have g2 : DataW.trod enc Tryz.prog W 0 (fun _ => true) true k' 31 ((cs.drop 2).take (Tryz.prog.cellsOf 31)) = some y2 := hf 2 _ rfl
    rw [kc31] at g2
    obtain ⟨a2, r2, e2, i2, z2⟩ := op_rq g2 (fun m (hm : m ∈ DataW.weights Tryz.prog 31 y2.1) => hb m (by simp [hm]))
    have g3 : DataW.trod enc Tryz.prog W 0 (fun _ => true) true k' 34 ((cs.drop 8).take (Tryz.prog.cellsOf 34)) = some y3 := hf 3 _ rfl
    rw [kc34] at g3
    obtain ⟨⟨a3, r3⟩, e3, i3, z3, z3'⟩ := op_pg g3 (fun m (hm : m ∈ DataW.weights Tryz.prog 34 y3.1) => hb m (by simp [hm]))
    have g4 : DataW.trod enc Tryz.prog W 0 (fun _ => true) true k' 36 ((cs.drop 13).take (Tryz.prog.cellsOf 36)) = some y4 := hf 4 _ rfl
    rw [kc36] at g4
    obtain ⟨a4, e4, z4⟩ := op_si g4 (fun m (hm : m ∈ DataW.weights Tryz.prog 36 y4.1) => hb m (by simp [hm]))
    have g5 : DataW.trod enc Tryz.prog W 0 (fun _ => true) true k' 9 ((cs.drop 19).take (Tryz.prog.cellsOf 9)) = some y5 := hf 5 _ rfl
    rw [cells9] at g5
    obtain ⟨a5, e5, z5⟩ := op_str g5 (fun m (hm : m ∈ DataW.weights Tryz.prog 9 y5.1) => hb m (by simp [hm]))
    have hcs : cs = (cs.drop 0).take 1 ++ ((cs.drop 1).take 1 ++ ((cs.drop 2).take 6 ++ ((cs.drop 8).take 5 ++ ((cs.drop 13).take 6 ++ ((cs.drop 19).take 1 ++ []))))) := by
      have z : cs.drop 20 = [] := List.drop_of_length_le (by omega)
      have t0 := cutL cs 0 1 1 rfl
      have t1 := cutL cs 1 1 2 rfl
      have t2 := cutL cs 2 6 8 rfl
      have t3 := cutL cs 8 5 13 rfl
      have t4 := cutL cs 13 6 19 rfl
      have t5 := cutL cs 19 1 20 rfl
      rw [z] at t5
      rw [t5] at t4
      rw [t4] at t3
      rw [t3] at t2
      rw [t2] at t1
      rw [t1] at t0
      exact t0
    rw [e0, e1, e2, e3, e4, e5] at hcs
    exact ⟨⟨a0, a1, a2, a3, a4, a5⟩, r2, r3, hcs, i2, i3, ⟨z1, z3, z4⟩, z3', z2, z5⟩
theorem op_cm (h : DataW.trod enc Tryz.prog W 0 (fun _ => true) true n 102 cs = some x) (hb : ∀ m ∈ x.1.weights Tryz.prog 102, m ≤ reachBytes) : ∃ a : Cm × CmS, cs = EC2.enc a ∧ (CmOk a.1 ∧ TxC a.1 ∧ CmRd W a) := by
  obtain ⟨xs, k', hk, hxy, hlen, hxl, hf⟩ := DataW.trod_struct Tryz.underlying102 h
  rw [kc102] at hlen
  match xs, hxl with
  | [y0, y1, y2, y3, y4], _ =>
    have hd : x.1 = .agg ([y0, y1, y2, y3, y4].map (·.1)) := congrArg Prod.fst hxy
    rw [hd] at hb
    simp only [List.map_cons, List.map_nil, DataW.weights, Tryz.underlying102, DataW.weightsEach, List.mem_append] at hb
    have g0 : DataW.trod enc Tryz.prog W 0 (fun _ => true) true k' 3 ((cs.drop 0).take (Tryz.prog.cellsOf 3)) = some y0 := hf 0 _ rfl
    rw [cells3] at g0
    obtain ⟨a0, e0, z0⟩ := op_int g0 (fun m (hm : m ∈ DataW.weights Tryz.prog 3 y0.1) => hb m (by simp [hm]))
    have g1 : DataW.trod enc Tryz.prog W 0 (fun _ => true) true k' 45 ((cs.drop 1).take (Tryz.prog.cellsOf 45)) = some y1 := hf 1 _ rfl
    rw [kc45] at g1
    obtain ⟨a1, p1, u1, o1, e1, w1, z1, t1⟩ := op_wo g1 (fun m (hm : m ∈ DataW.weights Tryz.prog 45 y1.1) => hb m (by simp [hm]))
    have g2 : DataW.trod enc Tryz.prog W 0 (fun _ => true) true k' 38 ((cs.drop 20).take (Tryz.prog.cellsOf 38)) = some y2 := hf 2 _ rfl
    rw [kc38] at g2
    obtain ⟨a2, f2, c2, e2, i2, j2, z2, t2⟩ := op_mv g2 (fun m (hm : m ∈ DataW.weights Tryz.prog 38 y2.1) => hb m (by simp [hm]))
    have g3 : DataW.trod enc Tryz.prog W 0 (fun _ => true) true k' 2 ((cs.drop 40).take (Tryz.prog.cellsOf 2)) = some y3 := hf 3 _ rfl
    rw [cells2'] at g3
    obtain ⟨a3, e3, z3⟩ := op_i64 g3 (fun m (hm : m ∈ DataW.weights Tryz.prog 2 y3.1) => hb m (by simp [hm]))
    have g4 : DataW.trod enc Tryz.prog W 0 (fun _ => true) true k' 4 ((cs.drop 41).take (Tryz.prog.cellsOf 4)) = some y4 := hf 4 _ rfl
    rw [cells4] at g4
    obtain ⟨a4, e4, z4⟩ := op_bool g4 (fun m (hm : m ∈ DataW.weights Tryz.prog 4 y4.1) => hb m (by simp [hm]))
    have hcs : cs = (cs.drop 0).take 1 ++ ((cs.drop 1).take 19 ++ ((cs.drop 20).take 20 ++ ((cs.drop 40).take 1 ++ ((cs.drop 41).take 1 ++ [])))) := by
      have z : cs.drop 42 = [] := List.drop_of_length_le (by omega)
      have t0 := cutL cs 0 1 1 rfl
      have t1 := cutL cs 1 19 20 rfl
      have t2 := cutL cs 20 20 40 rfl
      have t3 := cutL cs 40 1 41 rfl
      have t4 := cutL cs 41 1 42 rfl
      rw [z] at t4
      rw [t4] at t3
      rw [t3] at t2
      rw [t2] at t1
      rw [t1] at t0
      exact t0
    rw [e0, e1, e2, e3, e4] at hcs
    exact ⟨(⟨a0, a1, a2, a3, a4⟩, ⟨p1, u1, o1, f2, c2⟩), hcs, ⟨z1, z2, z3⟩, ⟨t1, t2⟩, ⟨w1, i2, j2⟩⟩
theorem open_cmds (h : DataW.trod enc Tryz.prog W 0 (fun _ => true) true n 71 cs = some x) (hb : ∀ m ∈ x.1.weights Tryz.prog 71, m ≤ reachBytes) : ∃ (s : Sl) (l : List (Cm × CmS)), cs = [s.v] ∧ In EC2 W s.v l ∧ (∀ a ∈ l, CmOk a.1 ∧ TxC a.1 ∧ CmRd W a) ∧ l.length * 488 ≤ 140737488351232 := by
  obtain ⟨s, l, h1, h2, h3, h4⟩ := open_rows (E := EC2) okC2 (fun a : Cm × CmS => CmOk a.1 ∧ TxC a.1 ∧ CmRd W a) kc102 (fun n cs y h hb => op_cm h hb) h hb
  rw [show Tryz.prog.bytesOf EC2.e = 488 by kernel_rfl] at h4
  exact ⟨s, l, h1, h2, h3, h4⟩
end
end Go.Proofs.YtghppkfopglgaaaGreatDoor
