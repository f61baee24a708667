/- The arguments opened, of bounded bulk. -/
import Derived.Test.YtfponcdhaefkdaaDoorB6
import Derived.Test.YtfponcdhaefkdaaDoorA3
import Derived.Test.YtfponcdhaefkdaaDoorCards
import Derived.Test.YtfponcdhaefkdaaDoorTie
import Derived.ProofKit
import Derived.OpenShut
import Derived.SizedLaws
import Derived.Deep.DeepHandedRow
import Derived.Deep.SlicePairs
import Derived.Lib.LaidTab
namespace Go.Proofs.YtfponcdhaefkdaaDoor
open Go.ChangeShapes Go.WideShapes Go.ChangeAt Go.RowKit Go.Deep
set_option linter.unusedVariables false
set_option linter.unusedSimpArgs false

theorem own : ownKnob Tryd.prog.godebug = none := by kernel_rfl
theorem laidOut : laidOutB Tryd.prog = true := by kernel_rfl
theorem cells30 : Tryd.prog.cellsOf 51 = 3 := by kernel_rfl
theorem cells24 : Tryd.prog.cellsOf 24 = 6 := by kernel_rfl
theorem cells22 : Tryd.prog.cellsOf 22 = 1 := by kernel_rfl
theorem cells4 : Tryd.prog.cellsOf 4 = 1 := by kernel_rfl
theorem cells9 : Tryd.prog.cellsOf 9 = 1 := by kernel_rfl
theorem bytes30 : Tryd.prog.bytesOf 51 = 40 := by kernel_rfl

/-- One argument's weights are among all. -/
theorem weights_of {H : Type} {ts : List TypeId} {ds : List (DataW H)} (h : (DataW.weightsEach Tryd.prog ts ds).all (· ≤ reachBytes) = true) {j : Nat} {t : TypeId} {d : DataW H} (ht : ts[j]? = some t) (hd : ds[j]? = some d) :
    ∀ n ∈ d.weights Tryd.prog t, n ≤ reachBytes := fun n hn => by
  have := List.all_eq_true.1 h n (DataW.weights_mem_each ht hd n hn)
  simpa using this
theorem weightsAll_mem {H : Type} {P : Program} {e : TypeId} : ∀ {ds : List (DataW H)} {d : DataW H} {n : Nat}, d ∈ ds → n ∈ d.weights P e → n ∈ DataW.weightsAll P e ds
  | d0 :: ds, d, n, hd, hn => by
    simp only [DataW.weightsAll, List.mem_append]
    rcases List.mem_cons.1 hd with rfl | hd
    · exact .inl hn
    · exact .inr (weightsAll_mem hd hn)
  | [], d, n, hd, hn => by cases hd
theorem add_add (a : Addr) (x y : Nat) : (a.add x).add y = a.add (x + y) := by
  unfold Addr.add
  by_cases hx : x = 0
  · by_cases hy : y = 0 <;> simp [hx, hy]
  · by_cases hy : y = 0
    · simp [hx, hy]
    · have : x + y ≠ 0 := by omega
      simp [hx, hy, this, Nat.add_assoc]
theorem in_of_cells {α : Type} {E : El α} (ok : E.Ok) {W : World} {a : Addr} {len cap : Nat} (f : Nat → α) (hl : len ≤ cap) (hm : cap ≤ 9223372036854775807) (h : ∀ i, i < len → W.cells? 0 (a.add (i * E.sz)) E.sz = some (E.enc (f i))) :
    In E W (.slice (some a) len cap) ((List.range len).map f) := by
  refine .inr ⟨a, cap, by simp, by simpa using hl, hm, fun j u hu => ?_⟩
  have hj : j < len * E.sz := by
    have := (List.getElem?_eq_some_iff.1 hu).1
    rw [ok.length] at this
    simpa using this
  have hp := ok.pos
  have hi : j / E.sz < len := Nat.div_lt_of_lt_mul (by rw [Nat.mul_comm]; exact hj)
  have hr : j % E.sz < E.sz := Nat.mod_lt _ hp
  have hjj : j / E.sz * E.sz + j % E.sz = j := by rw [Nat.mul_comm]; exact Nat.div_add_mod j E.sz
  have h1 := ok.get ((List.range len).map f) (j / E.sz) (j % E.sz) (by simpa using hi) hr
  rw [hjj, hu] at h1
  obtain ⟨_, h2, h3⟩ := World.cells?_some (h _ hi)
  have h4 := h3 (j % E.sz) hr
  rw [add_add, hjj] at h4
  rw [h4]
  simpa using h1.symm

/-- of a string among the arguments: its size is within the reach -/
theorem size_reach {H : Type} {s : ByteArray} (h : ∀ n ∈ (DataW.lit (.string s.data.toList) : DataW H).weights Tryd.prog 9, n ≤ reachBytes) : s.size ≤ 140737488351232 := by
  have := h s.size (by simp [DataW.weights])
  simpa [reachBytes] using this


/-- the listed tables, cell by cell -/
def leafD : DataW Unit → List Value
  | .lit (.int k z) => [.int k z]
  | _ => []
def rowD : DataW Unit → List Value
  | .agg l => l.flatMap leafD
  | _ => []
def rowsD : DataW Unit → List Value
  | .agg l => l.flatMap rowD
  | _ => []
def cFirst : Array Value := (rowD Rows.laid_unicode_utf8_first).toArray
def cAccept : Array Value := (rowsD Rows.laid_unicode_utf8_acceptRanges).toArray
theorem vsL_cons (f : Fd) (r : List Fd) (s : ByteArray) : vsL (f :: r) s = (if f.n = s then [f.v] else []) ++ vsL r s := by
  unfold vsL
  rw [List.filterMap_cons]
  by_cases e : f.n = s
  · simp [e]
  · simp [e]
theorem allP_app (a b : List ByteArray) : allP (a ++ b) = allP a ++ allP b := by unfold allP; rw [List.flatMap_append]
theorem allP_one (v : ByteArray) : allP [v] = (cutS v).map pcS := by unfold allP; simp
theorem cutL_len : ∀ l : List UInt8, (cutL l).length ≤ l.length + 1
  | [] => by simp [cutL]
  | c :: r => by
    have ih := cutL_len r
    unfold cutL
    split
    · simp only [List.length_cons]; omega
    · split
      · simp
      · rename_i p ps h
        rw [h] at ih
        simp only [List.length_cons] at ih ⊢
        omega
/-- the bytes of the values, and one a field -/
def totV : List Fd → Nat
  | [] => 0
  | f :: r => f.v.size + 1 + totV r
theorem allP_few (l : List Fd) (s : ByteArray) : (allP (vsL l s)).length ≤ totV l := by
  induction l with
  | nil => simp [vsL, allP, totV]
  | cons f r ih =>
    have h := vsL_cons f r s
    rw [h, allP_app, List.length_append, totV]
    by_cases e : f.n = s
    · rw [if_pos e, allP_one, List.length_map, cutS, List.length_map]
      have := cutL_len f.v.data.toList
      rw [← Lib.size_eq] at this
      omega
    · rw [if_neg e]
      simp [allP]
      simp [allP] at ih
      omega
/-- the bytes of all names and values, and one a field -/
def totF : List Fd → Nat
  | [] => 0
  | f :: r => f.n.size + f.v.size + 1 + totF r
theorem totV_le (l : List Fd) : totV l ≤ totF l := by
  induction l with
  | nil => exact Nat.le_refl _
  | cons f r ih => simp only [totV, totF]; omega
theorem len_le (l : List Fd) : l.length ≤ totF l := by
  induction l with
  | nil => exact Nat.le_refl _
  | cons f r ih => simp only [List.length_cons, totF]; omega
theorem cells26' : Tryd.prog.cellsOf 26 = 3 := by kernel_rfl
theorem cells3' : Tryd.prog.cellsOf 3 = 1 := by kernel_rfl
theorem totF_map {H : Type} (f : Nat → Fd) (D : Nat → DataW H) : ∀ L : List Nat, (∀ i ∈ L, (f i).n.size + (f i).v.size + 1 ≤ Rows.uptoBulk (D i)) → totF (L.map f) ≤ Rows.uptoBulkAll (L.map D)
  | [], _ => by simp [totF, Rows.uptoBulkAll]
  | i :: L, h => by
    have h1 := h i (by simp)
    have h2 := totF_map f D L fun j hj => h j (by simp [hj])
    simp only [List.map_cons, totF, Rows.uptoBulkAll]
    omega
set_option maxRecDepth 100000 in
/-- fields among the arguments -/
theorem open_fieldsC {H : Type} {enc : TypeId × Value → H} {W : World} {v : Value} {n : Nat} {x : DataW H × List MemPlace} (h : DataW.trod enc Tryd.prog W 0 (fun _ => true) true n 22 [v] = some x) (hsz : ∀ n ∈ x.1.weights Tryd.prog 22, n ≤ reachBytes) :
    ∃ (s : SV) (l : List Fd), v = sv s ∧ In EFd W (sv s) l ∧ (∀ e ∈ l, e.n.size ≤ 140737488351232 ∧ e.v.size ≤ 140737488351232) ∧ l.length * 40 ≤ 140737488351232 ∧ totF l ≤ Rows.uptoBulk x.1 := by
  rcases open_slice Tryd.underlying22 h with ⟨hc, _⟩ | ⟨a, len, cap, m, k, D, Pl, hc, _, hl, hm, hmm, hx, hall⟩
  · simp only [List.cons.injEq, and_true] at hc
    exact ⟨(none, 0, 0), [], hc, .inl ⟨rfl, rfl⟩, fun o ho => (by cases ho), by simp, Nat.zero_le _⟩
  · simp only [List.cons.injEq, and_true] at hc
    simp only [if_true] at hmm
    subst hmm
    have hw : len * 40 ≤ 140737488351232 := by
      have := hsz (((List.range len).map D).length * 40 + ((List.range (m - len)).map fun j => D (len + j)).length * 40) (by
        rw [hx]
        simp only [DataW.weights, Tryd.underlying22, bytes30, List.mem_cons]
        exact .inl (by rw [Nat.add_mul]))
      simp only [List.length_map, List.length_range, reachBytes] at this
      omega
    have each : ∀ i, i < len → ∃ e : Fd, W.cells? 0 (a.add (i * 3)) 3 = some (fdv e).toList ∧ (e.n.size ≤ 140737488351232 ∧ e.v.size ≤ 140737488351232) ∧ e.n.size + e.v.size + 1 ≤ Rows.uptoBulk (D i) := fun i hi => by
      obtain ⟨cs', h1, h2⟩ := hall i (by omega)
      rw [cells30] at h1
      obtain ⟨_, hlen, _⟩ := World.cells?_some h1
      obtain ⟨xs, k', hk, hxy, _, hxl, hf⟩ := DataW.trod_struct Tryd.underlying51 h2
      match xs, hxl, cs', hlen with
      | [y0, y1, y2], _, [v0, v1, v2], _ =>
        have g0 := hf 0 _ rfl
        have g1 := hf 1 _ rfl
        have g2 := hf 2 _ rfl
        simp [cells9, cells4] at g0 g1 g2
        obtain ⟨s0, e0, q0, _⟩ := DataW.trod_string Tryd.underlying9 g0
        obtain ⟨s1, e1, q1, _⟩ := DataW.trod_string Tryd.underlying9 g1
        obtain ⟨b2, e2, q2⟩ := DataW.trod_bool Tryd.underlying4 g2
        simp only [List.cons.injEq, and_true] at e0 e1 e2
        subst e0 e1 e2
        have hd : D i = .agg ([y0, y1, y2].map (·.1)) := congrArg Prod.fst hxy
        have hin : ∀ z, z ∈ y0.1.weights Tryd.prog 9 ∨ z ∈ y1.1.weights Tryd.prog 9 → z ≤ reachBytes := fun z hz => hsz z (by
          rw [hx]
          simp only [DataW.weights, Tryd.underlying22, List.mem_cons, List.mem_append]
          refine .inr (.inl (weightsAll_mem (d := D i) (List.mem_map.2 ⟨i, List.mem_range.2 hi, rfl⟩) ?_))
          rw [hd]
          simp only [DataW.weights, Tryd.underlying51, List.map_cons, List.map_nil, DataW.weightsEach, List.mem_append]
          rcases hz with hz | hz <;> simp [hz])
        refine ⟨⟨s0, s1, b2⟩, h1, ⟨?_, ?_⟩, ?_⟩
        · have := hin s0.size (.inl (by rw [q0]; simp [DataW.weights]))
          simpa [reachBytes] using this
        · have := hin s1.size (.inr (by rw [q1]; simp [DataW.weights]))
          simpa [reachBytes] using this
        · rw [hd, show y1 = _ from q1, show y0 = _ from q0]
          simp only [List.map_cons, List.map_nil, Rows.uptoBulk, Rows.uptoBulkAll]
          have h5 := Lib.size_eq s1
          have h6 := Lib.size_eq s0
          omega
    have : Inhabited Fd := ⟨⟨⟨#[]⟩, ⟨#[]⟩, false⟩⟩
    obtain ⟨f, hfo⟩ := choose_lt each
    refine ⟨(some a, len, m), (List.range len).map f, ?_, ?_, fun e he => ?_, by simpa using hw, ?_⟩
    · rw [hc]; rfl
    · show In EFd W (.slice (some a) len m) _
      exact in_of_cells okFd f hl (by unfold maxLen at hm; omega) fun i hi => (hfo i hi).1
    · obtain ⟨i, hi, rfl⟩ := List.mem_map.1 he
      exact (hfo i (List.mem_range.1 hi)).2.1
    · rw [hx]
      have := totF_map f D (List.range len) fun i hi => (hfo i (List.mem_range.1 hi)).2.2
      simp only [Rows.uptoBulk]
      omega

set_option maxRecDepth 100000 in
theorem open_responseC {H : Type} {enc : TypeId × Value → H} {W : World} {v : Value} {d : DataW H} {p : List MemPlace} {b0 : Nat} (hval : Value.okWide Tryd.prog W .any b0 26 v) (h : DataW.Trod enc Tryd.prog W 0 (fun _ => true) true 26 v d p) (hsz : ∀ n ∈ d.weights Tryd.prog 26, n ≤ reachBytes) :
    ∃ (n : Int) (b : ByteArray) (y : SV) (l : List Fd), v = .agg (rsv n (sv y) b) ∧ In EFd W (sv y) l ∧ (∀ e ∈ l, e.n.size ≤ 140737488351232 ∧ e.v.size ≤ 140737488351232) ∧ l.length * 40 ≤ 140737488351232 ∧ b.size ≤ 140737488351232 ∧ totF l ≤ Rows.uptoBulk d := by
  obtain ⟨cs, rfl, hcs⟩ := okWide_struct Tryd.underlying26 hval
  rw [cells26'] at hcs
  obtain ⟨fuel, hf0⟩ := h
  obtain ⟨xs, k', hk, hxy, _, hxl, hf⟩ := DataW.trod_struct Tryd.underlying26 hf0
  have hlen : cs.toList.length = 3 := by simpa using hcs
  obtain ⟨l⟩ := cs
  match xs, hxl, l, hlen with
  | [y0, y1, y2], _, [v0, v1, v2], _ =>
    have g0 := hf 0 _ rfl
    have g1 := hf 1 _ rfl
    have g2 := hf 2 _ rfl
    simp [cells3', cells9, cells22, Value.cells] at g0 g1 g2
    obtain ⟨n0, e0, q0, _⟩ := DataW.trod_int Tryd.underlying3 g0
    obtain ⟨n2, e2, q2, _⟩ := DataW.trod_string Tryd.underlying9 g2
    simp only [List.cons.injEq, and_true] at e0 e2
    subst e0 e2
    have hd : d = .agg ([y0, y1, y2].map (·.1)) := congrArg Prod.fst hxy
    have hin : ∀ z, (z ∈ y1.1.weights Tryd.prog 22 ∨ z ∈ y2.1.weights Tryd.prog 9) → z ≤ reachBytes := fun z hz => hsz z (by
      rw [hd]
      simp only [DataW.weights, Tryd.underlying26, List.map_cons, List.map_nil, DataW.weightsEach, List.mem_append]
      rcases hz with hz | hz <;> simp [hz])
    obtain ⟨sl, fl, rfl, hI, hz1, hz2, hz3⟩ := open_fieldsC g1 fun z hz => hin z (.inl hz)
    refine ⟨n0, n2, sl, fl, rfl, hI, hz1, hz2, ?_, ?_⟩
    · have := hin n2.size (.inr (by rw [q2]; simp [DataW.weights]))
      simpa [reachBytes] using this
    · rw [hd]
      simp only [List.map_cons, List.map_nil, Rows.uptoBulk, Rows.uptoBulkAll]
      omega
set_option maxRecDepth 100000 in
/-- a request among the arguments -/
theorem open_requestC {H : Type} {enc : TypeId × Value → H} {W : World} {v : Value} {d : DataW H} {p : List MemPlace} {b0 : Nat} (hval : Value.okWide Tryd.prog W .any b0 24 v) (h : DataW.Trod enc Tryd.prog W 0 (fun _ => true) true 24 v d p) (hsz : ∀ n ∈ d.weights Tryd.prog 24, n ≤ reachBytes) :
    ∃ (m s a q b : ByteArray) (y : SV) (l : List Fd), v = .agg (rqv ⟨m, s, a, q, y, b⟩) ∧ In EFd W (sv y) l ∧ (∀ e ∈ l, e.n.size ≤ 140737488351232 ∧ e.v.size ≤ 140737488351232) ∧ l.length * 40 ≤ 140737488351232 ∧ m.size ≤ 140737488351232 ∧ s.size ≤ 140737488351232 ∧ a.size ≤ 140737488351232 ∧ q.size ≤ 140737488351232 ∧ b.size ≤ 140737488351232 ∧ totF l ≤ Rows.uptoBulk d := by
  obtain ⟨cs, rfl, hcs⟩ := okWide_struct Tryd.underlying24 hval
  rw [cells24] at hcs
  obtain ⟨fuel, hf0⟩ := h
  obtain ⟨xs, k', hk, hxy, _, hxl, hf⟩ := DataW.trod_struct Tryd.underlying24 hf0
  have hlen : cs.toList.length = 6 := by simpa using hcs
  obtain ⟨l⟩ := cs
  match xs, hxl, l, hlen with
  | [y0, y1, y2, y3, y4, y5], _, [v0, v1, v2, v3, v4, v5], _ =>
    have g0 := hf 0 _ rfl
    have g1 := hf 1 _ rfl
    have g2 := hf 2 _ rfl
    have g3 := hf 3 _ rfl
    have g4 := hf 4 _ rfl
    have g5 := hf 5 _ rfl
    simp [cells9, cells22, Value.cells] at g0 g1 g2 g3 g4 g5
    obtain ⟨n0, e0, q0, _⟩ := DataW.trod_string Tryd.underlying9 g0
    obtain ⟨n1, e1, q1, _⟩ := DataW.trod_string Tryd.underlying9 g1
    obtain ⟨n2, e2, q2, _⟩ := DataW.trod_string Tryd.underlying9 g2
    obtain ⟨n3, e3, q3, _⟩ := DataW.trod_string Tryd.underlying9 g3
    obtain ⟨n5, e5, q5, _⟩ := DataW.trod_string Tryd.underlying9 g5
    simp only [List.cons.injEq, and_true] at e0 e1 e2 e3 e5
    subst e0 e1 e2 e3 e5
    have hd : d = .agg ([y0, y1, y2, y3, y4, y5].map (·.1)) := congrArg Prod.fst hxy
    have hin : ∀ z, (z ∈ y0.1.weights Tryd.prog 9 ∨ z ∈ y1.1.weights Tryd.prog 9 ∨ z ∈ y2.1.weights Tryd.prog 9 ∨ z ∈ y3.1.weights Tryd.prog 9 ∨ z ∈ y4.1.weights Tryd.prog 22 ∨ z ∈ y5.1.weights Tryd.prog 9) → z ≤ reachBytes := fun z hz => hsz z (by
      rw [hd]
      simp only [DataW.weights, Tryd.underlying24, List.map_cons, List.map_nil, DataW.weightsEach, List.mem_append]
      rcases hz with hz | hz | hz | hz | hz | hz <;> simp [hz])
    obtain ⟨sl, fl, rfl, hI, hz1, hz2, hz3⟩ := open_fieldsC g4 fun z hz => hin z (.inr (.inr (.inr (.inr (.inl hz)))))
    refine ⟨n0, n1, n2, n3, n5, sl, fl, rfl, hI, hz1, hz2, ?_, ?_, ?_, ?_, ?_, ?_⟩
    · have := hin n0.size (.inl (by rw [q0]; simp [DataW.weights]))
      simpa [reachBytes] using this
    · have := hin n1.size (.inr (.inl (by rw [q1]; simp [DataW.weights])))
      simpa [reachBytes] using this
    · have := hin n2.size (.inr (.inr (.inl (by rw [q2]; simp [DataW.weights]))))
      simpa [reachBytes] using this
    · have := hin n3.size (.inr (.inr (.inr (.inl (by rw [q3]; simp [DataW.weights])))))
      simpa [reachBytes] using this
    · have := hin n5.size (.inr (.inr (.inr (.inr (.inr (by rw [q5]; simp [DataW.weights]))))))
      simpa [reachBytes] using this
    · rw [hd]
      simp only [List.map_cons, List.map_nil, Rows.uptoBulk, Rows.uptoBulkAll]
      omega
end Go.Proofs.YtfponcdhaefkdaaDoor
