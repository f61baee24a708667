/- A slice of entries among the arguments, opened. -/
import Derived.Test.YtlfbnhdcgldopaaC2
import Derived.ProofKit
import Derived.SizedLaws
import Derived.Deep.SlicePairs
namespace Go.Proofs.Ytlfbnhdcgldopaa
open Go.ChangeShapes Go.WideShapes Go.ChangeAt Go.RowKit Go.Deep
open Go.ChangeMaps (open_string shut_string)

theorem laidOut : laidOutB Try.prog = true := by kernel_rfl
theorem own : ownKnob Try.prog.godebug = none := by kernel_rfl
theorem cells30 : Try.prog.cellsOf 30 = 2 := by kernel_rfl
theorem cells9 : Try.prog.cellsOf 9 = 1 := by kernel_rfl

def strOf : Value → ByteArray
  | .string s => s
  | _ => ⟨#[]⟩

theorem cells_of_pairs (l : List E) (W : World) (a : Addr) (h : ∀ i (hi : i < l.length), W.cell? (a.add (i * 2)) = some (.string l[i].1) ∧ W.cell? (a.add (i * 2 + 1)) = some (.string l[i].2)) :
    ∀ j u, (cellsOf l)[j]? = some u → W.cell? (a.add j) = some u := by
  intro j u hj
  have hl := (List.getElem?_eq_some_iff.1 hj).1
  rw [length_cellsOf] at hl
  obtain ⟨h1, h2⟩ := cellsOf_get l (j / 2) (by omega)
  obtain ⟨h3, h4⟩ := h (j / 2) (by omega)
  rcases Nat.mod_two_eq_zero_or_one j with hm | hm
  · have e : j / 2 * 2 = j := by omega
    rw [e] at h1 h3
    rw [h1] at hj
    rw [h3, ← hj]
  · have e : j / 2 * 2 + 1 = j := by omega
    rw [e] at h2 h4
    rw [h2] at hj
    rw [h4, ← hj]

theorem spot_none {W : World} {a : Addr} {u : Value} (h : W.cell? a = some u) : a.spot = none := by
  unfold World.cell? at h
  split at h
  · split at h
    · cases h
    · rename_i h1
      simpa using h1
  · cases h

theorem weightsAll_mem {H : Type} {P : Program} {e : TypeId} : ∀ {ds : List (DataW H)} {d : DataW H} {n : Nat}, d ∈ ds → n ∈ d.weights P e → n ∈ DataW.weightsAll P e ds
  | d0 :: ds, d, n, hd, hn => by
    simp only [DataW.weightsAll, List.mem_append]
    rcases List.mem_cons.1 hd with rfl | hd
    · exact .inl hn
    · exact .inr (weightsAll_mem hd hn)
  | [], d, n, hd, hn => by cases hd

/-- One argument's weights are among all. -/
theorem weights_of {H : Type} {ts : List TypeId} {ds : List (DataW H)} (h : (DataW.weightsEach Try.prog ts ds).all (· ≤ reachBytes) = true) {j : Nat} {t : TypeId} {d : DataW H} (ht : ts[j]? = some t) (hd : ds[j]? = some d) :
    ∀ n ∈ d.weights Try.prog t, n ≤ reachBytes := fun n hn => by
  have := List.all_eq_true.1 h n (DataW.weights_mem_each ht hd n hn)
  simpa using this

theorem spot_add {a : Addr} (h : (a.add (0 * 2)).spot = none) : a.spot = none := by
  simpa [Addr.add] using h

theorem weights_pair {H : Type} (a b : List UInt8) : a.length ∈ DataW.weights Try.prog 30 (.agg [.lit (.string a), .lit (.string b)] : DataW H) ∧ b.length ∈ DataW.weights Try.prog 30 (.agg [.lit (.string a), .lit (.string b)] : DataW H) := by
  simp only [DataW.weights, Try.underlying30]
  simp [DataW.weightsEach, DataW.weights]

theorem bulk_one {H : Type} (d : DataW H) : 1 ≤ Rows.uptoBulk d := by
  cases d with
  | lit l => cases l <;> simp [Rows.uptoBulk]
  | nil => simp [Rows.uptoBulk]
  | ptr d => simp [Rows.uptoBulk]
  | slice elems spare => simp [Rows.uptoBulk]
  | agg parts => simp [Rows.uptoBulk]
  | iface t d => simp [Rows.uptoBulk]
  | map entries => simp [Rows.uptoBulk]
  | held h => simp [Rows.uptoBulk]

theorem bulk_length {H : Type} (l : List (DataW H)) : l.length ≤ Rows.uptoBulkAll l := by
  induction l with
  | nil => simp [Rows.uptoBulkAll]
  | cons x r ih => have := bulk_one x; simp only [Rows.uptoBulkAll, List.length_cons]; omega

theorem open_ents_bulk {H : Type} {enc : TypeId × Value → H} {W : World} {v : Value} {d : DataW H} {p : List MemPlace} (h : DataW.Trod enc Try.prog W 0 (fun _ => true) true 22 v d p) (hv : ∃ a len cap, v = .slice a len cap)
    (hsz : ∀ n ∈ d.weights Try.prog 22, n ≤ reachBytes) : ∃ l : List E, Ents W v l ∧ Fine l ∧ l.length ≤ Rows.uptoBulk d := by
  obtain ⟨a0, len0, cap0, rfl⟩ := hv
  obtain ⟨fuel, hf⟩ := h
  rcases open_slice_pairs Try.underlying22 Try.underlying30 cells30 rfl rfl cells9 cells9 hf with ⟨hc, hx⟩ | ⟨a, len, cap, m, k, V0, V1, D0, D1, P0, P1, hc, _, hl, hm, hmm, hx, hall⟩
  · simp [Value.cells] at hc
    obtain ⟨rfl, rfl, rfl⟩ := hc
    exact ⟨[], .inl ⟨rfl, rfl⟩, (fun e he => by cases he), Nat.zero_le _⟩
  · simp [Value.cells] at hc
    obtain ⟨rfl, rfl, rfl⟩ := hc
    simp only [if_true] at hmm
    subst hmm
    simp only [Prod.mk.injEq] at hx
    obtain ⟨rfl, rfl⟩ := hx
    have hs0 : ∀ i, i < m → V0 i = .string (strOf (V0 i)) ∧ D0 i = .lit (.string (strOf (V0 i)).data.toList) := fun i hi => by
      obtain ⟨s, h1, h2, h3⟩ := DataW.trod_string Try.underlying9 (hall i hi).2.2.1
      simp only [List.cons.injEq, and_true] at h1
      simp only [Prod.mk.injEq] at h2
      rw [h1]
      exact ⟨rfl, h2.1⟩
    have hs1 : ∀ i, i < m → V1 i = .string (strOf (V1 i)) ∧ D1 i = .lit (.string (strOf (V1 i)).data.toList) := fun i hi => by
      obtain ⟨s, h1, h2, h3⟩ := DataW.trod_string Try.underlying9 (hall i hi).2.2.2
      simp only [List.cons.injEq, and_true] at h1
      simp only [Prod.mk.injEq] at h2
      rw [h1]
      exact ⟨rfl, h2.1⟩
    have hlen : ((List.range len0).map fun i => ((strOf (V0 i), strOf (V1 i)) : E)).length = len0 := by simp
    refine ⟨(List.range len0).map fun i => (strOf (V0 i), strOf (V1 i)), .inr ⟨a, m, by rw [hlen], by rw [hlen]; exact hl, by unfold maxLen at hm; omega, ?_, cells_of_pairs _ W a fun i hi => ?_⟩, ?_, ?_⟩
    · by_cases h0 : m = 0
      · exact .inl h0
      · right
        have := (hall 0 (by omega)).1
        exact spot_add (spot_none this)
    · rw [hlen] at hi
      have hi' : i < m := by omega
      simp only [List.getElem_map, List.getElem_range]
      rw [← (hs0 i hi').1, ← (hs1 i hi').1]
      exact ⟨(hall i hi').1, (hall i hi').2.1⟩
    · intro e he
      obtain ⟨i, hi, rfl⟩ := List.mem_map.1 he
      have hi' : i < len0 := List.mem_range.1 hi
      have hw : ∀ n, n ∈ DataW.weights Try.prog 30 (DataW.agg [D0 i, D1 i]) → n ≤ reachBytes := fun n hn => hsz n (by
        simp only [DataW.weights, Try.underlying22, List.mem_cons, List.mem_append]
        exact .inr (.inl (weightsAll_mem (List.mem_map.2 ⟨i, hi, rfl⟩) hn)))
      have e0 := hw (strOf (V0 i)).size (by
        rw [(hs0 i (by omega)).2, (hs1 i (by omega)).2]
        exact (weights_pair _ _).1)
      have e1 := hw (strOf (V1 i)).size (by
        rw [(hs0 i (by omega)).2, (hs1 i (by omega)).2]
        exact (weights_pair _ _).2)
      have := reachBytes_lt
      show (strOf (V0 i)).size + (strOf (V1 i)).size + 32 ≤ _
      omega
    · rw [hlen]
      have := bulk_length ((List.range len0).map fun i => DataW.agg [D0 i, D1 i])
      rw [List.length_map, List.length_range] at this
      simp only [Rows.uptoBulk]
      omega

theorem open_ents {H : Type} {enc : TypeId × Value → H} {W : World} {v : Value} {d : DataW H} {p : List MemPlace} (h : DataW.Trod enc Try.prog W 0 (fun _ => true) true 22 v d p) (hv : ∃ a len cap, v = .slice a len cap)
    (hsz : ∀ n ∈ d.weights Try.prog 22, n ≤ reachBytes) : ∃ l : List E, Ents W v l ∧ Fine l := by
  obtain ⟨l, h1, h2, _⟩ := open_ents_bulk h hv hsz
  exact ⟨l, h1, h2⟩

end Go.Proofs.Ytlfbnhdcgldopaa
