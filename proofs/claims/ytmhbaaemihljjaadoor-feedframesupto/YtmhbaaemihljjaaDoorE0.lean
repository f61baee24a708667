/- Weights of the arguments. -/
import Derived.Test.YtmhbaaemihljjaaDoorL1
import Derived.ProofKit
import Derived.SizedLaws
import Derived.SliceStrings
import Derived.ChangeSlices
namespace Go.Proofs.YtmhbaaemihljjaaDoor
open Go.ChangeShapes Go.WideShapes Go.ChangeAt Go.RowKit
set_option linter.unusedVariables false
set_option linter.unusedSimpArgs false

theorem laidOut : laidOutB Tryd.prog = true := by kernel_rfl

/-- One argument's weights are among all. -/
theorem weights_of {H : Type} {ts : List TypeId} {ds : List (DataW H)} (h : (DataW.weightsEach Tryd.prog ts ds).all (· ≤ reachBytes) = true) {j : Nat} {t : TypeId} {d : DataW H} (ht : ts[j]? = some t) (hd : ds[j]? = some d) :
    ∀ n ∈ d.weights Tryd.prog t, n ≤ reachBytes := fun n hn => by
  have := List.all_eq_true.1 h n (DataW.weights_mem_each ht hd n hn)
  simpa using this

theorem weightsAll_mem {H : Type} {P : Program} {e : TypeId} : ∀ {ds : List (DataW H)} {d : DataW H} {n : Nat}, d ∈ ds → n ∈ d.weights P e → n ∈ DataW.weightsAll P e ds
  | d0 :: ds, d, n, hd, hn => by
    simp only [DataW.weightsAll, List.mem_append]
    rcases List.mem_cons.1 hd with rfl | hd
    · exact .inl hn
    · exact .inr (weightsAll_mem hd hn)
  | [], d, n, hd, hn => by cases hd

theorem cells9 : Tryd.prog.cellsOf 9 = 1 := by kernel_rfl
theorem bytes9 : Tryd.prog.bytesOf 9 = 16 := by kernel_rfl
theorem bytes3 : Tryd.prog.bytesOf 3 = 8 := by kernel_rfl

/-- a slice of strings among the arguments -/
theorem open_strs {H : Type} {enc : TypeId × Value → H} {W : World} {sa : Option Addr} {sl sc : Nat} {d : DataW H} {p : List MemPlace} {fuel : Nat} (h : DataW.trod enc Tryd.prog W 0 (fun _ => true) true fuel 36 (Value.slice sa sl sc).cells.toList = some (d, p)) (hsz : ∀ n ∈ d.weights Tryd.prog 36, n ≤ reachBytes) :
    ∃ ss : List ByteArray, sl = ss.length ∧ (∀ W', Below W.heap.size W W' → ∀ (i : Nat) (hi : i < ss.length), ∃ a, sa = some a ∧ W'.cell? (a.add i) = some (.string ss[i])) ∧ (∀ s ∈ ss, s.size ≤ 140737488351232) ∧ sl ≤ 140737488351232 := by
  rcases open_strings Tryd.underlying36 Tryd.underlying9 cells9 h with ⟨e, _⟩ | ⟨a, len, cap, ss, e, _, hl, hm, hlen, hx, hc, _⟩
  · simp [Value.cells] at e
    obtain ⟨rfl, rfl, rfl⟩ := e
    exact ⟨[], rfl, fun _ _ i hi => absurd hi (by simp), fun s hs => (by cases hs), Nat.zero_le _⟩
  · simp [Value.cells] at e
    obtain ⟨rfl, rfl, rfl⟩ := e
    simp at hlen
    have hd : d = .slice (strs (ss.take sl)) (strs (ss.drop sl)) := congrArg Prod.fst hx
    have htl : (ss.take sl).length = sl := by rw [List.length_take]; omega
    refine ⟨ss.take sl, htl.symm, fun W' hb i hi => ⟨a, rfl, ?_⟩, fun s hs => ?_, ?_⟩
    · have hi' : i < ss.length := by rw [htl] at hi; omega
      have h1 := hc i hi'
      have hlt := World.block_lt_of_cell? _ _ h1
      rw [hb.cell hlt, h1]
      simp [List.getD, hi']
    · have := hsz s.size (by
        rw [hd]
        simp only [DataW.weights, Tryd.underlying36, List.mem_cons, List.mem_append]
        refine .inr (.inl (weightsAll_mem (d := .lit (.string s.data.toList)) ?_ ?_))
        · unfold strs
          exact List.mem_map.2 ⟨s, hs, rfl⟩
        · simp [DataW.weights])
      simpa [reachBytes] using this
    · have := hsz ((strs (ss.take sl) : List (DataW H)).length + (strs (ss.drop sl) : List (DataW H)).length |> (· * Tryd.prog.bytesOf 9)) (by
        rw [hd]
        simp [DataW.weights, Tryd.underlying36])
      rw [bytes9] at this
      simp [strs, reachBytes] at this
      omega

theorem wf_u32 {n : Int} (h : (Lit.int .u32 n).wf = true) : 0 ≤ n ∧ n < 4294967296 := by
  simp [Lit.wf] at h
  have h1 : IntKind.u32.min = 0 := by decide
  have h2 : IntKind.u32.max = 4294967295 := by decide
  rw [h1, h2] at h
  omega

/-- a slice of ints among the arguments -/
theorem open_nums {H : Type} {enc : TypeId × Value → H} {W : World} {sa : Option Addr} {sl sc : Nat} {d : DataW H} {p : List MemPlace} {fuel : Nat} (h : DataW.trod enc Tryd.prog W 0 (fun _ => true) true fuel 41 (Value.slice sa sl sc).cells.toList = some (d, p)) (hsz : ∀ n ∈ d.weights Tryd.prog 41, n ≤ reachBytes) :
    ∃ zs : List Int, sl = zs.length ∧ (∀ W', Below W.heap.size W W' → ∀ (i : Nat) (hi : i < zs.length), ∃ a, sa = some a ∧ W'.cell? (a.add i) = some (.int .i64 zs[i])) ∧ True ∧ sl ≤ 140737488351232 := by
  rcases open_ints Tryd.underlying41 Tryd.underlying3 (by kernel_rfl) h with ⟨e, _⟩ | ⟨a, len, cap, ss, e, _, hl, hm, hlen, hx, hc, _⟩
  · simp [Value.cells] at e
    obtain ⟨rfl, rfl, rfl⟩ := e
    exact ⟨[], rfl, fun _ _ i hi => absurd hi (by simp), trivial, Nat.zero_le _⟩
  · simp [Value.cells] at e
    obtain ⟨rfl, rfl, rfl⟩ := e
    simp at hlen
    have hd : d = .slice (lits .i64 (ss.take sl)) (lits .i64 (ss.drop sl)) := congrArg Prod.fst hx
    have htl : (ss.take sl).length = sl := by rw [List.length_take]; omega
    refine ⟨ss.take sl, htl.symm, fun W' hb i hi => ⟨a, rfl, ?_⟩, trivial, ?_⟩
    · have hi' : i < ss.length := by rw [htl] at hi; omega
      have h1 := hc i hi'
      have hlt := World.block_lt_of_cell? _ _ h1
      rw [hb.cell hlt, h1]
      simp [List.getD, hi']
    · have := hsz ((lits .i64 (ss.take sl) : List (DataW H)).length + (lits .i64 (ss.drop sl) : List (DataW H)).length |> (· * Tryd.prog.bytesOf 3)) (by
        rw [hd]
        simp [DataW.weights, Tryd.underlying41])
      rw [bytes3] at this
      simp [lits, reachBytes] at this
      omega
end Go.Proofs.YtmhbaaemihljjaaDoor
