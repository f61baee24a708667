/- A response among the arguments. -/
import Derived.Test.YtckdldbheejmhaaDoorE1
import Derived.Test.YtckdldbheejmhaaDoorB6
namespace Go.Proofs.YtckdldbheejmhaaDoor
open Go.ChangeShapes Go.WideShapes Go.ChangeAt Go.RowKit
set_option linter.unusedVariables false
set_option linter.unusedSimpArgs false
theorem cells35' : Tryd.prog.cellsOf 35 = 3 := by kernel_rfl
theorem cells3' : Tryd.prog.cellsOf 3 = 1 := by kernel_rfl
set_option maxRecDepth 100000 in
theorem open_response {H : Type} {enc : TypeId × Value → H} {W : World} {v : Value} {d : DataW H} {p : List MemPlace} {b0 : Nat} (hval : Value.okWide Tryd.prog W .any b0 35 v) (h : DataW.Trod enc Tryd.prog W 0 (fun _ => true) true 35 v d p) (hsz : ∀ n ∈ d.weights Tryd.prog 35, n ≤ reachBytes) :
    ∃ (n : Int) (b : ByteArray) (y : SV) (l : List Fd), v = .agg (rsv n (sv y) b) ∧ In EFd W (sv y) l ∧ (∀ e ∈ l, e.n.size ≤ 140737488351232 ∧ e.v.size ≤ 140737488351232) ∧ l.length * 40 ≤ 140737488351232 ∧ b.size ≤ 140737488351232 := by
  obtain ⟨cs, rfl, hcs⟩ := okWide_struct Tryd.underlying35 hval
  rw [cells35'] at hcs
  obtain ⟨fuel, hf0⟩ := h
  obtain ⟨xs, k', hk, hxy, _, hxl, hf⟩ := DataW.trod_struct Tryd.underlying35 hf0
  have hlen : cs.toList.length = 3 := by simpa using hcs
  obtain ⟨l⟩ := cs
  match xs, hxl, l, hlen with
  | [y0, y1, y2], _, [v0, v1, v2], _ =>
    have g0 := hf 0 _ rfl
    have g1 := hf 1 _ rfl
    have g2 := hf 2 _ rfl
    simp [cells3', cells9, cells22, Value.cells] at g0 g1 g2
    obtain ⟨n0, e0, q0, _⟩ := DataW.trod_int Tryd.underlying3 g0
    obtain ⟨n2, e2, q2, _⟩ := DataW.trod_string Tryd.underlying9 g2
    simp only [List.cons.injEq, and_true] at e0 e2
    subst e0 e2
    have hd : d = .agg ([y0, y1, y2].map (·.1)) := congrArg Prod.fst hxy
    have hin : ∀ z, (z ∈ y1.1.weights Tryd.prog 22 ∨ z ∈ y2.1.weights Tryd.prog 9) → z ≤ reachBytes := fun z hz => hsz z (by
      rw [hd]
      simp only [DataW.weights, Tryd.underlying35, List.map_cons, List.map_nil, DataW.weightsEach, List.mem_append]
      rcases hz with hz | hz <;> simp [hz])
    obtain ⟨sl, fl, rfl, hI, hz1, hz2⟩ := open_fields g1 fun z hz => hin z (.inl hz)
    refine ⟨n0, n2, sl, fl, rfl, hI, hz1, hz2, ?_⟩
    have := hin n2.size (.inr (by rw [q2]; simp [DataW.weights]))
    simpa [reachBytes] using this
end Go.Proofs.YtckdldbheejmhaaDoor
