/- The row of TableLast: its walk lifted to the given statement. -/
import Derived.Test.YtlfbnhdcgldopaaD3
import Derived.Test.YtlfbnhdcgldopaaE1
namespace Go.Proofs.Ytlfbnhdcgldopaa
namespace PLast
open Go.ChangeShapes Go.WideShapes Go.ChangeAt Go.RowKit
open Go.ChangeMaps (open_string shut_string)

theorem cells2 : Try.prog.cellsOf 2 = 1 := by kernel_rfl

theorem wf_i64 {n : Int} (h : (Lit.int .i64 n).wf = true) : -9223372036854775808 ≤ n ∧ n ≤ 9223372036854775807 := by
  have e1 : IntKind.i64.min = -9223372036854775808 := rfl
  have e2 : IntKind.i64.max = 9223372036854775807 := rfl
  simp [Lit.wf, e1, e2] at h
  omega

theorem open_nums {H : Type} {enc : TypeId × Value → H} {W : World} {v : Value} {d : DataW H} {p : List MemPlace} (h : DataW.Trod enc Try.prog W 0 (fun _ => true) true 38 v d p) (hv : ∃ a len cap, v = .slice a len cap) : ∃ zs : List Int, Nums W v zs ∧ Whole64 zs := by
  obtain ⟨a0, len0, cap0, rfl⟩ := hv
  obtain ⟨fuel, hf⟩ := h
  rcases open_ints Try.underlying38 Try.underlying2 cells2 hf with ⟨hc, hx⟩ | ⟨a, len, cap, zs, hc, _, hl, hm, hz, hx, hcell, hw⟩
  · simp [Value.cells] at hc
    obtain ⟨rfl, rfl, rfl⟩ := hc
    exact ⟨[], .inl ⟨rfl, rfl⟩, fun z hz => by cases hz⟩
  · simp [Value.cells] at hc
    obtain ⟨rfl, rfl, rfl⟩ := hc
    simp only [if_true] at hz
    have hlen : (zs.take len0).length = len0 := by rw [List.length_take]; omega
    refine ⟨zs.take len0, .inr ⟨a, cap0, by rw [hlen], by rw [hlen]; exact hl, by unfold maxLen at hm; omega, fun j hj => ?_⟩, fun z hz' => ?_⟩
    · rw [hlen] at hj
      have := hcell j (by omega)
      rw [this]
      simp [show j < zs.length by omega]
    · have := hw z (List.mem_of_mem_take hz')
      exact wf_i64 this

set_option maxRecDepth 100000 in
set_option maxHeartbeats 800000 in
theorem lifted (os : Os) (started : os.Started) (H : Type) (enc : TypeId × Value → H) :
    ReturnsInHanded {} Try.checked os 5 .any (Rows.tableLastSpec.pre6 enc Try.prog Try.f5 Rows.tableLastRow.domain false) (Rows.tableLastSpec.post enc Try.prog Try.f5 false true false false) := by
  refine returnsInHanded_of_change_sized (C := Try.checked) own started (by kernel_rfl) Try.func5
    (ChangeSpec.witness6 (enc := enc) (C := Try.checked) false ⟨#[], #[.int .i64 0, .slice none 0 0, .slice none 0 0, .slice none 0 0], []⟩ 8 (by kernel_rfl) (by kernel_rfl) (by kernel_rfl) (by kernel_rfl)) ?_
  intro W base args ds gs before hval0 hW hcnd hsz _
  have hval : ∀ (j : Nat) t v, Try.f5.params[j]? = some t → args[j]? = some v → Value.okWide Try.prog W .any base t v := hval0
  have hW' := hW
  obtain ⟨p, q, hA0, hV, rfl, hfz, hnd⟩ := hW
  have hA : DataW.TrodAll enc Try.prog W 0 (fun _ => true) true Try.f5.params.toList args.toList ds p := hA0
  rw [Try.params5] at hA hval
  obtain ⟨v0, v1, v2, v3, d0, d1, d2, d3, p0, p1, p2, p3, rfl, rfl, rfl, h0, h1, h2, h3⟩ := trodAll_four hA
  obtain ⟨rfl, rfl⟩ := trodVars_none hV
  obtain ⟨a0, rfl, rfl, rfl, w0⟩ := open_int Try.underlying2 (hval 0 2 v0 rfl rfl) h0
  obtain ⟨l, hE, hF⟩ := open_ents h1 (okWide_slice Try.underlying22 (hval 1 22 v1 rfl rfl)) (weights_of hsz (j := 1) rfl rfl)
  obtain ⟨zs, hN, hZ⟩ := open_nums h2 (okWide_slice Try.underlying38 (hval 2 38 v2 rfl rfl))
  obtain ⟨l3, hE3, hF3⟩ := open_ents h3 (okWide_slice Try.underlying22 (hval 3 22 v3 rfl rfl)) (weights_of hsz (j := 3) rfl rfl)
  clear hA0 hval0
  have hlt1 : ∀ x ∈ p1, x.block < W.heap.size := fun x hx => hW'.lt x (by simp [hx])
  have hlt2 : ∀ x ∈ p2, x.block < W.heap.size := fun x hx => hW'.lt x (by simp [hx])
  have hlt3 : ∀ x ∈ p3, x.block < W.heap.size := fun x hx => hW'.lt x (by simp [hx])
  have hb0 : -9223372036854775808 ≤ a0 ∧ a0 ≤ 9223372036854775807 := by
    exact wf_i64 w0
  refine (tableLast_any W a0 v1 v2 v3 l l3 zs hb0.1 hb0.2 hE hF hN hZ hE3 hF3).mono ?_
  rintro e W' ⟨rfl, bel⟩
  refine ⟨_, rfl, _, _, _, [], [] ++ (p1 ++ (p2 ++ p3)), [], hW', ?_, ?_, ?_, bel.frame _, fun h => by cases h⟩
  · exact trodAll_mk1 (shut_bool Try.underlying4 _)
  · exact trodAll_mk4 (shut_int Try.underlying2 w0) (Below.trod laidOut (by kernel_rfl) (of_decide_eq_true (by kernel_rfl)) h1 bel hlt1) (Below.trod laidOut (by kernel_rfl) (of_decide_eq_true (by kernel_rfl)) h2 bel hlt2) (Below.trod laidOut (by kernel_rfl) (of_decide_eq_true (by kernel_rfl)) h3 bel hlt3)
  · rfl

theorem proved : Rows.TableLastSaid :=
  OpenClaim.holds_of_wide 5 Try.f5 rfl rfl rfl rfl rfl rfl rfl ⟨rfl, rfl, rfl, rfl, rfl⟩ rfl rfl rfl rfl rfl (by kernel_rfl) Try.func5 (by kernel_rfl)
    (of_decide_eq_true (by kernel_rfl)) (by unfold Func.isWrapper; first | (rw [if_pos (by decide +kernel)]; kernel_rfl) | (rw [if_neg (by decide +kernel)]; exact ⟨rfl, rfl⟩))
    (fun os started H enc _ => lifted os started H enc)

end PLast

theorem tableLast_holds : Rows.TableLastSaid := PLast.proved
end Go.Proofs.Ytlfbnhdcgldopaa
