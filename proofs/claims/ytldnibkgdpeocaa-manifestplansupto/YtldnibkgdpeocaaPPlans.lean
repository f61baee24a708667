/- The second row of ManifestPlans: its walk lifted to the given statement. -/
import Derived.Test.YtldnibkgdpeocaaG4
import Derived.Test.YtldnibkgdpeocaaE1
import Derived.JoinedCond
import Derived.Deep.CondSized
namespace Go.Proofs.Ytldnibkgdpeocaa
namespace PPlans
open Go.ChangeShapes Go.WideShapes Go.ChangeAt Go.RowKit Go.Deep

set_option maxRecDepth 100000 in
set_option maxHeartbeats 800000 in
theorem lifted (os : Os) (started : os.Started) (H : Type) (enc : TypeId × Value → H) (F : Stop.Interp) :
    ReturnsInHanded {} Try.checked os 6 .any ((Rows.OpenSpec.upto Rows.manifestPlansSpec).pre6 enc Try.prog Try.f6 Rows.manifestPlansUptoRow.domain false) (((Rows.OpenSpec.upto Rows.manifestPlansSpec).at F).post enc Try.prog Try.f6 false true false false) := by
  refine returnsInHanded_of_cond_sized (C := Try.checked) (s := Rows.OpenSpec.upto Rows.manifestPlansSpec) (k := Rows.uptoSmall) rfl own started (by kernel_rfl) Try.func6
    (OpenSpec.witness (enc := enc) (C := Try.checked) (s := Rows.OpenSpec.upto Rows.manifestPlansSpec) (k := Rows.uptoSmall) rfl false ⟨#[], #[.slice none 0 0, .slice none 0 0, .int .i64 0], []⟩ 8 (by kernel_rfl) (by kernel_rfl) (by kernel_rfl)
      (x := ([.nil, .nil, .lit (.int .i64 0)], [], [])) (by kernel_rfl) rfl (by kernel_rfl)) ?_
  intro W base args ds gs before hval0 hW _ hk hsz _
  have hval : ∀ (j : Nat) t v, Try.f6.params[j]? = some t → args[j]? = some v → Value.okWide Try.prog W .any base t v := hval0
  have hW' := hW
  obtain ⟨p, q, hA0, hV, rfl, hfz, hnd⟩ := hW
  have hA : DataW.TrodAll enc Try.prog W 0 (fun _ => true) true Try.f6.params.toList args.toList ds p := hA0
  rw [Try.params6] at hA hval
  obtain ⟨v0, vs0, d0, ds0, p0, q0, hargs, rfl, rfl, h0, r0⟩ := trodAll_cons hA
  obtain ⟨v1, vs1, d1, ds1, p1, q1, rfl, rfl, rfl, h1, r1⟩ := trodAll_cons r0
  obtain ⟨v2, vs2, d2, ds2, p2, q2, rfl, rfl, rfl, h2, r2⟩ := trodAll_cons r1
  obtain ⟨rfl, rfl, rfl⟩ := trodAll_nil r2
  obtain rfl : args = #[v0, v1, v2] := by cases args; simp_all
  obtain ⟨rfl, rfl⟩ := trodVars_none hV
  have hbulk := of_decide_eq_true hk
  simp only [List.append_nil, Rows.uptoBulkAll] at hbulk
  obtain ⟨fu0, hf0⟩ := h0
  obtain ⟨sa0, sl0, sc0, rfl⟩ := okWide_slice Try.underlying23 (hval 0 23 v0 rfl rfl)
  obtain ⟨y0, l0, ey0, hI0, hP0, hn0, hz0⟩ := open_rules hf0
  obtain ⟨fu1, hf1⟩ := h1
  obtain ⟨sa1, sl1, sc1, rfl⟩ := okWide_slice Try.underlying27 (hval 1 27 v1 rfl rfl)
  obtain ⟨y1, l1, ey1, hI1, hn1, hz1⟩ := open_targets hf1
  obtain ⟨a2, rfl, rfl, rfl, w2⟩ := open_int Try.underlying3 (hval 2 3 v2 rfl rfl) h2
  clear hA0 hval0
  simp only at hn0 hz0 hn1 hz1
  have hb0 : Rows.uptoBulk d0 ≤ 1048576 := by omega
  have hb1 : Rows.uptoBulk d1 ≤ 1048576 := by omega
  have hlt0 : ∀ x ∈ p0, x.block < W.heap.size := fun x hx => hW'.lt x (by simp [hx])
  have hlt1 : ∀ x ∈ p1, x.block < W.heap.size := fun x hx => hW'.lt x (by simp [hx])
  have hcall : Calls Try.prog 6 #[.slice sa0 sl0 sc0, .slice sa1 sl1 sc1, .int .i64 a2] W (fun e w' => e = .returned (.bool true) ∧ Below W.heap.size W w') := by
    rw [ey0, ey1]
    exact plans_any y0 y1 l0 l1 a2 W hI0 hP0 hI1 (by omega) (fun r hr => by
      have h := hz0 r hr
      exact ⟨by omega, ⟨by omega, by omega⟩, fun c hc => by have := h.2.2 c hc; exact ⟨by omega, by omega⟩⟩) ⟨by omega, fun c hc => by have := hz1 c hc; exact ⟨by omega, by omega⟩⟩
  refine hcall.mono ?_
  rintro e W' ⟨rfl, bel⟩
  refine ⟨_, rfl, _, _, _, [], p0 ++ (p1 ++ ([] ++ [])), [], hW', ?_, ?_, ?_, bel.frame _, fun h => by cases h⟩
  · exact trodAll_mk1 (shut_bool Try.underlying4 _)
  · exact ⟨p0, _, Below.trod laidOut (by kernel_rfl) (of_decide_eq_true (by kernel_rfl)) ⟨fu0, hf0⟩ bel hlt0, ⟨p1, _, Below.trod laidOut (by kernel_rfl) (of_decide_eq_true (by kernel_rfl)) ⟨fu1, hf1⟩ bel hlt1, ⟨[], _, shut_int Try.underlying3 w2, trodAll_mk0, rfl⟩, rfl⟩, rfl⟩
  · rfl

theorem proved : Rows.ManifestPlansUptoSaid :=
  OpenClaim.holds_of_cond 6 Try.f6 rfl rfl rfl rfl rfl rfl rfl ⟨rfl, rfl, rfl, rfl, rfl⟩ rfl rfl rfl rfl rfl (by kernel_rfl) Try.func6 (by kernel_rfl)
    (of_decide_eq_true (by kernel_rfl)) (by unfold Func.isWrapper; first | (rw [if_pos (by decide +kernel)]; kernel_rfl) | (rw [if_neg (by decide +kernel)]; exact ⟨rfl, rfl⟩))
    (fun os started H enc _ F => lifted os started H enc F)

end PPlans

theorem manifestPlansUpto_holds : Rows.ManifestPlansUptoSaid := PPlans.proved
end Go.Proofs.Ytldnibkgdpeocaa
