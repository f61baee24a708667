/- The second row of SharePlays: its walk lifted to the given statement. -/
import Derived.Test.YtbmaknjeflblcaaG6
import Derived.Test.YtbmaknjeflblcaaE1
import Derived.JoinedCond
import Derived.Deep.CondSized
namespace Go.Proofs.Ytbmaknjeflblcaa
namespace PPlays
open Go.ChangeShapes Go.WideShapes Go.ChangeAt Go.RowKit Go.Deep
open Go.ChangeMaps (open_string shut_string)

set_option maxRecDepth 100000 in
set_option maxHeartbeats 800000 in
theorem lifted (os : Os) (started : os.Started) (H : Type) (enc : TypeId × Value → H) (F : Stop.Interp) :
    ReturnsInHanded {} Try.checked os 7 .any ((Rows.OpenSpec.upto Rows.sharePlaysSpec).pre6 enc Try.prog Try.f7 Rows.sharePlaysUptoRow.domain false) (((Rows.OpenSpec.upto Rows.sharePlaysSpec).at F).post enc Try.prog Try.f7 false true false false) := by
  refine returnsInHanded_of_cond_sized (C := Try.checked) (s := Rows.OpenSpec.upto Rows.sharePlaysSpec) (k := Rows.uptoSmall) rfl own started (by kernel_rfl) Try.func7
    (OpenSpec.witness (enc := enc) (C := Try.checked) (s := Rows.OpenSpec.upto Rows.sharePlaysSpec) (k := Rows.uptoSmall) rfl false ⟨#[], #[.slice none 0 0], []⟩ 8 (by kernel_rfl) (by kernel_rfl) (by kernel_rfl)
      (x := ([.nil], [], [])) (by kernel_rfl) rfl (by kernel_rfl)) ?_
  intro W base args ds gs before hval0 hW _ hk hsz _
  have hval : ∀ (j : Nat) t v, Try.f7.params[j]? = some t → args[j]? = some v → Value.okWide Try.prog W .any base t v := hval0
  have hW' := hW
  obtain ⟨p, q, hA0, hV, rfl, hfz, hnd⟩ := hW
  have hA : DataW.TrodAll enc Try.prog W 0 (fun _ => true) true Try.f7.params.toList args.toList ds p := hA0
  rw [Try.params7] at hA hval
  obtain ⟨v0, vs0, d0, ds0, p0, q0, hargs, rfl, rfl, h0, r0⟩ := trodAll_cons hA
  obtain ⟨rfl, rfl, rfl⟩ := trodAll_nil r0
  obtain rfl : args = #[v0] := by cases args; simp_all
  obtain ⟨rfl, rfl⟩ := trodVars_none hV
  have hbulk := of_decide_eq_true hk
  simp only [List.append_nil, Rows.uptoBulkAll] at hbulk
  obtain ⟨fu0, hf0⟩ := h0
  obtain ⟨sa0, sl0, sc0, rfl⟩ := okWide_slice Try.underlying38 (hval 0 38 v0 rfl rfl)
  obtain ⟨y0, l0, ey0, hI0, hZ0, hn0, ht0⟩ := open_ops hf0
  have hlt0 : ∀ x ∈ p0, x.block < W.heap.size := fun x hx => hW'.lt x (by simp [hx])
  have hb0 : Rows.uptoBulk d0 ≤ 1048576 := by omega
  clear hA0 hval0
  simp only at hn0 ht0 hZ0
  have hcall : Calls Try.prog 7 #[.slice sa0 sl0 sc0] W (fun e w' => e = .returned (.bool true) ∧ Below W.heap.size W w') := by
    rw [ey0]
    exact sharePlays_any y0 l0 W hI0 _ hb0 hZ0 (by omega) (by omega)
  refine hcall.mono ?_
  rintro e W' ⟨rfl, bel⟩
  refine ⟨_, rfl, _, _, _, [], p0 ++ ([]), [], hW', ?_, ?_, ?_, bel.frame _, fun h => by cases h⟩
  · exact trodAll_mk1 (shut_bool Try.underlying4 _)
  · exact ⟨p0, _, Below.trod laidOut (by kernel_rfl) (of_decide_eq_true (by kernel_rfl)) ⟨fu0, hf0⟩ bel hlt0, trodAll_mk0, rfl⟩
  · rfl

theorem proved : Rows.SharePlaysUptoSaid :=
  OpenClaim.holds_of_cond 7 Try.f7 rfl rfl rfl rfl rfl rfl rfl ⟨rfl, rfl, rfl, rfl, rfl⟩ rfl rfl rfl rfl rfl (by kernel_rfl) Try.func7 (by kernel_rfl)
    (of_decide_eq_true (by kernel_rfl)) (by unfold Func.isWrapper; first | (rw [if_pos (by decide +kernel)]; kernel_rfl) | (rw [if_neg (by decide +kernel)]; exact ⟨rfl, rfl⟩))
    (fun os started H enc _ F => lifted os started H enc F)

end PPlays

theorem sharePlaysUpto_holds : Rows.SharePlaysUptoSaid := PPlays.proved
end Go.Proofs.Ytbmaknjeflblcaa
