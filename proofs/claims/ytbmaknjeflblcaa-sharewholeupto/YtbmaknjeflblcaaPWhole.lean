/- The second row of ShareWhole: its walk lifted to the given statement. -/
import Derived.Test.YtbmaknjeflblcaaD4
import Derived.Test.YtbmaknjeflblcaaE1
import Derived.JoinedCond
import Derived.Deep.CondSized
namespace Go.Proofs.Ytbmaknjeflblcaa
namespace PWhole
open Go.ChangeShapes Go.WideShapes Go.ChangeAt Go.RowKit Go.Deep
open Go.ChangeMaps (open_string shut_string)

set_option maxRecDepth 100000 in
set_option maxHeartbeats 800000 in
theorem lifted (os : Os) (started : os.Started) (H : Type) (enc : TypeId × Value → H) (F : Stop.Interp) :
    ReturnsInHanded {} Try.checked os 6 .any ((Rows.OpenSpec.upto Rows.shareWholeSpec).pre6 enc Try.prog Try.f6 Rows.shareWholeUptoRow.domain false) (((Rows.OpenSpec.upto Rows.shareWholeSpec).at F).post enc Try.prog Try.f6 false true false false) := by
  refine returnsInHanded_of_cond_sized (C := Try.checked) (s := Rows.OpenSpec.upto Rows.shareWholeSpec) (k := Rows.uptoSmall) rfl own started (by kernel_rfl) Try.func6
    (OpenSpec.witness (enc := enc) (C := Try.checked) (s := Rows.OpenSpec.upto Rows.shareWholeSpec) (k := Rows.uptoSmall) rfl false ⟨#[], #[.int .i64 0, .slice none 0 0], []⟩ 8 (by kernel_rfl) (by kernel_rfl) (by kernel_rfl)
      (x := ([.lit (.int .i64 0), .nil], [], [])) (by kernel_rfl) rfl (by kernel_rfl)) ?_
  intro W base args ds gs before hval0 hW _ hk hsz _
  have hval : ∀ (j : Nat) t v, Try.f6.params[j]? = some t → args[j]? = some v → Value.okWide Try.prog W .any base t v := hval0
  have hW' := hW
  obtain ⟨p, q, hA0, hV, rfl, hfz, hnd⟩ := hW
  have hA : DataW.TrodAll enc Try.prog W 0 (fun _ => true) true Try.f6.params.toList args.toList ds p := hA0
  rw [Try.params6] at hA hval
  obtain ⟨v0, vs0, d0, ds0, p0, q0, hargs, rfl, rfl, h0, r0⟩ := trodAll_cons hA
  obtain ⟨v1, vs1, d1, ds1, p1, q1, rfl, rfl, rfl, h1, r1⟩ := trodAll_cons r0
  obtain ⟨rfl, rfl, rfl⟩ := trodAll_nil r1
  obtain rfl : args = #[v0, v1] := by cases args; simp_all
  obtain ⟨rfl, rfl⟩ := trodVars_none hV
  have hbulk := of_decide_eq_true hk
  simp only [List.append_nil, Rows.uptoBulkAll] at hbulk
  obtain ⟨a0, rfl, rfl, rfl, w0⟩ := open_int Try.underlying2 (hval 0 2 v0 rfl rfl) h0
  obtain ⟨fu1, hf1⟩ := h1
  obtain ⟨sa1, sl1, sc1, rfl⟩ := okWide_slice Try.underlying47 (hval 1 47 v1 rfl rfl)
  obtain ⟨y1, l1, ey1, hI1, hZ1, hn1, ht1⟩ := open_pieces hf1
  have hlt1 : ∀ x ∈ p1, x.block < W.heap.size := fun x hx => hW'.lt x (by simp [hx])
  have hb1 : Rows.uptoBulk d1 ≤ 1048576 := by omega
  clear hA0 hval0
  simp only at hn1 ht1 hZ1
  have hcall : Calls Try.prog 6 #[.int .i64 a0, .slice sa1 sl1 sc1] W (fun e w' => e = .returned (.bool true) ∧ Below W.heap.size W w') := by
    rw [ey1]
    exact shareWhole_any a0 y1 l1 W hI1 hZ1 (by omega) (by omega)
  refine hcall.mono ?_
  rintro e W' ⟨rfl, bel⟩
  refine ⟨_, rfl, _, _, _, [], [] ++ (p1 ++ ([])), [], hW', ?_, ?_, ?_, bel.frame _, fun h => by cases h⟩
  · exact trodAll_mk1 (shut_bool Try.underlying4 _)
  · exact ⟨[], _, shut_int Try.underlying2 w0, ⟨p1, _, Below.trod laidOut (by kernel_rfl) (of_decide_eq_true (by kernel_rfl)) ⟨fu1, hf1⟩ bel hlt1, trodAll_mk0, rfl⟩, rfl⟩
  · rfl

theorem proved : Rows.ShareWholeUptoSaid :=
  OpenClaim.holds_of_cond 6 Try.f6 rfl rfl rfl rfl rfl rfl rfl ⟨rfl, rfl, rfl, rfl, rfl⟩ rfl rfl rfl rfl rfl (by kernel_rfl) Try.func6 (by kernel_rfl)
    (of_decide_eq_true (by kernel_rfl)) (by unfold Func.isWrapper; first | (rw [if_pos (by decide +kernel)]; kernel_rfl) | (rw [if_neg (by decide +kernel)]; exact ⟨rfl, rfl⟩))
    (fun os started H enc _ F => lifted os started H enc F)

end PWhole

theorem shareWholeUpto_holds : Rows.ShareWholeUptoSaid := PWhole.proved
end Go.Proofs.Ytbmaknjeflblcaa
