/- Has. -/
import Derived.Test.YtbifmikndpeafaaDoorC2
import Derived.Test.YtbifmikndpeafaaDoorB5
namespace Go.Proofs.YtbifmikndpeafaaDoor
open Go.RowKit Go.Maps
set_option linter.unusedVariables false
set_option linter.unusedSimpArgs false
def hsB (L : List Og) (sc au : ByteArray) : Bool := mnB sc au && L.any (ogD (mnO sc au))
theorem any_iff {L : List Og} {o : Og} : L.any (ogD o) = true ↔ o ∈ L := by
  rw [List.any_eq_true]
  exact ⟨fun ⟨x, h1, h2⟩ => by rw [ogD_iff.1 h2]; exact h1, fun h => ⟨o, h, ogD_self o⟩⟩
theorem mnO_ow (sc au : ByteArray) : ow (mnO sc au) := by
  unfold mnO
  split
  · rename_i h
    exact rt_ow h
  · exact og0_ow
theorem has_any' {L : List Og} (h : OgZ L) {o : Og} (ho : ow o) : has (mO L) (klO o) = L.any (ogD o) := by
  rw [Bool.eq_iff_iff, mO_has h ho, any_iff]
set_option maxHeartbeats 4000000 in
set_option maxRecDepth 100000 in
theorem has_any (lo p b : Nat) (L : List Og) (sc au : ByteArray) (w : World) (he : Env w) (hS : Se w lo p b L) (h2 : au.size ≤ 140737488355328) : Calls Tryd.prog 15 #[.pointer (some ⟨p, 0, none⟩), .string sc, .string au] w fun e w' => e = .returned (.bool (hsB L sc au)) ∧ Below w.heap.size w w' := by
  obtain ⟨n, hn⟩ : ∃ n, w.heap.size = n := ⟨_, rfl⟩
  have HN : Hid (w.heap.size = n) := hn
  have HS : Hid (Se w lo p b L) := hS
  obtain ⟨O, hO⟩ : ∃ O, mnO sc au = O := ⟨_, rfl⟩
  have HOW : Hid (ow O) := by rw [← hO]; exact mnO_ow sc au
  have HG : Hid (hsB L sc au = (mnB sc au && L.any (ogD O))) := by show _ = _; unfold hsB; rw [hO]
  rw [HG.out]
  have HM : Hid (Calls Tryd.prog 26 #[.string sc, .string au] w fun e w' => e = .returned (.tuple #[.agg #[.string O.s, .string O.h, .int .i64 O.p], .bool (mnB sc au)]) ∧ Below w.heap.size w w') := by
    have := meant_any sc au w he h2
    unfold mnV ogv at this
    rw [hO] at this
    exact this
  generalize mnB sc au = G at HM ⊢
  obtain ⟨F, hF⟩ : ∃ F, L.any (ogD O) = F := ⟨_, rfl⟩
  have HF : Hid (L.any (ogD O) = F) := hF
  rw [hF]
  clear hO he hS HG hF
  cases G <;> cases F
  all_goals
    go_enter Tryd.func15, Tryd.ntmps15
    go_wp2_with fail
    go_at_call 26
    refine HM.out.mono ?_
    rintro e W1 ⟨rfl, b1⟩
    obtain ⟨m, hm⟩ : ∃ m, W1.heap.size = m := ⟨_, rfl⟩
    obtain ⟨V, hV⟩ : ∃ V, W1.alloc (.cells #[.string O.s, .string O.h, .int .i64 O.p] 23) = V := ⟨_, rfl⟩
    have BV : Hid (Below W1.heap.size W1 V) := by rw [← hV]; exact bel1 _ _
    have OV : Hid (OB V m O) := by show OB _ _ _; rw [← hV, ← hm]; unfold OB; rw [heap_al, if_pos rfl]; rfl
    have SV' : Hid (Se V lo p b L) := (HS.out.below b1).below BV.out
    have BW : Hid (∀ k, Below n w (V.drewN k)) := fun k => below_drewN (by rw [← HN.out]; exact b1.trans (BV.out.mono b1.size)) k
    have BW1 : Hid (Below n w V.drew) := (by rw [← HN.out]; exact b1.trans (BV.out.mono b1.size) : Below n w V).drew
    clear b1
    obtain ⟨d0, d1, d2, _, _, _⟩ := OV.out.cells
    have dp : V.cell? ⟨p, 0, none⟩ = some (.map (some b)) := cell_blk SV'.out.hp 0
    have hlk : ∀ k, ∃ v, (Instr.lookup 60 (.map (some b)) (.agg #[.string O.s, .string O.h, .int .i64 O.p]) true).run Tryd.prog (V.drewN k) = .ok (.tuple #[v, .bool (L.any (ogD O))]) (V.drewN k) := fun k => by
      have h3 : Se (V.drewN k) lo p b L := SV'.out.below (below_drewN (Below.refl _ _) k)
      have := h3.look O HOW.out
      rw [has_any' h3.oz HOW.out] at this
      exact this
    obtain ⟨v, hlk1⟩ := hlk 1
    rw [HF.out] at hlk1
    have hlk2 : (Instr.lookup 60 (.map (some b)) (.agg #[.string O.s, .string O.h, .int .i64 O.p]) true).run Tryd.prog V.drew = .ok (.tuple #[v, .bool _]) V.drew := hlk1
    clear hlk hlk1
    go_wp2_with fail
    clear hV
    go_region
    go_wp2_with fail
    go_ret
    exact ⟨rfl, by rw [HN.out]; exact BW1.out⟩
end Go.Proofs.YtbifmikndpeafaaDoor
