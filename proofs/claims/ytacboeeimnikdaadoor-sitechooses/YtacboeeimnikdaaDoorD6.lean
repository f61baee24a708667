/- site: Version, isVersion; a target's editions found; at's closure. -/
import Derived.Test.YtacboeeimnikdaaDoorD5
namespace Go.Proofs.YtacboeeimnikdaaDoor
open Go.RowKit Go.Maps
open Go.Shelf
set_option linter.unusedVariables false
set_option linter.unusedSimpArgs false

/-- a target's editions are found -/
theorem Si.look {w : World} {lo g b N : Nat} {nv : Int} {L : List Te} (h : Si w lo g b N nv L) (t : Tg) (ht : tz t) : (Instr.lookup 77 (.map (some b)) (.agg (tgv t)) false).run Tryd.prog w = .ok (sv (edY L t)) w ∧ R EEd w (sv (edY L t)) (edL L t) := by
  obtain ⟨n, D, hn, ho, hM⟩ := h.own
  have hat := hM.at' t ht
  obtain ⟨v, ps, hrun, hv⟩ := ho.lookup KT (t := 77) (e := 108) Tryd.underlying77 (zero108 w) (zd := .held (.slice none 0 0)) (zp := []) rfl (key_of t ht)
  unfold edL edY
  cases hf : fdT L t with
  | none =>
    rw [hf] at hat
    rw [hat] at hv
    simp [hd] at hv
    exact ⟨by rw [hrun, hv.1]; rfl, R.nil _ _⟩
  | some r =>
    rw [hf] at hat
    rw [hat] at hv
    simp [hd] at hv
    exact ⟨by rw [hrun, hv.1], (h.sr.rows r (List.mem_of_find?_eq_some hf)).1⟩
/-- how many targets it has -/
theorem Si.len {w : World} {lo g b N : Nat} {nv : Int} {L : List Te} (h : Si w lo g b N nv L) : (Builtin.len_ #[77] 3 #[.map (some b)]).run Tryd.prog w = .ok (.int .i64 L.length) w := by
  obtain ⟨n, D, hn, ho, hM⟩ := h.own
  rw [← hM.size]
  exact ho.len Tryd.underlying77 3
set_option maxHeartbeats 4000000 in
theorem version_any (lo g b N : Nat) (nv : Int) (L : List Te) (w : World) (hS : Si w lo g b N nv L) :
    Calls Tryd.prog 15 #[.pointer (some ⟨g, 0, none⟩)] w fun e w' => e = .returned (.int .i64 nv) ∧ w' = w := by
  have c0 := cell_blk hS.hg 0
  simp at c0
  clear hS
  go_enter Tryd.func15, Tryd.ntmps15
  go_wp2_with fail
  refine bodyPost_ret (results_tmp rfl _ _ _) rfl ?_
  exact ⟨rfl, rfl⟩
/-- whether it is a version's number -/
def ivB (nv v : Int) : Bool := decide (1 ≤ v) && decide (v ≤ nv)
set_option maxHeartbeats 4000000 in
theorem isVersion_any (lo g b N : Nat) (nv v : Int) (L : List Te) (w : World) (hS : Si w lo g b N nv L) :
    Calls Tryd.prog 36 #[.pointer (some ⟨g, 0, none⟩), .int .i64 v] w fun e w' => e = .returned (.bool (ivB nv v)) ∧ w' = w := by
  have c0 := cell_blk hS.hg 0
  simp at c0
  clear hS
  unfold ivB
  by_cases h1 : 1 ≤ v
  · by_cases h2 : v ≤ nv
    · rw [decide_eq_true h1, decide_eq_true h2]
      go_enter Tryd.func36, Tryd.ntmps36
      go_wp2_with fail
      refine bodyPost_ret (results_tmp rfl _ _ _) rfl ?_
      exact ⟨rfl, rfl⟩
    · rw [decide_eq_true h1, decide_eq_false h2]
      go_enter Tryd.func36, Tryd.ntmps36
      go_wp2_with fail
      refine bodyPost_ret (results_tmp rfl _ _ _) rfl ?_
      exact ⟨rfl, rfl⟩
  · rw [decide_eq_false h1]
    go_enter Tryd.func36, Tryd.ntmps36
    go_wp2_with fail
    refine bodyPost_ret (results_tmp rfl _ _ _) rfl ?_
    exact ⟨rfl, rfl⟩
end Go.Proofs.YtacboeeimnikdaaDoor
