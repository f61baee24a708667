/- Several texts in one. -/
import Derived.Test.YtcadlpmopplkeaaDoorD9
/- site: Has. -/
namespace Go.Proofs.YtcadlpmopplkeaaDoor
open Go.RowKit Go.Maps
open Go.Shelf
set_option linter.unusedVariables false
set_option linter.unusedSimpArgs false

set_option maxHeartbeats 8000000 in
set_option maxRecDepth 100000 in
theorem has_any (lo g b N : Nat) (nv v : Int) (L : List Te) (t : Tg) (w : World) (hS : Si w lo g b N nv L) (ht : tz t) (hz : (edL L t).length ≤ 140737488355328) :
    Calls Tryd.prog 16 #[.pointer (some ⟨g, 0, none⟩), .int .i64 v, .string t.1, .string t.2] w fun e w' => (∃ r, Pl (edL L t) v r ∧ e = .returned (.bool (decide (0 < r) && ivB nv v))) ∧ Below w.heap.size w w' := by
  obtain ⟨ta, tp⟩ := t
  have hA : Hid (Calls Tryd.prog 37 #[.pointer (some ⟨g, 0, none⟩), .int .i64 v, .agg #[.string ta, .string tp]] w fun e w' => AtR (edL L (ta, tp)) v e ∧ Below w.heap.size w w') := at_any lo g b N nv v L (ta, tp) w hS ht hz
  have hV : Hid (∀ W, Below w.heap.size w W → Calls Tryd.prog 36 #[.pointer (some ⟨g, 0, none⟩), .int .i64 v] W fun e w' => e = .returned (.bool (ivB nv v)) ∧ w' = W) := fun W hW => isVersion_any lo g b N nv v L W (hS.below hW)
  clear hS ht hz
  go_enter Tryd.func16, Tryd.ntmps16
  go_wp2_with fail
  go_at_call 37
  refine hA.out.mono ?_
  rintro e w1 ⟨⟨r, hPl, he⟩, hb1⟩
  have HPl : Hid (Pl (edL L (ta, tp)) v r) := hPl
  clear hA hPl
  rcases he with ⟨rfl, rfl⟩ | ⟨k, hk, rfl, rfl⟩
  · have HB : Hid (Below w.heap.size w (w1.alloc (.cells #[.int .i64 0, .int .i64 0, .string ⟨#[]⟩, .slice none 0 0] 83))) := hb1.trans ((bel1 _ _).mono hb1.size)
    clear hb1 hV
    go_wp2_with fail
    refine bodyPost_ret (results_tmp rfl _ _ _) rfl ?_
    exact ⟨⟨0, HPl.out, rfl⟩, HB.out⟩
  · obtain ⟨⟨ys, yn, yv, ⟨ya, yd, ye⟩, yl⟩, hy⟩ : ∃ y, (edL L (ta, tp))[k] = y := ⟨_, rfl⟩
    rw [hy]
    unfold edv
    simp only [sv]
    have HB : Hid (Below w.heap.size w (w1.alloc (.cells #[.int .i64 ys, .int .i64 yn, .string yv, .slice ya yd ye] 83))) := hb1.trans ((bel1 _ _).mono hb1.size)
    obtain ⟨W2, hW2⟩ : ∃ W2, W2 = w1.alloc (.cells #[.int .i64 ys, .int .i64 yn, .string yv, .slice ya yd ye] 83) := ⟨_, rfl⟩
    have hC := hV.out _ HB.out
    have HC : Hid (Calls Tryd.prog 36 #[.pointer (some ⟨g, 0, none⟩), .int .i64 v] (w1.alloc (.cells #[.int .i64 ys, .int .i64 yn, .string yv, .slice ya yd ye] 83)) fun e w' => e = .returned (.bool (ivB nv v)) ∧ w' = (w1.alloc (.cells #[.int .i64 ys, .int .i64 yn, .string yv, .slice ya yd ye] 83))) := hC
    clear hb1 hy hk hC hV hW2
    go_wp2_with fail
    go_at_call 36
    refine HC.out.mono ?_
    rintro e w2 ⟨rfl, rfl⟩
    clear HC
    go_wp2_with fail
    refine bodyPost_ret (results_tmp rfl _ _ _) rfl ?_
    exact ⟨⟨k + 1, HPl.out, by simp⟩, HB.out⟩
end Go.Proofs.YtcadlpmopplkeaaDoor

/- site: a version more. -/
namespace Go.Proofs.YtcadlpmopplkeaaDoor
open Go.RowKit Go.Maps
open Go.Shelf
set_option linter.unusedVariables false
set_option linter.unusedSimpArgs false

theorem Sr.keeps {w w' : World} {lo : Nat} {L : List Te} (h : Sr w lo L) (hk : ∀ (k : Nat) (c : Array Value) (t : TypeId), w.heap[k]? = some (Obj.cells c t (0, 0)) → t ≠ 79 → w'.heap[k]? = w.heap[k]?) : Sr w' lo L :=
  ⟨fun r hr => ⟨(h.rows r hr).1.stays fun k hk' hl => by obtain ⟨c, hc⟩ := (h.rows r hr).1.ty k hk'; exact hk k c _ hc (by simp [EEd]), (h.rows r hr).2⟩, h.apart, fun r hr e he => ⟨(h.ch r hr e he).1.stays fun k hk' hl => by obtain ⟨c, hc⟩ := (h.ch r hr e he).1.ty k hk'; exact hk k c _ hc (by simp [ECh]), (h.ch r hr e he).2⟩, h.z⟩
/-- the newest version's number set anew -/
theorem Si.bump {w : World} {lo g b N : Nat} {nv : Int} {L : List Te} (h : Si w lo g b N nv L) (n' : Int) : Si (w.setCell ⟨g, 0, none⟩ (.int .i64 n')) lo g b N n' L ∧ Below lo w (w.setCell ⟨g, 0, none⟩ (.int .i64 n')) := by
  have hg' := setCell_block w g 0 (.int .i64 n') _ _ _ h.hg
  have ho : ∀ k : Nat, k ≠ g → (w.setCell ⟨g, 0, none⟩ (.int .i64 n')).heap[k]? = w.heap[k]? := fun k hk => by simp [World.setCell, Array.getElem?_modify, Ne.symm hk]
  obtain ⟨n, D, h1, ⟨es, clock, h2, h2'⟩, h3⟩ := h.own
  have hbg : b ≠ g := fun e => by have := h.hg; rw [← e, h2] at this; cases this
  refine ⟨⟨?_, ⟨n, D, h1, ⟨es, clock, (ho b hbg).trans h2, h2'⟩, h3⟩, h.sr.keeps fun k c t hk ht => ho k fun e => ?_, h.lg⟩, (Below.refl lo w).setCell (p := ⟨g, 0, none⟩) h.lg.1 _⟩
  · rw [hg']; rfl
  · rw [e, h.hg] at hk
    injection hk with hk
    injection hk with _ hk
    exact ht hk.symm
end Go.Proofs.YtcadlpmopplkeaaDoor

