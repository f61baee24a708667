/- Resize. -/
import Derived.Test.YtlfbnhdcgldopaaA6
namespace Go.Proofs.Ytlfbnhdcgldopaa
open Go.RowKit

theorem Kept.setCell {S : Nat → Prop} {w : World} {b : Nat} (o : Nat) (u : Value) (hb : S b) : Kept S w (w.setCell ⟨b, o, none⟩ u) :=
  ⟨rfl, rfl, rfl, by simp [World.setCell], fun j _ hs => setCell_other _ _ _ _ _ fun e => hs (by rw [e]; exact hb)⟩

/-- What a call that changes the table in block b leaves: the new table, its row old or new, all else as it was. -/
def Changed (w w' : World) (b mx : Nat) (es : List E) (v : Value) : Prop :=
  ∃ v', Tab w' b mx es v' ∧ Kept (fun j => j = b ∨ some j = v.ownBlock) w w' ∧ ∀ k, v'.ownBlock = some k → v.ownBlock = some k ∨ w.heap.size ≤ k

set_option maxRecDepth 100000 in
set_option maxHeartbeats 1000000 in
theorem resize_good (w : World) (b mx : Nat) (es : List E) (v : Value) (h : Tab w b mx es v) (m : Nat) (hm : m ≤ 65536) :
    Calls Try.prog 17 #[.pointer (some ⟨b, 0, none⟩), .int .i64 (m : Int)] w fun e w' => e = .returned (.int .i64 0) ∧ Changed w w' b m (keep m es) v := by
  have hd : decide (0 ≤ (m : Int) ∧ (m : Int) ≤ 65536) = true := by simp; omega
  obtain ⟨c0, c1, c2, _, _, f0⟩ := h.cells
  have h1 : Tab (w.setCell ⟨b, 0, none⟩ (.int .i64 (m : Int))) b m es v := by
    refine ⟨hm, h.2.1, ?_, ?_⟩
    · rw [setCell_block _ _ _ _ _ _ _ h.2.2.1]; rfl
    · exact row_stays h.2.2.2 fun j hj _ => setCell_other _ _ _ _ _ (h.row_ne j hj)
  have hsh : Hid (Calls Try.prog 28 #[.pointer (some ⟨b, 0, none⟩), .int .i64 (m : Int)] (w.setCell ⟨b, 0, none⟩ (.int .i64 (m : Int))) fun e w' => e = .returned (.tuple #[]) ∧ Hid (Changed w w' b m (keep m es) v)) := by
    refine (shrink_any _ b m es v h1 (m : Int)).mono ?_
    rintro e w' ⟨rfl, v', ht, hb, hk⟩
    refine ⟨rfl, v', ?_, ?_, fun k hk => .inl (hb ▸ hk)⟩
    · have : keepI (m : Int) es = keep m es := by unfold keepI; rw [if_neg (by omega)]; simp
      rw [← this]; exact ht
    · exact (Kept.setCell _ _ (.inl rfl)).trans hk
  clear h h1
  go_enter Try.func17, Try.ntmps17
  go_wp2_with (first | (go_at_call 26; refine (isMax_any _ _).mono ?_; rintro e w' ⟨rfl, rfl⟩; rw [hd]) | (go_at_call 28; refine hsh.out.mono ?_; rintro e w' ⟨rfl, hc⟩))
  go_ret
  exact ⟨rfl, hc.out⟩

set_option maxHeartbeats 400000 in
theorem resize_bad (w : World) (b : Nat) (a : Int) (h : ¬ (0 ≤ a ∧ a ≤ 65536)) :
    Calls Try.prog 17 #[.pointer (some ⟨b, 0, none⟩), .int .i64 a] w fun e w' => e = .returned (.int .i64 1) ∧ w' = w := by
  have hd : decide (0 ≤ a ∧ a ≤ 65536) = false := by simpa using h
  clear h
  go_enter Try.func17, Try.ntmps17
  go_wp2_with (go_at_call 26; refine (isMax_any _ _).mono ?_; rintro e w' ⟨rfl, rfl⟩; rw [hd])
  go_ret
  exact ⟨rfl, rfl⟩

end Go.Proofs.Ytlfbnhdcgldopaa
