/- passPreface. -/
import Derived.Test.YtmhbaaemihljjaaDoorK2
namespace Go.Proofs.YtmhbaaemihljjaaDoor
open Go.RowKit
set_option linter.unusedVariables false
set_option linter.unusedSimpArgs false

/-- of the preface so many bytes are looked at -/
def nS (S : St) : Nat := min S.wait.length S.pre.size
def okS (S : St) : Bool := S.wait.take (nS S) == (S.pre.extract 0 (nS S)).toList
/-- what passPreface tells, and leaves -/
def passS (S : St) : Bool × St :=
  if okS S = false then (false, { S with code := 1 })
  else if nS S < S.pre.size then (false, S)
  else (true, { S with wait := S.wait.drop (nS S), pre := ⟨#[]⟩ })

theorem WRow.any {w : World} {b : Option Addr} {n cap : Nat} {W : List UInt8} (h : WRow w (.slice b n cap) W) (k : Nat) (hk : k ≤ W.length) :
    (convert 34 9 (.slice b k cap)).run Tryd.prog w = .ok (.string ⟨(W.take k).toArray⟩) w := by
  rcases h with ⟨h, rfl⟩ | ⟨g, off', cap', cur, e, hg, h1, h2, h3⟩
  · cases h
    obtain rfl : k = 0 := by simpa using hk
    exact run_convert_bytes_nil w 34 5 Tryd.underlying34 Tryd.underlying5 _ _ 9 Tryd.underlying9
  · cases e
    exact WRow.at (.inr ⟨g, off', cap, cur, rfl, hg, h1, h2, h3⟩) k hk
theorem WRow.cap {w : World} {b : Option Addr} {n cap : Nat} {W : List UInt8} (h : WRow w (.slice b n cap) W) : W.length ≤ cap := by
  rcases h with ⟨h, rfl⟩ | ⟨g, off', cap', cur, e, hg, h1, h2, h3⟩
  · simp
  · cases e
    exact h1

set_option maxRecDepth 100000 in
set_option maxHeartbeats 2000000 in
theorem pass_any (w : World) (g : Nat) (v : Value) (S : St) (h : Fd w g v S) :
    Calls Tryd.prog 28 #[.pointer (some ⟨g, 0, none⟩)] w fun e w' => e = .returned (.bool (passS S).1) ∧ ∃ v', Fd w' g v' (passS S).2 ∧ Kp g w w' ∧ (∀ k, v'.ownBlock = some k → v.ownBlock = some k) := by
  obtain ⟨c0, c1, c2, c3, c4⟩ := h.cells
  obtain ⟨f0, f1, f2, f3, f4⟩ : w.frozen? ⟨g, 0, none⟩ = false ∧ w.frozen? ⟨g, 1, none⟩ = false ∧ w.frozen? ⟨g, 2, none⟩ = false ∧ w.frozen? ⟨g, 3, none⟩ = false ∧ w.frozen? ⟨g, 4, none⟩ = false := ⟨h.frozen 0, h.frozen 1, h.frozen 2, h.frozen 3, h.frozen 4⟩
  have hrow := h.row
  obtain ⟨n, hn⟩ : ∃ n, n = nS S := ⟨_, rfl⟩
  obtain ⟨b, c, rfl⟩ := hrow.slice
  have hmin : min (S.wait.length : Int) (S.pre.size : Int) = (n : Int) := by rw [hn]; unfold nS; omega
  have hn1 : n ≤ S.wait.length := by rw [hn]; unfold nS; omega
  have hn2 : n ≤ S.pre.size := by rw [hn]; unfold nS; omega
  have hcv := (WRow.same (w' := w.drew.drew) hrow (fun _ _ => rfl)).any n hn1
  have hcap := hrow.cap
  have hnc : (n : Int) ≤ (c : Int) := by omega
  have HN : Hid _ := hn
  by_cases hok : okS S = false
  · have hq : Hid (passS S = (false, { S with code := 1 })) := by show _ = _; unfold passS; rw [if_pos hok]
    unfold okS at hok
    rw [← hn] at hok
    have hfin : Hid (∀ w2 : World, w2.heap = ((w.setCell ⟨g, 3, none⟩ (.int .i64 1)).setCell ⟨g, 4, none⟩ (.int .i64 0)).heap → w2.os = w.os → w2.tape = w.tape → w2.output = w.output → Fd w2 g (.slice b S.wait.length c) { S with code := 1 } ∧ Kp g w w2) := fun w2 e1 e2 e3 e4 => by
      refine ⟨⟨?_, hrow.same fun k hk => ?_, h.ne⟩, e2, e3, e4, by rw [e1]; simp [World.setCell], fun k _ hk => ?_⟩
      · rw [e1, setCell_block _ _ _ _ _ _ _ (setCell_block _ _ _ _ _ _ _ h.blk)]; rfl
      · have hkg : k ≠ g := by rintro rfl; exact h.ne hk
        rw [e1, setCell_other _ _ _ _ _ hkg, setCell_other _ _ _ _ _ hkg]
      · rw [e1, setCell_other _ _ _ _ _ hk, setCell_other _ _ _ _ _ hk]
    clear hn hrow hcap h
    go_enter Tryd.func28, Tryd.ntmps28
    go_wp2_with fail
    go_region
    all_goals
      go_wp2_with fail
      go_region
      all_goals
        go_wp2
        go_ret
        exact ⟨by rw [hq.out]; rfl, _, by rw [hq.out]; refine (hfin.out _ ?_ ?_ ?_ ?_).1 <;> rfl, by refine (hfin.out _ ?_ ?_ ?_ ?_).2 <;> rfl, fun k hk => hk⟩
  · have hokt : okS S = true := by simpa using hok
    by_cases hlt : n < S.pre.size
    · have hq : Hid (passS S = (false, S)) := by show _ = _; unfold passS; rw [if_neg hok, ← hn, if_pos hlt]
      unfold okS at hokt
      rw [← hn] at hokt
      have HF : Hid (Fd w.drew.drew g (.slice b S.wait.length c) S) := h.same rfl fun _ _ => rfl
      clear hn hrow hcap h hok
      go_enter Tryd.func28, Tryd.ntmps28
      go_wp2_with fail
      go_region
      all_goals
        go_wp2_with fail
        go_region
        all_goals
          go_wp2
          go_ret
          exact ⟨by rw [hq.out]; rfl, _, by rw [hq.out]; exact HF.out, ⟨rfl, rfl, rfl, Nat.le_refl _, fun _ _ _ => rfl⟩, fun k hk => hk⟩
    · have hq : Hid (passS S = (true, { S with wait := S.wait.drop n, pre := ⟨#[]⟩ })) := by show _ = _; unfold passS; rw [if_neg hok, ← hn, if_neg hlt]
      unfold okS at hokt
      rw [← hn] at hokt
      have hdr := hrow.drop n hn1
      obtain ⟨B1, L1, C1, hvv⟩ : ∃ B1 L1 C1, sliced b n S.wait.length c 1 = .slice B1 L1 C1 := ⟨_, _, _, rfl⟩
      have hsl : ∀ W : World, (Instr.slice 34 (.slice b S.wait.length c) (some (.int .i64 (n : Int))) none none).run Tryd.prog W = .ok (.slice B1 L1 C1) W := fun W => by
        obtain ⟨i0, hi0, hz0, hz1, hz2⟩ := info_parts info5
        rw [run_slice_l (P := Tryd.prog) W 34 b S.wait.length c Tryd.underlying34 .i64 (n : Int) (by omega) (by omega), ← hvv]
        show ((sizeOf 5).run Tryd.prog W).andThen _ = _
        simp [sizeOf, typeInfo, hi0, hz1]
      rw [hvv] at hdr
      have hfin : Hid (∀ w2 : World, w2.heap = ((w.setCell ⟨g, 1, none⟩ (.slice B1 L1 C1)).setCell ⟨g, 0, none⟩ (.string ⟨#[]⟩)).heap → w2.os = w.os → w2.tape = w.tape → w2.output = w.output → Fd w2 g (.slice B1 L1 C1) { S with wait := S.wait.drop n, pre := ⟨#[]⟩ } ∧ Kp g w w2) := fun w2 e1 e2 e3 e4 => by
        have hne : (Value.slice B1 L1 C1).ownBlock ≠ some g := fun e => h.ne (hdr.2 g e)
        refine ⟨⟨?_, hdr.1.same fun k hk => ?_, hne⟩, e2, e3, e4, by rw [e1]; simp [World.setCell], fun k _ hk => ?_⟩
        · rw [e1, setCell_block _ _ _ _ _ _ _ (setCell_block _ _ _ _ _ _ _ h.blk)]; rfl
        · have hkg : k ≠ g := by rintro rfl; exact hne hk
          rw [e1, setCell_other _ _ _ _ _ hkg, setCell_other _ _ _ _ _ hkg]
        · rw [e1, setCell_other _ _ _ _ _ hk, setCell_other _ _ _ _ _ hk]
      have hown : Hid _ := hdr.2
      clear hn hrow hcap h hok hdr hvv
      go_enter Tryd.func28, Tryd.ntmps28
      go_wp2_with fail
      go_region
      all_goals
        go_wp2_with fail
        go_region
        all_goals
          go_wp2_with fail
          go_ret
          exact ⟨by rw [hq.out]; rfl, _, by rw [hq.out]; refine (hfin.out _ ?_ ?_ ?_ ?_).1 <;> rfl, by refine (hfin.out _ ?_ ?_ ?_ ?_).2 <;> rfl, hown.out⟩
end Go.Proofs.YtmhbaaemihljjaaDoor
