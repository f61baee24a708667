/- VaryMatches: whether what was lent was kept. -/
import Derived.Test.YtckdldbheejmhaaDoorF1
namespace Go.Proofs.YtckdldbheejmhaaDoor
open Go.RowKit
set_option linter.unusedVariables false
set_option linter.unusedSimpArgs false
set_option maxHeartbeats 4000000 in
set_option maxRecDepth 100000 in
theorem kept_any (g c : Nat) (t : SV) (L : List Fd) (w : World) (hI : In EFd w (.slice (some ⟨g, 0, none⟩) (L.length + 1) c) (L ++ [mkF])) (hJ : In EFd w (sv t) L) (hlc : L.length + 1 ≤ c) (hc : c ≤ 9223372036854775807) :
    Calls Tryd.prog 16 #[.slice (some ⟨g, 0, none⟩) L.length c, sv t] w fun e w' => e = .returned (.bool true) ∧ Below w.heap.size w w' := by
  have HI : Hid (In EFd w (.slice (some ⟨g, 0, none⟩) (L.length + 1) c) (L ++ [mkF])) := hI
  have HJ : Hid (In EFd w (sv t) L) := hJ
  obtain ⟨tb, tl, tc⟩ := t
  simp only [sv] at HJ ⊢
  obtain ⟨f1, f2, f3⟩ := slice_len HJ.out
  have E1 : Hid (tl = L.length) := f1
  have htc : tl ≤ tc := by omega
  have hlc' : tl + 1 ≤ c := by omega
  rw [← f1]
  clear hI hJ f1 f2 f3 hlc
  go_enter Tryd.func16, Tryd.ntmps16
  go_wp2_with fail
  go_loopw [5] (fun iv wr => ∃ k : Nat, iv = .int .i64 (k : Int) ∧ k ≤ tl ∧ Hid (Below w.heap.size w wr)) (fun iv _ => tl - (intOf iv).toNat)
  case atStart => exact ⟨0, rfl, by omega, Below.refl _ _⟩
  case round =>
    obtain ⟨k, rfl, hk, hb⟩ := hrel
    by_cases hlt : k < tl
    · have ka : k < L.length := by have := E1.out; omega
      obtain ⟨B1, o1, c1, e, c0⟩ := HI.out.fd k (by simp; omega)
      injection e with e1 e2 e3
      injection e1 with e1
      injection e1 with e1 e4
      subst e1 e4
      clear e2 e3
      obtain ⟨B2, o2, c2, e, d0⟩ := HJ.out.fd k ka
      injection e with e1 e2 e3
      subst e1
      clear e2 e3
      obtain ⟨x0, x1, x2⟩ := c0 wr hb.out
      obtain ⟨y0, y1, y2⟩ := d0 wr hb.out
      have hlt' : (k : Int) < (tl : Int) := by omega
      obtain ⟨⟨fn, fv, fnv⟩, hx⟩ : ∃ x, L[k] = x := ⟨_, rfl⟩
      rw [List.getElem_append_left ka, hx] at x0 x1 x2
      rw [hx] at y0 y1 y2
      simp only at x0 x1 x2 y0 y1 y2
      rw [Nat.zero_add] at x0 x1 x2
      have q1 := str_eq (rfl : fn = fn)
      have q2 := str_eq (rfl : fv = fv)
      clear c0 d0 hx ka
      go_wp2_with fail
      go_quiet (fail)
      go_wp2_with fail
      go_roundw
      case rel => exact ⟨k + 1, by simp, by omega, below_drewN hb.out _⟩
      case measure => simp [intOf]; omega
    · obtain rfl : k = tl := by omega
      have hlt' : ¬ (k : Int) < (k : Int) := by omega
      obtain ⟨B1, o1, c1, e, c0⟩ := HI.out.fd k (by simp; have := E1.out; omega)
      injection e with e1 e2 e3
      injection e1 with e1
      injection e1 with e1 e4
      subst e1 e4
      clear e2 e3
      obtain ⟨x0, x1, x2⟩ := c0 wr hb.out
      have hx : Hid (∀ h, (L ++ [mkF])[k]'h = mkF) := fun h => by
        have := E1.out
        rw [List.getElem_append_right (by omega)]
        simp
      rw [hx.out, Nat.zero_add] at x0 x1 x2
      simp only [mkF] at x0 x1 x2
      have i1 : (k : Int) + 1 ≤ (c : Int) := by omega
      have i2 : (k : Int) < (k : Int) + 1 := by omega
      clear c0 hx
      go_wp2_with fail
      go_ret
      exact ⟨by first | rfl | simp, hb.out⟩
end Go.Proofs.YtckdldbheejmhaaDoor
