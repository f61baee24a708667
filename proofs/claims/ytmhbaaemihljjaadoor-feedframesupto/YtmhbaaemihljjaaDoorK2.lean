/- first: as much of the bytes that wait as Read goes by. -/
import Derived.Test.YtmhbaaemihljjaaDoorK1
import Derived.Test.YtmhbaaemihljjaaDoorA5
namespace Go.Proofs.YtmhbaaemihljjaaDoor
open Go.RowKit
set_option linter.unusedVariables false
set_option linter.unusedSimpArgs false

def n3 (W : List UInt8) : Nat := numL (W.take 3)
def firstL (W : List UInt8) : List UInt8 := if W.length < 9 then W else if W.length < 9 + n3 W then W.take 9 else W.take (9 + n3 W)

theorem n3_eq (W : List UInt8) (h : 9 ≤ W.length) : n3 W = W[0].toNat * 65536 + W[1].toNat * 256 + W[2].toNat := by
  obtain ⟨a, b, c, r, rfl⟩ : ∃ a b c r, W = a :: b :: c :: r := by
    match W, h with
    | a :: b :: c :: r, _ => exact ⟨a, b, c, r, rfl⟩
  simp [n3, numL]
  omega

theorem WRow.at {w : World} {r off n cap : Nat} {W : List UInt8} (h : WRow w (.slice (some ⟨r, off, none⟩) n cap) W) (k : Nat) (hk : k ≤ W.length) :
    (convert 34 9 (.slice (some ⟨r, off, none⟩) k cap)).run Tryd.prog w = .ok (.string ⟨(W.take k).toArray⟩) w := by
  rcases h with ⟨h, _⟩ | ⟨g, off', cap', cur, e, hg, h1, h2, h3⟩
  · cases h
  · cases e
    have hlk : (W.take k).length = k := by rw [List.length_take]; omega
    have := run_convert_bytes_back (P := Tryd.prog) w 34 9 5 ⟨r, off, none⟩ cap (W.take k) Tryd.underlying34 Tryd.underlying5 Tryd.underlying9 (fun j hj => by
        have haj : (⟨r, off, none⟩ : Addr).add j = ⟨r, off + j, none⟩ := by unfold Addr.add; split <;> simp_all
        rw [haj, cell_of_row _ _ _ _ _ _ hg, bs_cell h3 j (by omega)]
        simp)
    rw [hlk] at this
    exact this

set_option maxRecDepth 100000 in
set_option maxHeartbeats 2000000 in
theorem first_any (w : World) (g : Nat) (v : Value) (S : St) (h : Fd w g v S) :
    Calls Tryd.prog 36 #[.pointer (some ⟨g, 0, none⟩)] w fun e w' => e = .returned (.string ⟨(firstL S.wait).toArray⟩) ∧ (w' = w ∨ w' = w.drew) := by
  obtain ⟨c0, c1, c2, c3, c4⟩ := h.cells
  obtain ⟨W, hW⟩ : ∃ W, W = S.wait := ⟨_, rfl⟩
  have hrow := h.row
  rw [← hW] at hrow ⊢
  clear hW
  by_cases h9 : W.length < 9
  · have hq : Hid (firstL W = W) := by show _ = _; unfold firstL; rw [if_pos h9]
    have h9' : (W.length : Int) < 9 := by omega
    obtain ⟨b, c, rfl⟩ := hrow.slice
    have hcv := hrow.whole
    clear h hrow h9
    go_enter Tryd.func36, Tryd.ntmps36
    go_wp2
    go_ret
    exact ⟨by rw [hq.out]; rfl, .inl rfl⟩
  · rcases hrow with ⟨_, rfl⟩ | ⟨r, off, cap, cur, rfl, hg, h1, h2, h3⟩
    · simp at h9
    have hrow : WRow w (.slice (some ⟨r, off, none⟩) W.length cap) W := .inr ⟨r, off, cap, cur, rfl, hg, h1, h2, h3⟩
    have h9' : ¬ (W.length : Int) < 9 := by omega
    have e0 := hrow.cells 0 (by omega)
    have e1 := hrow.cells 1 (by omega)
    have e2 := hrow.cells 2 (by omega)
    have hn := n3_eq W (by omega)
    have b0 := W[0].toNat_lt
    have b1 := W[1].toNat_lt
    have b2 := W[2].toNat_lt
    obtain ⟨x0, hx0⟩ : ∃ x, x = W[0].toNat := ⟨_, rfl⟩
    obtain ⟨x1, hx1⟩ : ∃ x, x = W[1].toNat := ⟨_, rfl⟩
    obtain ⟨x2, hx2⟩ : ∃ x, x = W[2].toNat := ⟨_, rfl⟩
    rw [← hx0] at e0 b0 hn
    rw [← hx1] at e1 b1 hn
    rw [← hx2] at e2 b2 hn
    obtain ⟨M, hM⟩ : ∃ M, M = 9 + n3 W := ⟨_, rfl⟩
    have hM' : (9 : Int) + (x0 : Int) * 65536 + (x1 : Int) * 256 + (x2 : Int) = (M : Int) := by omega
    have hcap : ¬ cap = 0 := by omega
    simp only [Nat.add_zero] at e0
    clear hx0 hx1 hx2 hg h2 h3 h
    by_cases hl : W.length < M
    · have hq : Hid (firstL W = W.take 9) := by show _ = _; unfold firstL; rw [if_neg h9, ← hM, if_pos hl]
      have hl' : (W.length : Int) < (M : Int) := by omega
      have hcv := (WRow.same (w' := w.drew) hrow (fun _ _ => rfl)).at 9 (by omega)
      clear hrow hn h9 hM hl
      go_enter Tryd.func36, Tryd.ntmps36
      go_wp2_with fail
      go_region
      all_goals
        go_wp2
        go_ret
        exact ⟨by rw [hq.out]; rfl, .inr rfl⟩
    · have hq : Hid (firstL W = W.take M) := by show _ = _; unfold firstL; rw [if_neg h9, ← hM, if_neg hl]
      have hl' : ¬ (W.length : Int) < (M : Int) := by omega
      have hMc : (M : Int) ≤ (cap : Int) := by omega
      have hcv := (WRow.same (w' := w.drew) hrow (fun _ _ => rfl)).at M (by omega)
      clear hrow hn h9 hM hl
      go_enter Tryd.func36, Tryd.ntmps36
      go_wp2_with fail
      go_region
      all_goals
        go_wp2
        go_ret
        exact ⟨by rw [hq.out]; rfl, .inr rfl⟩
end Go.Proofs.YtmhbaaemihljjaaDoor
