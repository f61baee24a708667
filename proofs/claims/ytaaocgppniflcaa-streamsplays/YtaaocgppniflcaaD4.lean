/- The document's Next, Count. -/
import Derived.Test.YtaaocgppniflcaaD3
namespace Go.Proofs.Ytaaocgppniflcaa
open Go.RowKit Go.Maps
set_option linter.unusedVariables false
set_option linter.unusedSimpArgs false

def rcount (c : Bool) (l : List O1) (b : Bool) : Nat := (l.filter fun x => (rours c x.1 == b) && ct x.2.1).length
set_option maxRecDepth 100000 in
set_option maxHeartbeats 2000000 in
theorem rcount_any (w : World) (p : Nat) (c : Bool) (v : Value) (l : List O1) (b : Bool) (h : RT w p c v l) : Calls Try.prog 25 #[.pointer (some ⟨p, 0, none⟩), .bool b] w fun e w' => e = .returned (.int .i64 (rcount c l b)) ∧ w' = w := by
  obtain ⟨c0, c1, hp⟩ := h.cells
  have HR : Hid (R E1 w v l) := h.row
  have HO : Hid (∀ id, Calls Try.prog 43 #[.pointer (some ⟨p, 0, none⟩), .int .i64 id] w fun e w' => e = .returned (.bool (rours c id)) ∧ w' = w) := fun id => rours_any w p c v l id h
  obtain ⟨vb, vc, rfl, hv1, hv2⟩ := h.row.slice
  clear h
  obtain ⟨n, hn⟩ : ∃ n, l.length = n := ⟨_, rfl⟩
  have HN : Hid (l.length = n) := hn
  rw [hn] at HR hv1 c1
  clear hn
  obtain ⟨f, hf⟩ : ∃ f : O1 → Bool, f = fun x => (rours c x.1 == b) && ct x.2.1 := ⟨_, rfl⟩
  have HF : Hid (∀ x, f x = ((rours c x.1 == b) && ct x.2.1)) := fun x => by rw [hf]
  obtain ⟨r, hr⟩ : ∃ r, rcount c l b = r := ⟨_, rfl⟩
  have HRR : Hid ((l.filter f).length = r) := by rw [hf]; exact hr
  rw [hr]
  clear hr hf
  go_enter Try.func25, Try.ntmps25
  go_wp2
  go_loopw [5, 6] (fun a x wr => ∃ (k : Nat), k ≤ n ∧ x = .int .i64 (k : Int) ∧ a = .int .i64 (((l.take k).filter f).length : Int) ∧ wr = w) (fun _ x _ => n - (intOf x).toNat)
  case atStart => exact ⟨0, by omega, rfl, rfl, rfl⟩
  case round =>
    obtain ⟨k, hk, hi, ha, hw⟩ := hrel
    subst hi ha hw
    by_cases hlt : k < n
    · have hl := HN.out
      obtain ⟨B, off, cap, e, hBl, d0, d1, d2⟩ := HR.out.isIn.one k (by omega)
      injection e with e1 e2 e3
      subst e1
      clear e2 e3
      have hst : ((l.take (k + 1)).filter f).length = ((l.take k).filter f).length + if f (l[k]'(by omega)) = true then 1 else 0 := by
        rw [List.take_succ_eq_append_getElem (by omega), List.filter_append, List.length_append]
        congr 1
        simp only [List.filter_cons, List.filter_nil]
        split <;> rfl
      have hle : ((l.take k).filter f).length ≤ k := Nat.le_trans (List.length_filter_le _ _) (by rw [List.length_take]; omega)
      have hfx := HF.out (l[k]'(by omega))
      obtain ⟨⟨y, s, cu⟩, hy⟩ : ∃ y, l[k]'(by omega) = y := ⟨_, rfl⟩
      rw [hy] at d0 d1 hst hfx
      rw [hfx] at hst
      simp only at d0 d1 hst
      have HST : Hid _ := hst
      clear hy hl d2 hst hfx
      generalize ((l.take k).filter f).length = m at HST hle
      cases e1 : (rours c y == b)
      · go_wp2_with fail
        refine (HO.out y).mono ?_
        rintro e w1 ⟨rfl, hw1⟩
        subst hw1
        go_wp2_with fail
        go_roundw
        case rel => exact ⟨k + 1, by omega, by simp, by rw [HST.out, e1]; rfl, by first | rfl | trivial⟩
        case measure => simp [intOf]; omega
      · cases e2 : ct s
        · go_wp2_with fail
          refine (HO.out y).mono ?_
          rintro e w1 ⟨rfl, hw1⟩
          subst hw1
          go_wp2_with fail
          refine (rcounts_any s _).mono ?_
          rintro e w1 ⟨rfl, hw1⟩
          subst hw1
          rw [e2]
          go_wp2_with fail
          go_roundw
          case rel => exact ⟨k + 1, by omega, by simp, by rw [HST.out, e1, e2]; rfl, by first | rfl | trivial⟩
          case measure => simp [intOf]; omega
        · go_wp2_with fail
          refine (HO.out y).mono ?_
          rintro e w1 ⟨rfl, hw1⟩
          subst hw1
          go_wp2_with fail
          refine (rcounts_any s _).mono ?_
          rintro e w1 ⟨rfl, hw1⟩
          subst hw1
          rw [e2]
          go_wp2_with fail
          go_roundw
          case rel => exact ⟨k + 1, by omega, by simp, by rw [HST.out, e1, e2]; simp, by first | rfl | trivial⟩
          case measure => simp [intOf]; omega
    · obtain rfl : k = n := by omega
      have hr : ((l.take k).filter f).length = r := by
        rw [← HRR.out, List.take_of_length_le (by rw [HN.out]; exact Nat.le_refl _)]
      rw [hr]
      go_wp2
      go_ret
      exact ⟨rfl, rfl⟩
end Go.Proofs.Ytaaocgppniflcaa
