/- over. -/
import Derived.Test.YtfponcdhaefkdaaDoorD2
namespace Go.Proofs.YtfponcdhaefkdaaDoor
open Go.RowKit
set_option linter.unusedVariables false
set_option linter.unusedSimpArgs false
theorem R.setw {α : Type} {E : El α} (ok : E.Ok) {w : World} {g n c : Nat} {l : List α} {j i : Nat} {y : α} (h : R E w (.slice (some ⟨g, 0, none⟩) n c) (l.set j y)) (hj : j < l.length) (hi : i < E.sz) (u : Value) (x : α) (hx : E.enc x = (E.enc y).set i u) :
    R E (w.setCell ⟨g, j * E.sz + i, none⟩ u) (.slice (some ⟨g, 0, none⟩) n c) (l.set j x) := by
  obtain ⟨g', cap, e, _, _, _, _, _, _, q⟩ := h.setc ok j i (by rw [List.length_set]; exact hj) hi
  injection e with e1 e2 e3
  injection e1 with e1
  injection e1 with e1
  subst e1
  have := q u x (by rw [hx]; simp)
  rw [List.set_set] at this
  exact this
def setF (w : World) (g j : Nat) (f : Fd) : World := ((w.setCell ⟨g, j * 3, none⟩ (.string f.n)).setCell ⟨g, j * 3 + 1, none⟩ (.string f.v)).setCell ⟨g, j * 3 + 2, none⟩ (.bool f.nv)
theorem R.setF {w : World} {g n c : Nat} {l : List Fd} (h : R EFd w (.slice (some ⟨g, 0, none⟩) n c) l) (j : Nat) (hj : j < l.length) (f : Fd) : R EFd (setF w g j f) (.slice (some ⟨g, 0, none⟩) n c) (l.set j f) := by
  have h0 : R EFd w (.slice (some ⟨g, 0, none⟩) n c) (l.set j l[j]) := by rw [List.set_getElem_self]; exact h
  obtain ⟨X, hX⟩ : ∃ X, l[j] = X := ⟨_, rfl⟩
  rw [hX] at h0
  have h1 := h0.setw okFd hj (i := 0) (by decide) (.string f.n) ⟨f.n, X.v, X.nv⟩ rfl
  have h2 := h1.setw okFd hj (i := 1) (by decide) (.string f.v) ⟨f.n, f.v, X.nv⟩ rfl
  exact h2.setw okFd hj (i := 2) (by decide) (.bool f.nv) f rfl
theorem setF_ks (w : World) (g j : Nat) (f : Fd) : Ks (fun k => k = g) w (setF w g j f) :=
  ((Ks.setCell (fun k => k = g) w g (j * 3) _ rfl).trans (Ks.setCell (fun k => k = g) _ g (j * 3 + 1) _ rfl) (fun i _ hi => hi) (fun i _ hi => hi)).trans (Ks.setCell (fun k => k = g) _ g (j * 3 + 2) _ rfl) (fun i _ hi => hi) (fun i _ hi => hi)
theorem R.cellsF {w : World} {g n c : Nat} {l : List Fd} (h : R EFd w (.slice (some ⟨g, 0, none⟩) n c) l) (j : Nat) (hj : j < l.length) : w.cell? ⟨g, j * 3, none⟩ = some (.string l[j].n) ∧ w.cell? ⟨g, j * 3 + 1, none⟩ = some (.string l[j].v) ∧ w.cell? ⟨g, j * 3 + 2, none⟩ = some (.bool l[j].nv) ∧ ∀ i, w.frozen? ⟨g, i, none⟩ = false := by
  obtain ⟨g', cap', e5, x1, x2, g2, x3, g3, g4, x4⟩ := h.setc okFd j 0 hj (by decide)
  injection e5 with e5 e6 e7
  injection e5 with e5
  injection e5 with e5
  subst e5
  exact ⟨g3 0 _ rfl, g3 1 _ rfl, g3 2 _ rfl, g4⟩
/-- written over -/
def ovF : Fd := ⟨⟨#[118, 97, 114, 121]⟩, ⟨#[42]⟩, false⟩
def ovL (l : List Fd) (k : Nat) : List Fd := (List.replicate k ovF) ++ l.drop k
theorem ovL_len (l : List Fd) (k : Nat) (h : k ≤ l.length) : (ovL l k).length = l.length := by unfold ovL; rw [List.length_append, List.length_replicate, List.length_drop]; omega
theorem ovL_succ (l : List Fd) (k : Nat) (h : k < l.length) : (ovL l k).set k ovF = ovL l (k + 1) := by
  unfold ovL
  rw [List.set_append_right _ _ (by simp), List.length_replicate, Nat.sub_self, List.drop_eq_getElem_cons h, List.set_cons_zero, List.replicate_succ', List.append_assoc]
  rfl
set_option maxHeartbeats 4000000 in
set_option maxRecDepth 100000 in
theorem over_any (w : World) (y : SV) (l : List Fd) (h : R EFd w (sv y) l) : Calls Tryd.prog 17 #[sv y] w fun e w' => e = .returned (.tuple #[]) ∧ R EFd w' (sv y) (List.replicate l.length ovF) ∧ Ks (fun k => (sv y).ownBlock = some k) w w' := by
  obtain ⟨b, c, e, m1, m2⟩ := h.slice
  obtain ⟨yb, yl, yc⟩ := y
  simp only [sv] at e h ⊢
  injection e with e1 e2 e3
  subst e1 e2 e3
  obtain ⟨N, hN⟩ : ∃ N, l.length = N := ⟨_, rfl⟩
  rw [hN] at h m1 ⊢
  have HN : Hid (l.length = N) := hN
  have HR : Hid (R EFd w (.slice yb N yc) (ovL l 0)) := by show R _ _ _ _; unfold ovL; simpa using h
  clear h hN
  go_enter Tryd.func17, Tryd.ntmps17
  go_wp2_with fail
  go_loopw [2] (fun iv wr => ∃ k : Nat, iv = .int .i64 (k : Int) ∧ k ≤ N ∧ Hid (R EFd wr (.slice yb N yc) (ovL l k) ∧ Ks (fun k => (Value.slice yb N yc).ownBlock = some k) w wr)) (fun iv _ => N - (intOf iv).toNat)
  case atStart => exact ⟨0, rfl, by omega, HR.out, Ks.refl _ _⟩
  case round =>
    clear HR
    obtain ⟨k, rfl, hk, hJ⟩ := hrel
    by_cases hlt : k < N
    · have l1 : (k : Int) < (N : Int) := by omega
      have hkl : k < (ovL l k).length := by rw [ovL_len l k (by rw [HN.out]; omega), HN.out]; exact hlt
      obtain ⟨g, cap, e, hzz⟩ := hJ.out.1.setc okFd k 0 hkl (by decide)
      clear hzz
      injection e with e1 e2 e3
      clear e2 e3
      subst e1
      obtain ⟨p0, p1, p2, pf⟩ := R.cellsF hJ.out.1 k hkl
      have f0 := pf (k * 3)
      have f1 := pf (k * 3 + 1)
      have f2 := pf (k * 3 + 2)
      obtain ⟨V, hV⟩ : ∃ V, ((wr.setCell ⟨g, k * 3, none⟩ (.string ⟨#[118, 97, 114, 121]⟩)).setCell ⟨g, k * 3 + 1, none⟩ (.string ⟨#[42]⟩)).setCell ⟨g, k * 3 + 2, none⟩ (.bool false) = V := ⟨_, rfl⟩
      have HNx : Hid (R EFd V (.slice (some ⟨g, 0, none⟩) N yc) (ovL l (k + 1)) ∧ Ks (fun k => (Value.slice (some ⟨g, 0, none⟩) N yc).ownBlock = some k) w V) := by
        have h1 := R.setF hJ.out.1 k hkl ovF
        rw [ovL_succ l k (by rw [HN.out]; exact hlt)] at h1
        have h2 := setF_ks wr g k ovF
        have e : setF wr g k ovF = V := hV
        rw [e] at h1 h2
        exact ⟨h1, hJ.out.2.trans h2 (fun i _ hi => hi) (fun i _ hi => by rw [hi]; rfl)⟩
      clear hJ pf
      go_wp2_with fail
      try rw [hV]
      go_roundw
      case rel => exact ⟨k + 1, by simp, by omega, HNx.out⟩
      case measure => simp [intOf]; omega
    · have l1 : ¬ (k : Int) < (N : Int) := by omega
      have HE : Hid (R EFd wr (.slice yb N yc) (List.replicate N ovF) ∧ Ks (fun k => (Value.slice yb N yc).ownBlock = some k) w wr) := by
        have h := hJ.out
        have e : ovL l k = List.replicate N ovF := by
          have : k = N := by omega
          subst this
          unfold ovL
          rw [List.drop_of_length_le (by rw [HN.out]; omega), List.append_nil]
        rw [e] at h
        exact h
      clear hJ
      go_wp2_with fail
      go_end0
      exact ⟨rfl, HE.out⟩
end Go.Proofs.YtfponcdhaefkdaaDoor
