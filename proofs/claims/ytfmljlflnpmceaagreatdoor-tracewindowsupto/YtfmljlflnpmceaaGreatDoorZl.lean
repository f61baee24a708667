/- DATA. -/
import Derived.Test.YtfmljlflnpmceaaGreatDoorZk
namespace Go.Proofs.YtfmljlflnpmceaaGreatDoor
open Go.RowKit
set_option linter.unusedVariables false
set_option linter.unusedSimpArgs false
def Lk.data (k : Lk) (e : Et) : Lk × Int := if e.s = true then k.sendData e else k.getData e
set_option maxRecDepth 100000 in
set_option maxHeartbeats 40000000 in
theorem data_any (t : Tn) (e : Et) (w0 w : World) (A : LA) (k : Lk) (m : Nat) (h : LJ w0 w A k m) (hv : Lv k) (hf : t.f = e.f) (hs : t.s = e.s) (hg : t.lk = A.g) (hw : t.wa = (A.w t.s).g) (hb : t.bk = (A.w (!t.s)).g) (hi : I64 t.f.st) (hd : t.f.data.size ≤ 140737488355328) (hp : Fm.hasF t.f.fl 8 = true → 0 ≤ t.f.pad ∧ t.f.pad ≤ 255) (hm : m + 2 < maxLen) :
    Calls Tryz.prog 42 #[.agg (tnv t)] w fun r w' => r = .returned (.int .i64 (k.data e).2) ∧ ∃ A', A'.g = A.g ∧ (∀ u, (A'.w u).g = (A.w u).g) ∧ LJ w0 w' A' (k.data e).1 (m + 3) := by
  have HH : Hid (∀ V, Calls Tryz.prog 38 #[.agg (tnv t), .int .i64 8] V fun e w' => e = .returned (.bool (Fm.hasF t.f.fl 8)) ∧ Below V.heap.size V w') := fun V => has_any t 8 V
  obtain ⟨R, hR⟩ : ∃ R, k.data e = R := ⟨_, rfl⟩
  obtain ⟨n, hn⟩ : ∃ n, e.size = n := ⟨_, rfl⟩
  obtain ⟨dz, hdz⟩ : ∃ n : Nat, t.f.data.size = n := ⟨_, rfl⟩
  obtain ⟨h8, hh8⟩ : ∃ v, Fm.hasF t.f.fl 8 = v := ⟨_, rfl⟩
  have hN : n = if h8 = true then (dz : Int) + (1 + t.f.pad) else (dz : Int) := by
    rw [← hn, ← hdz, ← hh8, hf]
    rfl
  have HD : Hid (∀ V, LJ w0 V A k m → Calls Tryz.prog (if t.s = true then 58 else 59) #[.agg (tnv t), .int .i64 n] V fun r w' => r = .returned (.int .i64 R.2) ∧ ∃ A', A'.g = A.g ∧ (∀ u, (A'.w u).g = (A.w u).g) ∧ LJ w0 w' A' R.1 (m + 3)) := fun V hV => by
    rw [← hR]
    unfold Lk.data
    cases hst : t.s
    · have := getData_any t e n w0 V A k m hV hv hf hs hn.symm hg hw hb hi hm
      have es : e.s = false := by rw [← hs]; exact hst
      simp only [es, Bool.false_eq_true, if_false]
      exact this
    · have := sendData_any t e n w0 V A k m hV hv hf hs hn.symm hg hw hb hi hst hm
      have es : e.s = true := by rw [← hs]; exact hst
      simp only [es, if_true]
      exact this
  rw [hR]
  rw [hh8] at HH hp
  obtain ⟨W1, hW1⟩ : ∃ V, w.alloc (.cells (tnv t) 78) = V := ⟨_, rfl⟩
  obtain ⟨b0, hb'⟩ : ∃ q, w.heap.size = q := ⟨_, rfl⟩
  have b1 : Below w.heap.size w W1 := by rw [← hW1]; exact bel1 _ _
  have hb0 : W1.heap[b0]? = some (.cells (tnv t) 78 (0, 0)) := by rw [← hW1, ← hb', heap_al, if_pos rfl]
  have HL0 : Hid (LJ w0 W1 A k m ∧ W1.heap[b0]? = some (.cells (tnv t) 78 (0, 0))) := ⟨h.below b1, hb0⟩
  have j0 := cell_blk hb0 0
  have j1 := cell_blk hb0 1
  have j2 := cell_blk hb0 2
  have j3 := cell_blk hb0 3
  have j4 := cell_blk hb0 4
  have j5 := cell_blk hb0 5
  have j6 := cell_blk hb0 6
  have j7 := cell_blk hb0 7
  have j8 := cell_blk hb0 8
  have j9 := cell_blk hb0 9
  have j10 := cell_blk hb0 10
  have j11 := cell_blk hb0 11
  have j12 := cell_blk hb0 12
  have j13 := cell_blk hb0 13
  have j14 := cell_blk hb0 14
  clear h hv hw hb hi hm hR hn b1 hb0 hf hs hh8
  obtain ⟨lk, ⟨ty, fl, st, da, pa, de, ex, wt, co, la⟩, p, s, wa, bk⟩ := t
  simp only at hg HD hp hd hN hdz
  subst hg
  simp only [tnv] at hW1 HL0 HD HH j0 j1 j2 j3 j4 j5 j6 j7 j8 j9 j10 j11 j12 j13 j14 ⊢
  simp only [List.getElem?_toArray, List.getElem?_cons_succ, List.getElem?_cons_zero] at j0 j1 j2 j3 j4 j5 j6 j7 j8 j9 j10 j11 j12 j13 j14
  have hSb : Hid (∀ V : World, V.heap[b0]? = some (.cells #[.pointer (some ⟨A.g, 0, none⟩), .int .i64 ty, .int .i64 fl, .int .i64 st, .string da, .int .i64 pa, .int .i64 de, .bool ex, .int .i64 wt, .int .i64 co, .int .i64 la, p, .bool s, .pointer (some ⟨wa, 0, none⟩), .pointer (some ⟨bk, 0, none⟩)] 78 (0, 0)) → V.cell? ⟨b0, 0, none⟩ = some (.pointer (some ⟨A.g, 0, none⟩)) ∧ V.cell? ⟨b0, 1, none⟩ = some (.int .i64 ty) ∧ V.cell? ⟨b0, 2, none⟩ = some (.int .i64 fl) ∧ V.cell? ⟨b0, 3, none⟩ = some (.int .i64 st) ∧ V.cell? ⟨b0, 4, none⟩ = some (.string da) ∧ V.cell? ⟨b0, 5, none⟩ = some (.int .i64 pa) ∧ V.cell? ⟨b0, 6, none⟩ = some (.int .i64 de) ∧ V.cell? ⟨b0, 7, none⟩ = some (.bool ex) ∧ V.cell? ⟨b0, 8, none⟩ = some (.int .i64 wt) ∧ V.cell? ⟨b0, 9, none⟩ = some (.int .i64 co) ∧ V.cell? ⟨b0, 10, none⟩ = some (.int .i64 la) ∧ V.cell? ⟨b0, 11, none⟩ = some p ∧ V.cell? ⟨b0, 12, none⟩ = some (.bool s) ∧ V.cell? ⟨b0, 13, none⟩ = some (.pointer (some ⟨wa, 0, none⟩)) ∧ V.cell? ⟨b0, 14, none⟩ = some (.pointer (some ⟨bk, 0, none⟩))) := fun V h1 => ⟨cell_blk h1 0, cell_blk h1 1, cell_blk h1 2, cell_blk h1 3, cell_blk h1 4, cell_blk h1 5, cell_blk h1 6, cell_blk h1 7, cell_blk h1 8, cell_blk h1 9, cell_blk h1 10, cell_blk h1 11, cell_blk h1 12, cell_blk h1 13, cell_blk h1 14⟩
  rw [hdz] at hd
  go_enter Tryz.func42, Tryz.ntmps42
  go_wp2_with fail
  try rw [hW1]
  try rw [hb']
  clear hW1 hb'
  go_at_call 38
  refine (HH.out _).mono ?_
  rintro e' V1 ⟨rfl, hV1⟩
  have HL1 : Hid (LJ w0 V1 A k m ∧ V1.heap[b0]? = some (.cells #[.pointer (some ⟨A.g, 0, none⟩), .int .i64 ty, .int .i64 fl, .int .i64 st, .string da, .int .i64 pa, .int .i64 de, .bool ex, .int .i64 wt, .int .i64 co, .int .i64 la, p, .bool s, .pointer (some ⟨wa, 0, none⟩), .pointer (some ⟨bk, 0, none⟩)] 78 (0, 0))) := ⟨HL0.out.1.below hV1, (hV1.block _ (heap_lt HL0.out.2)).trans HL0.out.2⟩
  clear j0 j1 j2 j3 j4 j5 j6 j7 j8 j9 j10 j11 j12 j13 j14 HH HL0 hV1
  obtain ⟨j0, j1, j2, j3, j4, j5, j6, j7, j8, j9, j10, j11, j12, j13, j14⟩ := hSb.out _ HL1.out.2
  cases h8
  · obtain rfl : n = (dz : Int) := by rw [hN, if_neg (by decide)]
    clear hp hN
    cases s
    · simp only [Bool.false_eq_true, if_false] at HD
      go_wp2_with fail
      go_at_call 59
      refine (HD.out _ HL1.out.1).mono ?_
      rintro e' V2 ⟨rfl, A1, a1, a2, a3⟩
      have HE := hid (And.intro a1 (And.intro a2 a3))
      clear a1 a2 a3
      go_wp2_with fail
      go_ret
      exact ⟨rfl, A1, HE.out.1, by first | exact HE.out.2.1 | exact ⟨HE.out.2.1 _, HE.out.2.1 _⟩, HE.out.2.2⟩
    · simp only [if_true] at HD
      go_wp2_with fail
      go_at_call 58
      refine (HD.out _ HL1.out.1).mono ?_
      rintro e' V2 ⟨rfl, A1, a1, a2, a3⟩
      have HE := hid (And.intro a1 (And.intro a2 a3))
      clear a1 a2 a3
      go_wp2_with fail
      go_ret
      exact ⟨rfl, A1, HE.out.1, by first | exact HE.out.2.1 | exact ⟨HE.out.2.1 _, HE.out.2.1 _⟩, HE.out.2.2⟩
  · obtain ⟨p1, p2⟩ := hp rfl
    obtain ⟨P1, hP1⟩ : ∃ v, 1 + pa = v := ⟨_, rfl⟩
    have w1 : wrap64 (1 + pa) = P1 := by rw [hP1]; unfold wrap64; omega
    have w2 : wrap64 ((dz : Int) + P1) = n := by
      rw [if_pos (by rfl), hP1] at hN
      rw [← hN]; unfold wrap64; omega
    clear hN hP1 hp p1 p2
    cases s
    · simp only [Bool.false_eq_true, if_false] at HD
      go_wp2_with fail
      go_at_call 59
      refine (HD.out _ HL1.out.1).mono ?_
      rintro e' V2 ⟨rfl, A1, a1, a2, a3⟩
      have HE := hid (And.intro a1 (And.intro a2 a3))
      clear a1 a2 a3
      go_wp2_with fail
      go_ret
      exact ⟨rfl, A1, HE.out.1, by first | exact HE.out.2.1 | exact ⟨HE.out.2.1 _, HE.out.2.1 _⟩, HE.out.2.2⟩
    · simp only [if_true] at HD
      go_wp2_with fail
      go_at_call 58
      refine (HD.out _ HL1.out.1).mono ?_
      rintro e' V2 ⟨rfl, A1, a1, a2, a3⟩
      have HE := hid (And.intro a1 (And.intro a2 a3))
      clear a1 a2 a3
      go_wp2_with fail
      go_ret
      exact ⟨rfl, A1, HE.out.1, by first | exact HE.out.2.1 | exact ⟨HE.out.2.1 _, HE.out.2.1 _⟩, HE.out.2.2⟩
end Go.Proofs.YtfmljlflnpmceaaGreatDoor
