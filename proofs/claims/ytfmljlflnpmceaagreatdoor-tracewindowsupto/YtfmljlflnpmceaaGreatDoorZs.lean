/- What a frame does, by its type. -/
import Derived.Test.YtfmljlflnpmceaaGreatDoorZr
import Derived.Test.YtfmljlflnpmceaaGreatDoorZh
import Derived.Test.YtfmljlflnpmceaaGreatDoorZg
namespace Go.Proofs.YtfmljlflnpmceaaGreatDoor
open Go.RowKit
set_option linter.unusedVariables false
set_option linter.unusedSimpArgs false
set_option maxRecDepth 100000 in
set_option maxHeartbeats 40000000 in
theorem byType_1 (t : Tn) (e : Et) (w0 w : World) (A : LA) (k : Lk) (m : Nat) (h : LJ w0 w A k m) (hv : Lv k) (hf : t.f = e.f) (hs : t.s = e.s) (hg : t.lk = A.g) (hw : t.wa = (A.w t.s).g) (hb : t.bk = (A.w (!t.s)).g) (hi : I64 t.f.st) (hla : I64 t.f.last) (hm : m + 2 < maxLen) (hln : 0 ≤ (k.wy t.s).ln ∧ (k.wy t.s).ln ≤ 1099511627776) (hd : t.f.data.size ≤ 140737488355328) (hpd : t.f.ty = 0 → Fm.hasF t.f.fl 8 = true → 0 ≤ t.f.pad ∧ t.f.pad ≤ 255) (hpg : (k.wy t.s).pg.length ≤ 1099511627776) (ha : okW (k.wy t.s).ac) (ht : ∀ x ∈ (k.wy t.s).wt, okW x) (h0 : Std w0) (hp : In EP w0 t.p e.ps) (hty : t.f.ty = 1) : Calls Tryz.prog 32 #[.agg (tnv t)] w fun r w' => r = .returned (.int .i64 (k.byType e).2) ∧ ∃ A', A'.g = A.g ∧ (∀ u, (A'.w u).g = (A.w u).g) ∧ LJ w0 w' A' (k.byType e).1 (m + 3) := by
  obtain ⟨R, hR⟩ : ∃ R, k.byType e = R := ⟨_, rfl⟩
  have HC : Hid (∀ V, LJ w0 V A k m → Calls Tryz.prog 39 #[.agg (tnv t)] V fun r w' => r = .returned (.int .i64 (R).2) ∧ ∃ A', A'.g = A.g ∧ (∀ u, (A'.w u).g = (A.w u).g) ∧ LJ w0 w' A' (R).1 (m + 3)) := fun V hV => by
    rw [← hR]
    unfold Lk.byType
    rw [if_pos (by rw [← hf, hty])]
    exact headers_any t e w0 V A k m hV hv hf hs hg hw hb hi hm
  rw [hR]
  obtain ⟨W1, hW1⟩ : ∃ V, w.alloc (.cells (tnv t) 78) = V := ⟨_, rfl⟩
  obtain ⟨b0, hb'⟩ : ∃ q, w.heap.size = q := ⟨_, rfl⟩
  have b1 : Below w.heap.size w W1 := by rw [← hW1]; exact bel1 _ _
  have hb0 : W1.heap[b0]? = some (.cells (tnv t) 78 (0, 0)) := by rw [← hW1, ← hb', heap_al, if_pos rfl]
  have HL0 : Hid (LJ w0 W1 A k m ∧ W1.heap[b0]? = some (.cells (tnv t) 78 (0, 0))) := ⟨h.below b1, hb0⟩
  have j0 := cell_blk hb0 0
  have j1 := cell_blk hb0 1
  have j2 := cell_blk hb0 2
  have j3 := cell_blk hb0 3
  have j4 := cell_blk hb0 4
  have j5 := cell_blk hb0 5
  have j6 := cell_blk hb0 6
  have j7 := cell_blk hb0 7
  have j8 := cell_blk hb0 8
  have j9 := cell_blk hb0 9
  have j10 := cell_blk hb0 10
  have j11 := cell_blk hb0 11
  have j12 := cell_blk hb0 12
  have j13 := cell_blk hb0 13
  have j14 := cell_blk hb0 14
  clear h hv hw hb hi hla hm hln hd hpd hpg ha ht h0 hp b1 hb0 hf hs hR
  obtain ⟨lk, ⟨ty, fl, st, da, pa, de, ex, wt, co, la⟩, p, s, wa, bk⟩ := t
  simp only at hg hty
  subst hg hty
  simp only [tnv] at hW1 HL0 HC j0 j1 j2 j3 j4 j5 j6 j7 j8 j9 j10 j11 j12 j13 j14 ⊢
  simp only [List.getElem?_toArray, List.getElem?_cons_succ, List.getElem?_cons_zero] at j0 j1 j2 j3 j4 j5 j6 j7 j8 j9 j10 j11 j12 j13 j14
  go_enter Tryz.func32, Tryz.ntmps32
  go_wp2_with fail
  try rw [hW1]
  try rw [hb']
  clear hW1 hb'
  go_wp2_with fail
  go_at_call 39
  refine (HC.out _ HL0.out.1).mono ?_
  rintro e' V1 ⟨rfl, A1, a1, a2, a3⟩
  have HE := hid (And.intro a1 (And.intro a2 a3))
  clear a1 a2 a3 j0 j1 j2 j3 j4 j5 j6 j7 j8 j9 j10 j11 j12 j13 j14
  go_wp2_with fail
  go_ret
  exact ⟨rfl, A1, HE.out.1, (by first | exact HE.out.2.1 | exact ⟨HE.out.2.1 _, HE.out.2.1 _⟩), HE.out.2.2⟩
set_option maxRecDepth 100000 in
set_option maxHeartbeats 40000000 in
theorem byType_5 (t : Tn) (e : Et) (w0 w : World) (A : LA) (k : Lk) (m : Nat) (h : LJ w0 w A k m) (hv : Lv k) (hf : t.f = e.f) (hs : t.s = e.s) (hg : t.lk = A.g) (hw : t.wa = (A.w t.s).g) (hb : t.bk = (A.w (!t.s)).g) (hi : I64 t.f.st) (hla : I64 t.f.last) (hm : m + 2 < maxLen) (hln : 0 ≤ (k.wy t.s).ln ∧ (k.wy t.s).ln ≤ 1099511627776) (hd : t.f.data.size ≤ 140737488355328) (hpd : t.f.ty = 0 → Fm.hasF t.f.fl 8 = true → 0 ≤ t.f.pad ∧ t.f.pad ≤ 255) (hpg : (k.wy t.s).pg.length ≤ 1099511627776) (ha : okW (k.wy t.s).ac) (ht : ∀ x ∈ (k.wy t.s).wt, okW x) (h0 : Std w0) (hp : In EP w0 t.p e.ps) (hty : t.f.ty = 5) : Calls Tryz.prog 32 #[.agg (tnv t)] w fun r w' => r = .returned (.int .i64 (k.byType e).2) ∧ ∃ A', A'.g = A.g ∧ (∀ u, (A'.w u).g = (A.w u).g) ∧ LJ w0 w' A' (k.byType e).1 (m + 3) := by
  obtain ⟨R, hR⟩ : ∃ R, k.byType e = R := ⟨_, rfl⟩
  have HC : Hid (∀ V, LJ w0 V A k m → Calls Tryz.prog 40 #[.agg (tnv t)] V fun r w' => r = .returned (.int .i64 (R).2) ∧ ∃ A', A'.g = A.g ∧ (∀ u, (A'.w u).g = (A.w u).g) ∧ LJ w0 w' A' (R).1 (m + 3)) := fun V hV => by
    rw [← hR]
    unfold Lk.byType
    rw [if_neg (by rw [← hf, hty]; decide), if_pos (by rw [← hf, hty])]
    exact promise_any t e w0 V A k m hV hv hf hs hg hw hb hi hla hm
  rw [hR]
  obtain ⟨W1, hW1⟩ : ∃ V, w.alloc (.cells (tnv t) 78) = V := ⟨_, rfl⟩
  obtain ⟨b0, hb'⟩ : ∃ q, w.heap.size = q := ⟨_, rfl⟩
  have b1 : Below w.heap.size w W1 := by rw [← hW1]; exact bel1 _ _
  have hb0 : W1.heap[b0]? = some (.cells (tnv t) 78 (0, 0)) := by rw [← hW1, ← hb', heap_al, if_pos rfl]
  have HL0 : Hid (LJ w0 W1 A k m ∧ W1.heap[b0]? = some (.cells (tnv t) 78 (0, 0))) := ⟨h.below b1, hb0⟩
  have j0 := cell_blk hb0 0
  have j1 := cell_blk hb0 1
  have j2 := cell_blk hb0 2
  have j3 := cell_blk hb0 3
  have j4 := cell_blk hb0 4
  have j5 := cell_blk hb0 5
  have j6 := cell_blk hb0 6
  have j7 := cell_blk hb0 7
  have j8 := cell_blk hb0 8
  have j9 := cell_blk hb0 9
  have j10 := cell_blk hb0 10
  have j11 := cell_blk hb0 11
  have j12 := cell_blk hb0 12
  have j13 := cell_blk hb0 13
  have j14 := cell_blk hb0 14
  clear h hv hw hb hi hla hm hln hd hpd hpg ha ht h0 hp b1 hb0 hf hs hR
  obtain ⟨lk, ⟨ty, fl, st, da, pa, de, ex, wt, co, la⟩, p, s, wa, bk⟩ := t
  simp only at hg hty
  subst hg hty
  simp only [tnv] at hW1 HL0 HC j0 j1 j2 j3 j4 j5 j6 j7 j8 j9 j10 j11 j12 j13 j14 ⊢
  simp only [List.getElem?_toArray, List.getElem?_cons_succ, List.getElem?_cons_zero] at j0 j1 j2 j3 j4 j5 j6 j7 j8 j9 j10 j11 j12 j13 j14
  go_enter Tryz.func32, Tryz.ntmps32
  go_wp2_with fail
  try rw [hW1]
  try rw [hb']
  clear hW1 hb'
  go_wp2_with fail
  go_at_call 40
  refine (HC.out _ HL0.out.1).mono ?_
  rintro e' V1 ⟨rfl, A1, a1, a2, a3⟩
  have HE := hid (And.intro a1 (And.intro a2 a3))
  clear a1 a2 a3 j0 j1 j2 j3 j4 j5 j6 j7 j8 j9 j10 j11 j12 j13 j14
  go_wp2_with fail
  go_ret
  exact ⟨rfl, A1, HE.out.1, (by first | exact HE.out.2.1 | exact ⟨HE.out.2.1 _, HE.out.2.1 _⟩), HE.out.2.2⟩
set_option maxRecDepth 100000 in
set_option maxHeartbeats 40000000 in
theorem byType_9 (t : Tn) (e : Et) (w0 w : World) (A : LA) (k : Lk) (m : Nat) (h : LJ w0 w A k m) (hv : Lv k) (hf : t.f = e.f) (hs : t.s = e.s) (hg : t.lk = A.g) (hw : t.wa = (A.w t.s).g) (hb : t.bk = (A.w (!t.s)).g) (hi : I64 t.f.st) (hla : I64 t.f.last) (hm : m + 2 < maxLen) (hln : 0 ≤ (k.wy t.s).ln ∧ (k.wy t.s).ln ≤ 1099511627776) (hd : t.f.data.size ≤ 140737488355328) (hpd : t.f.ty = 0 → Fm.hasF t.f.fl 8 = true → 0 ≤ t.f.pad ∧ t.f.pad ≤ 255) (hpg : (k.wy t.s).pg.length ≤ 1099511627776) (ha : okW (k.wy t.s).ac) (ht : ∀ x ∈ (k.wy t.s).wt, okW x) (h0 : Std w0) (hp : In EP w0 t.p e.ps) (hty : t.f.ty = 9) : Calls Tryz.prog 32 #[.agg (tnv t)] w fun r w' => r = .returned (.int .i64 (k.byType e).2) ∧ ∃ A', A'.g = A.g ∧ (∀ u, (A'.w u).g = (A.w u).g) ∧ LJ w0 w' A' (k.byType e).1 (m + 3) := by
  obtain ⟨R, hR⟩ : ∃ R, k.byType e = R := ⟨_, rfl⟩
  have HC : Hid (∀ V, LJ w0 V A k m → Calls Tryz.prog 41 #[.agg (tnv t)] V fun r w' => r = .returned (.int .i64 (R).2) ∧ ∃ A', A'.g = A.g ∧ (∀ u, (A'.w u).g = (A.w u).g) ∧ LJ w0 w' A' (R).1 (m + 3)) := fun V hV => by
    rw [← hR]
    unfold Lk.byType
    rw [if_neg (by rw [← hf, hty]; decide), if_neg (by rw [← hf, hty]; decide), if_pos (by rw [← hf, hty])]
    refine (continuation_any t e w0 V A k m hV hf hs hw hln hd).mono ?_
    rintro r w' ⟨rfl, z⟩
    exact ⟨rfl, A, rfl, fun u => rfl, z.more (by omega)⟩
  rw [hR]
  obtain ⟨W1, hW1⟩ : ∃ V, w.alloc (.cells (tnv t) 78) = V := ⟨_, rfl⟩
  obtain ⟨b0, hb'⟩ : ∃ q, w.heap.size = q := ⟨_, rfl⟩
  have b1 : Below w.heap.size w W1 := by rw [← hW1]; exact bel1 _ _
  have hb0 : W1.heap[b0]? = some (.cells (tnv t) 78 (0, 0)) := by rw [← hW1, ← hb', heap_al, if_pos rfl]
  have HL0 : Hid (LJ w0 W1 A k m ∧ W1.heap[b0]? = some (.cells (tnv t) 78 (0, 0))) := ⟨h.below b1, hb0⟩
  have j0 := cell_blk hb0 0
  have j1 := cell_blk hb0 1
  have j2 := cell_blk hb0 2
  have j3 := cell_blk hb0 3
  have j4 := cell_blk hb0 4
  have j5 := cell_blk hb0 5
  have j6 := cell_blk hb0 6
  have j7 := cell_blk hb0 7
  have j8 := cell_blk hb0 8
  have j9 := cell_blk hb0 9
  have j10 := cell_blk hb0 10
  have j11 := cell_blk hb0 11
  have j12 := cell_blk hb0 12
  have j13 := cell_blk hb0 13
  have j14 := cell_blk hb0 14
  clear h hv hw hb hi hla hm hln hd hpd hpg ha ht h0 hp b1 hb0 hf hs hR
  obtain ⟨lk, ⟨ty, fl, st, da, pa, de, ex, wt, co, la⟩, p, s, wa, bk⟩ := t
  simp only at hg hty
  subst hg hty
  simp only [tnv] at hW1 HL0 HC j0 j1 j2 j3 j4 j5 j6 j7 j8 j9 j10 j11 j12 j13 j14 ⊢
  simp only [List.getElem?_toArray, List.getElem?_cons_succ, List.getElem?_cons_zero] at j0 j1 j2 j3 j4 j5 j6 j7 j8 j9 j10 j11 j12 j13 j14
  go_enter Tryz.func32, Tryz.ntmps32
  go_wp2_with fail
  try rw [hW1]
  try rw [hb']
  clear hW1 hb'
  go_wp2_with fail
  go_at_call 41
  refine (HC.out _ HL0.out.1).mono ?_
  rintro e' V1 ⟨rfl, A1, a1, a2, a3⟩
  have HE := hid (And.intro a1 (And.intro a2 a3))
  clear a1 a2 a3 j0 j1 j2 j3 j4 j5 j6 j7 j8 j9 j10 j11 j12 j13 j14
  go_wp2_with fail
  go_ret
  exact ⟨rfl, A1, HE.out.1, (by first | exact HE.out.2.1 | exact ⟨HE.out.2.1 _, HE.out.2.1 _⟩), HE.out.2.2⟩
set_option maxRecDepth 100000 in
set_option maxHeartbeats 40000000 in
theorem byType_0 (t : Tn) (e : Et) (w0 w : World) (A : LA) (k : Lk) (m : Nat) (h : LJ w0 w A k m) (hv : Lv k) (hf : t.f = e.f) (hs : t.s = e.s) (hg : t.lk = A.g) (hw : t.wa = (A.w t.s).g) (hb : t.bk = (A.w (!t.s)).g) (hi : I64 t.f.st) (hla : I64 t.f.last) (hm : m + 2 < maxLen) (hln : 0 ≤ (k.wy t.s).ln ∧ (k.wy t.s).ln ≤ 1099511627776) (hd : t.f.data.size ≤ 140737488355328) (hpd : t.f.ty = 0 → Fm.hasF t.f.fl 8 = true → 0 ≤ t.f.pad ∧ t.f.pad ≤ 255) (hpg : (k.wy t.s).pg.length ≤ 1099511627776) (ha : okW (k.wy t.s).ac) (ht : ∀ x ∈ (k.wy t.s).wt, okW x) (h0 : Std w0) (hp : In EP w0 t.p e.ps) (hty : t.f.ty = 0) : Calls Tryz.prog 32 #[.agg (tnv t)] w fun r w' => r = .returned (.int .i64 (k.byType e).2) ∧ ∃ A', A'.g = A.g ∧ (∀ u, (A'.w u).g = (A.w u).g) ∧ LJ w0 w' A' (k.byType e).1 (m + 3) := by
  obtain ⟨R, hR⟩ : ∃ R, k.byType e = R := ⟨_, rfl⟩
  have HC : Hid (∀ V, LJ w0 V A k m → Calls Tryz.prog 42 #[.agg (tnv t)] V fun r w' => r = .returned (.int .i64 (R).2) ∧ ∃ A', A'.g = A.g ∧ (∀ u, (A'.w u).g = (A.w u).g) ∧ LJ w0 w' A' (R).1 (m + 3)) := fun V hV => by
    rw [← hR]
    unfold Lk.byType
    rw [if_neg (by rw [← hf, hty]; decide), if_neg (by rw [← hf, hty]; decide), if_neg (by rw [← hf, hty]; decide), if_pos (by rw [← hf, hty])]
    exact data_any t e w0 V A k m hV hv hf hs hg hw hb hi hd (hpd hty) hm
  rw [hR]
  obtain ⟨W1, hW1⟩ : ∃ V, w.alloc (.cells (tnv t) 78) = V := ⟨_, rfl⟩
  obtain ⟨b0, hb'⟩ : ∃ q, w.heap.size = q := ⟨_, rfl⟩
  have b1 : Below w.heap.size w W1 := by rw [← hW1]; exact bel1 _ _
  have hb0 : W1.heap[b0]? = some (.cells (tnv t) 78 (0, 0)) := by rw [← hW1, ← hb', heap_al, if_pos rfl]
  have HL0 : Hid (LJ w0 W1 A k m ∧ W1.heap[b0]? = some (.cells (tnv t) 78 (0, 0))) := ⟨h.below b1, hb0⟩
  have j0 := cell_blk hb0 0
  have j1 := cell_blk hb0 1
  have j2 := cell_blk hb0 2
  have j3 := cell_blk hb0 3
  have j4 := cell_blk hb0 4
  have j5 := cell_blk hb0 5
  have j6 := cell_blk hb0 6
  have j7 := cell_blk hb0 7
  have j8 := cell_blk hb0 8
  have j9 := cell_blk hb0 9
  have j10 := cell_blk hb0 10
  have j11 := cell_blk hb0 11
  have j12 := cell_blk hb0 12
  have j13 := cell_blk hb0 13
  have j14 := cell_blk hb0 14
  clear h hv hw hb hi hla hm hln hd hpd hpg ha ht h0 hp b1 hb0 hf hs hR
  obtain ⟨lk, ⟨ty, fl, st, da, pa, de, ex, wt, co, la⟩, p, s, wa, bk⟩ := t
  simp only at hg hty
  subst hg hty
  simp only [tnv] at hW1 HL0 HC j0 j1 j2 j3 j4 j5 j6 j7 j8 j9 j10 j11 j12 j13 j14 ⊢
  simp only [List.getElem?_toArray, List.getElem?_cons_succ, List.getElem?_cons_zero] at j0 j1 j2 j3 j4 j5 j6 j7 j8 j9 j10 j11 j12 j13 j14
  go_enter Tryz.func32, Tryz.ntmps32
  go_wp2_with fail
  try rw [hW1]
  try rw [hb']
  clear hW1 hb'
  go_wp2_with fail
  go_at_call 42
  refine (HC.out _ HL0.out.1).mono ?_
  rintro e' V1 ⟨rfl, A1, a1, a2, a3⟩
  have HE := hid (And.intro a1 (And.intro a2 a3))
  clear a1 a2 a3 j0 j1 j2 j3 j4 j5 j6 j7 j8 j9 j10 j11 j12 j13 j14
  go_wp2_with fail
  go_ret
  exact ⟨rfl, A1, HE.out.1, (by first | exact HE.out.2.1 | exact ⟨HE.out.2.1 _, HE.out.2.1 _⟩), HE.out.2.2⟩
set_option maxRecDepth 100000 in
set_option maxHeartbeats 40000000 in
theorem byType_3 (t : Tn) (e : Et) (w0 w : World) (A : LA) (k : Lk) (m : Nat) (h : LJ w0 w A k m) (hv : Lv k) (hf : t.f = e.f) (hs : t.s = e.s) (hg : t.lk = A.g) (hw : t.wa = (A.w t.s).g) (hb : t.bk = (A.w (!t.s)).g) (hi : I64 t.f.st) (hla : I64 t.f.last) (hm : m + 2 < maxLen) (hln : 0 ≤ (k.wy t.s).ln ∧ (k.wy t.s).ln ≤ 1099511627776) (hd : t.f.data.size ≤ 140737488355328) (hpd : t.f.ty = 0 → Fm.hasF t.f.fl 8 = true → 0 ≤ t.f.pad ∧ t.f.pad ≤ 255) (hpg : (k.wy t.s).pg.length ≤ 1099511627776) (ha : okW (k.wy t.s).ac) (ht : ∀ x ∈ (k.wy t.s).wt, okW x) (h0 : Std w0) (hp : In EP w0 t.p e.ps) (hty : t.f.ty = 3) : Calls Tryz.prog 32 #[.agg (tnv t)] w fun r w' => r = .returned (.int .i64 (k.byType e).2) ∧ ∃ A', A'.g = A.g ∧ (∀ u, (A'.w u).g = (A.w u).g) ∧ LJ w0 w' A' (k.byType e).1 (m + 3) := by
  obtain ⟨R, hR⟩ : ∃ R, k.byType e = R := ⟨_, rfl⟩
  have HC : Hid (∀ V, LJ w0 V A k m → Calls Tryz.prog 43 #[.agg (tnv t)] V fun r w' => r = .returned (.int .i64 (R).2) ∧ ∃ A', A'.g = A.g ∧ (∀ u, (A'.w u).g = (A.w u).g) ∧ LJ w0 w' A' (R).1 (m + 3)) := fun V hV => by
    rw [← hR]
    unfold Lk.byType
    rw [if_neg (by rw [← hf, hty]; decide), if_neg (by rw [← hf, hty]; decide), if_neg (by rw [← hf, hty]; decide), if_neg (by rw [← hf, hty]; decide), if_pos (by rw [← hf, hty])]
    refine (resets_any t e w0 V A k m hV hv hf hs hg hw hb hi hm).mono ?_
    rintro r w' ⟨rfl, A', z1, z2, z3, _⟩
    exact ⟨rfl, A', z1, z2, z3⟩
  rw [hR]
  obtain ⟨W1, hW1⟩ : ∃ V, w.alloc (.cells (tnv t) 78) = V := ⟨_, rfl⟩
  obtain ⟨b0, hb'⟩ : ∃ q, w.heap.size = q := ⟨_, rfl⟩
  have b1 : Below w.heap.size w W1 := by rw [← hW1]; exact bel1 _ _
  have hb0 : W1.heap[b0]? = some (.cells (tnv t) 78 (0, 0)) := by rw [← hW1, ← hb', heap_al, if_pos rfl]
  have HL0 : Hid (LJ w0 W1 A k m ∧ W1.heap[b0]? = some (.cells (tnv t) 78 (0, 0))) := ⟨h.below b1, hb0⟩
  have j0 := cell_blk hb0 0
  have j1 := cell_blk hb0 1
  have j2 := cell_blk hb0 2
  have j3 := cell_blk hb0 3
  have j4 := cell_blk hb0 4
  have j5 := cell_blk hb0 5
  have j6 := cell_blk hb0 6
  have j7 := cell_blk hb0 7
  have j8 := cell_blk hb0 8
  have j9 := cell_blk hb0 9
  have j10 := cell_blk hb0 10
  have j11 := cell_blk hb0 11
  have j12 := cell_blk hb0 12
  have j13 := cell_blk hb0 13
  have j14 := cell_blk hb0 14
  clear h hv hw hb hi hla hm hln hd hpd hpg ha ht h0 hp b1 hb0 hf hs hR
  obtain ⟨lk, ⟨ty, fl, st, da, pa, de, ex, wt, co, la⟩, p, s, wa, bk⟩ := t
  simp only at hg hty
  subst hg hty
  simp only [tnv] at hW1 HL0 HC j0 j1 j2 j3 j4 j5 j6 j7 j8 j9 j10 j11 j12 j13 j14 ⊢
  simp only [List.getElem?_toArray, List.getElem?_cons_succ, List.getElem?_cons_zero] at j0 j1 j2 j3 j4 j5 j6 j7 j8 j9 j10 j11 j12 j13 j14
  go_enter Tryz.func32, Tryz.ntmps32
  go_wp2_with fail
  try rw [hW1]
  try rw [hb']
  clear hW1 hb'
  go_wp2_with fail
  go_at_call 43
  refine (HC.out _ HL0.out.1).mono ?_
  rintro e' V1 ⟨rfl, A1, a1, a2, a3⟩
  have HE := hid (And.intro a1 (And.intro a2 a3))
  clear a1 a2 a3 j0 j1 j2 j3 j4 j5 j6 j7 j8 j9 j10 j11 j12 j13 j14
  go_wp2_with fail
  go_ret
  exact ⟨rfl, A1, HE.out.1, (by first | exact HE.out.2.1 | exact ⟨HE.out.2.1 _, HE.out.2.1 _⟩), HE.out.2.2⟩
set_option maxRecDepth 100000 in
set_option maxHeartbeats 40000000 in
theorem byType_4 (t : Tn) (e : Et) (w0 w : World) (A : LA) (k : Lk) (m : Nat) (h : LJ w0 w A k m) (hv : Lv k) (hf : t.f = e.f) (hs : t.s = e.s) (hg : t.lk = A.g) (hw : t.wa = (A.w t.s).g) (hb : t.bk = (A.w (!t.s)).g) (hi : I64 t.f.st) (hla : I64 t.f.last) (hm : m + 2 < maxLen) (hln : 0 ≤ (k.wy t.s).ln ∧ (k.wy t.s).ln ≤ 1099511627776) (hd : t.f.data.size ≤ 140737488355328) (hpd : t.f.ty = 0 → Fm.hasF t.f.fl 8 = true → 0 ≤ t.f.pad ∧ t.f.pad ≤ 255) (hpg : (k.wy t.s).pg.length ≤ 1099511627776) (ha : okW (k.wy t.s).ac) (ht : ∀ x ∈ (k.wy t.s).wt, okW x) (h0 : Std w0) (hp : In EP w0 t.p e.ps) (hty : t.f.ty = 4) : Calls Tryz.prog 32 #[.agg (tnv t)] w fun r w' => r = .returned (.int .i64 (k.byType e).2) ∧ ∃ A', A'.g = A.g ∧ (∀ u, (A'.w u).g = (A.w u).g) ∧ LJ w0 w' A' (k.byType e).1 (m + 3) := by
  obtain ⟨R, hR⟩ : ∃ R, k.byType e = R := ⟨_, rfl⟩
  have HC : Hid (∀ V, LJ w0 V A k m → Calls Tryz.prog 44 #[.agg (tnv t)] V fun r w' => r = .returned (.int .i64 (R).2) ∧ ∃ A', A'.g = A.g ∧ (∀ u, (A'.w u).g = (A.w u).g) ∧ LJ w0 w' A' (R).1 (m + 3)) := fun V hV => by
    rw [← hR]
    unfold Lk.byType
    rw [if_neg (by rw [← hf, hty]; decide), if_neg (by rw [← hf, hty]; decide), if_neg (by rw [← hf, hty]; decide), if_neg (by rw [← hf, hty]; decide), if_neg (by rw [← hf, hty]; decide), if_pos (by rw [← hf, hty])]
    exact settings_any t e w0 V A k m hV hv hf hs hg hw hb ha ht h0 hp
  rw [hR]
  obtain ⟨W1, hW1⟩ : ∃ V, w.alloc (.cells (tnv t) 78) = V := ⟨_, rfl⟩
  obtain ⟨b0, hb'⟩ : ∃ q, w.heap.size = q := ⟨_, rfl⟩
  have b1 : Below w.heap.size w W1 := by rw [← hW1]; exact bel1 _ _
  have hb0 : W1.heap[b0]? = some (.cells (tnv t) 78 (0, 0)) := by rw [← hW1, ← hb', heap_al, if_pos rfl]
  have HL0 : Hid (LJ w0 W1 A k m ∧ W1.heap[b0]? = some (.cells (tnv t) 78 (0, 0))) := ⟨h.below b1, hb0⟩
  have j0 := cell_blk hb0 0
  have j1 := cell_blk hb0 1
  have j2 := cell_blk hb0 2
  have j3 := cell_blk hb0 3
  have j4 := cell_blk hb0 4
  have j5 := cell_blk hb0 5
  have j6 := cell_blk hb0 6
  have j7 := cell_blk hb0 7
  have j8 := cell_blk hb0 8
  have j9 := cell_blk hb0 9
  have j10 := cell_blk hb0 10
  have j11 := cell_blk hb0 11
  have j12 := cell_blk hb0 12
  have j13 := cell_blk hb0 13
  have j14 := cell_blk hb0 14
  clear h hv hw hb hi hla hm hln hd hpd hpg ha ht h0 hp b1 hb0 hf hs hR
  obtain ⟨lk, ⟨ty, fl, st, da, pa, de, ex, wt, co, la⟩, p, s, wa, bk⟩ := t
  simp only at hg hty
  subst hg hty
  simp only [tnv] at hW1 HL0 HC j0 j1 j2 j3 j4 j5 j6 j7 j8 j9 j10 j11 j12 j13 j14 ⊢
  simp only [List.getElem?_toArray, List.getElem?_cons_succ, List.getElem?_cons_zero] at j0 j1 j2 j3 j4 j5 j6 j7 j8 j9 j10 j11 j12 j13 j14
  go_enter Tryz.func32, Tryz.ntmps32
  go_wp2_with fail
  try rw [hW1]
  try rw [hb']
  clear hW1 hb'
  go_wp2_with fail
  go_at_call 44
  refine (HC.out _ HL0.out.1).mono ?_
  rintro e' V1 ⟨rfl, A1, a1, a2, a3⟩
  have HE := hid (And.intro a1 (And.intro a2 a3))
  clear a1 a2 a3 j0 j1 j2 j3 j4 j5 j6 j7 j8 j9 j10 j11 j12 j13 j14
  go_wp2_with fail
  go_ret
  exact ⟨rfl, A1, HE.out.1, (by first | exact HE.out.2.1 | exact ⟨HE.out.2.1 _, HE.out.2.1 _⟩), HE.out.2.2⟩
set_option maxRecDepth 100000 in
set_option maxHeartbeats 40000000 in
theorem byType_6 (t : Tn) (e : Et) (w0 w : World) (A : LA) (k : Lk) (m : Nat) (h : LJ w0 w A k m) (hv : Lv k) (hf : t.f = e.f) (hs : t.s = e.s) (hg : t.lk = A.g) (hw : t.wa = (A.w t.s).g) (hb : t.bk = (A.w (!t.s)).g) (hi : I64 t.f.st) (hla : I64 t.f.last) (hm : m + 2 < maxLen) (hln : 0 ≤ (k.wy t.s).ln ∧ (k.wy t.s).ln ≤ 1099511627776) (hd : t.f.data.size ≤ 140737488355328) (hpd : t.f.ty = 0 → Fm.hasF t.f.fl 8 = true → 0 ≤ t.f.pad ∧ t.f.pad ≤ 255) (hpg : (k.wy t.s).pg.length ≤ 1099511627776) (ha : okW (k.wy t.s).ac) (ht : ∀ x ∈ (k.wy t.s).wt, okW x) (h0 : Std w0) (hp : In EP w0 t.p e.ps) (hty : t.f.ty = 6) : Calls Tryz.prog 32 #[.agg (tnv t)] w fun r w' => r = .returned (.int .i64 (k.byType e).2) ∧ ∃ A', A'.g = A.g ∧ (∀ u, (A'.w u).g = (A.w u).g) ∧ LJ w0 w' A' (k.byType e).1 (m + 3) := by
  obtain ⟨R, hR⟩ : ∃ R, k.byType e = R := ⟨_, rfl⟩
  have HC : Hid (∀ V, LJ w0 V A k m → Calls Tryz.prog 45 #[.agg (tnv t)] V fun r w' => r = .returned (.int .i64 (R).2) ∧ ∃ A', A'.g = A.g ∧ (∀ u, (A'.w u).g = (A.w u).g) ∧ LJ w0 w' A' (R).1 (m + 3)) := fun V hV => by
    rw [← hR]
    unfold Lk.byType
    rw [if_neg (by rw [← hf, hty]; decide), if_neg (by rw [← hf, hty]; decide), if_neg (by rw [← hf, hty]; decide), if_neg (by rw [← hf, hty]; decide), if_neg (by rw [← hf, hty]; decide), if_neg (by rw [← hf, hty]; decide), if_pos (by rw [← hf, hty])]
    exact ping_any t e w0 V A k m hV hf hs hg hw hb hpg
  rw [hR]
  obtain ⟨W1, hW1⟩ : ∃ V, w.alloc (.cells (tnv t) 78) = V := ⟨_, rfl⟩
  obtain ⟨b0, hb'⟩ : ∃ q, w.heap.size = q := ⟨_, rfl⟩
  have b1 : Below w.heap.size w W1 := by rw [← hW1]; exact bel1 _ _
  have hb0 : W1.heap[b0]? = some (.cells (tnv t) 78 (0, 0)) := by rw [← hW1, ← hb', heap_al, if_pos rfl]
  have HL0 : Hid (LJ w0 W1 A k m ∧ W1.heap[b0]? = some (.cells (tnv t) 78 (0, 0))) := ⟨h.below b1, hb0⟩
  have j0 := cell_blk hb0 0
  have j1 := cell_blk hb0 1
  have j2 := cell_blk hb0 2
  have j3 := cell_blk hb0 3
  have j4 := cell_blk hb0 4
  have j5 := cell_blk hb0 5
  have j6 := cell_blk hb0 6
  have j7 := cell_blk hb0 7
  have j8 := cell_blk hb0 8
  have j9 := cell_blk hb0 9
  have j10 := cell_blk hb0 10
  have j11 := cell_blk hb0 11
  have j12 := cell_blk hb0 12
  have j13 := cell_blk hb0 13
  have j14 := cell_blk hb0 14
  clear h hv hw hb hi hla hm hln hd hpd hpg ha ht h0 hp b1 hb0 hf hs hR
  obtain ⟨lk, ⟨ty, fl, st, da, pa, de, ex, wt, co, la⟩, p, s, wa, bk⟩ := t
  simp only at hg hty
  subst hg hty
  simp only [tnv] at hW1 HL0 HC j0 j1 j2 j3 j4 j5 j6 j7 j8 j9 j10 j11 j12 j13 j14 ⊢
  simp only [List.getElem?_toArray, List.getElem?_cons_succ, List.getElem?_cons_zero] at j0 j1 j2 j3 j4 j5 j6 j7 j8 j9 j10 j11 j12 j13 j14
  go_enter Tryz.func32, Tryz.ntmps32
  go_wp2_with fail
  try rw [hW1]
  try rw [hb']
  clear hW1 hb'
  go_wp2_with fail
  go_at_call 45
  refine (HC.out _ HL0.out.1).mono ?_
  rintro e' V1 ⟨rfl, A1, a1, a2, a3⟩
  have HE := hid (And.intro a1 (And.intro a2 a3))
  clear a1 a2 a3 j0 j1 j2 j3 j4 j5 j6 j7 j8 j9 j10 j11 j12 j13 j14
  go_wp2_with fail
  go_ret
  exact ⟨rfl, A1, HE.out.1, (by first | exact HE.out.2.1 | exact ⟨HE.out.2.1 _, HE.out.2.1 _⟩), HE.out.2.2⟩
set_option maxRecDepth 100000 in
set_option maxHeartbeats 40000000 in
theorem byType_8 (t : Tn) (e : Et) (w0 w : World) (A : LA) (k : Lk) (m : Nat) (h : LJ w0 w A k m) (hv : Lv k) (hf : t.f = e.f) (hs : t.s = e.s) (hg : t.lk = A.g) (hw : t.wa = (A.w t.s).g) (hb : t.bk = (A.w (!t.s)).g) (hi : I64 t.f.st) (hla : I64 t.f.last) (hm : m + 2 < maxLen) (hln : 0 ≤ (k.wy t.s).ln ∧ (k.wy t.s).ln ≤ 1099511627776) (hd : t.f.data.size ≤ 140737488355328) (hpd : t.f.ty = 0 → Fm.hasF t.f.fl 8 = true → 0 ≤ t.f.pad ∧ t.f.pad ≤ 255) (hpg : (k.wy t.s).pg.length ≤ 1099511627776) (ha : okW (k.wy t.s).ac) (ht : ∀ x ∈ (k.wy t.s).wt, okW x) (h0 : Std w0) (hp : In EP w0 t.p e.ps) (hty : t.f.ty = 8) : Calls Tryz.prog 32 #[.agg (tnv t)] w fun r w' => r = .returned (.int .i64 (k.byType e).2) ∧ ∃ A', A'.g = A.g ∧ (∀ u, (A'.w u).g = (A.w u).g) ∧ LJ w0 w' A' (k.byType e).1 (m + 3) := by
  obtain ⟨R, hR⟩ : ∃ R, k.byType e = R := ⟨_, rfl⟩
  have HC : Hid (∀ V, LJ w0 V A k m → Calls Tryz.prog 46 #[.agg (tnv t)] V fun r w' => r = .returned (.int .i64 (R).2) ∧ ∃ A', A'.g = A.g ∧ (∀ u, (A'.w u).g = (A.w u).g) ∧ LJ w0 w' A' (R).1 (m + 3)) := fun V hV => by
    rw [← hR]
    unfold Lk.byType
    rw [if_neg (by rw [← hf, hty]; decide), if_neg (by rw [← hf, hty]; decide), if_neg (by rw [← hf, hty]; decide), if_neg (by rw [← hf, hty]; decide), if_neg (by rw [← hf, hty]; decide), if_neg (by rw [← hf, hty]; decide), if_neg (by rw [← hf, hty]; decide), if_neg (by rw [← hf, hty]; decide), if_pos (by rw [← hf, hty])]
    exact update_any t e w0 V A k m hV hv hf hs hg hw hb hi hm
  rw [hR]
  obtain ⟨W1, hW1⟩ : ∃ V, w.alloc (.cells (tnv t) 78) = V := ⟨_, rfl⟩
  obtain ⟨b0, hb'⟩ : ∃ q, w.heap.size = q := ⟨_, rfl⟩
  have b1 : Below w.heap.size w W1 := by rw [← hW1]; exact bel1 _ _
  have hb0 : W1.heap[b0]? = some (.cells (tnv t) 78 (0, 0)) := by rw [← hW1, ← hb', heap_al, if_pos rfl]
  have HL0 : Hid (LJ w0 W1 A k m ∧ W1.heap[b0]? = some (.cells (tnv t) 78 (0, 0))) := ⟨h.below b1, hb0⟩
  have j0 := cell_blk hb0 0
  have j1 := cell_blk hb0 1
  have j2 := cell_blk hb0 2
  have j3 := cell_blk hb0 3
  have j4 := cell_blk hb0 4
  have j5 := cell_blk hb0 5
  have j6 := cell_blk hb0 6
  have j7 := cell_blk hb0 7
  have j8 := cell_blk hb0 8
  have j9 := cell_blk hb0 9
  have j10 := cell_blk hb0 10
  have j11 := cell_blk hb0 11
  have j12 := cell_blk hb0 12
  have j13 := cell_blk hb0 13
  have j14 := cell_blk hb0 14
  clear h hv hw hb hi hla hm hln hd hpd hpg ha ht h0 hp b1 hb0 hf hs hR
  obtain ⟨lk, ⟨ty, fl, st, da, pa, de, ex, wt, co, la⟩, p, s, wa, bk⟩ := t
  simp only at hg hty
  subst hg hty
  simp only [tnv] at hW1 HL0 HC j0 j1 j2 j3 j4 j5 j6 j7 j8 j9 j10 j11 j12 j13 j14 ⊢
  simp only [List.getElem?_toArray, List.getElem?_cons_succ, List.getElem?_cons_zero] at j0 j1 j2 j3 j4 j5 j6 j7 j8 j9 j10 j11 j12 j13 j14
  go_enter Tryz.func32, Tryz.ntmps32
  go_wp2_with fail
  try rw [hW1]
  try rw [hb']
  clear hW1 hb'
  go_wp2_with fail
  go_at_call 46
  refine (HC.out _ HL0.out.1).mono ?_
  rintro e' V1 ⟨rfl, A1, a1, a2, a3⟩
  have HE := hid (And.intro a1 (And.intro a2 a3))
  clear a1 a2 a3 j0 j1 j2 j3 j4 j5 j6 j7 j8 j9 j10 j11 j12 j13 j14
  go_wp2_with fail
  go_ret
  exact ⟨rfl, A1, HE.out.1, (by first | exact HE.out.2.1 | exact ⟨HE.out.2.1 _, HE.out.2.1 _⟩), HE.out.2.2⟩
set_option maxRecDepth 100000 in
set_option maxHeartbeats 40000000 in
theorem byType_7 (t : Tn) (e : Et) (w0 w : World) (A : LA) (k : Lk) (m : Nat) (h : LJ w0 w A k m) (hv : Lv k) (hf : t.f = e.f) (hs : t.s = e.s) (hg : t.lk = A.g) (hw : t.wa = (A.w t.s).g) (hb : t.bk = (A.w (!t.s)).g) (hi : I64 t.f.st) (hla : I64 t.f.last) (hm : m + 2 < maxLen) (hln : 0 ≤ (k.wy t.s).ln ∧ (k.wy t.s).ln ≤ 1099511627776) (hd : t.f.data.size ≤ 140737488355328) (hpd : t.f.ty = 0 → Fm.hasF t.f.fl 8 = true → 0 ≤ t.f.pad ∧ t.f.pad ≤ 255) (hpg : (k.wy t.s).pg.length ≤ 1099511627776) (ha : okW (k.wy t.s).ac) (ht : ∀ x ∈ (k.wy t.s).wt, okW x) (h0 : Std w0) (hp : In EP w0 t.p e.ps) (hty : t.f.ty = 7) : Calls Tryz.prog 32 #[.agg (tnv t)] w fun r w' => r = .returned (.int .i64 (k.byType e).2) ∧ ∃ A', A'.g = A.g ∧ (∀ u, (A'.w u).g = (A.w u).g) ∧ LJ w0 w' A' (k.byType e).1 (m + 3) := by
  obtain ⟨R, hR⟩ : ∃ R, k.byType e = R := ⟨_, rfl⟩
  have HQ : Hid (R = (k.upd t.s fun y => { y with ga := true }, 0)) := by
    show _ = _
    rw [← hR]
    unfold Lk.byType
    rw [if_neg (by rw [← hf, hty]; decide), if_neg (by rw [← hf, hty]; decide), if_neg (by rw [← hf, hty]; decide), if_neg (by rw [← hf, hty]; decide), if_neg (by rw [← hf, hty]; decide), if_neg (by rw [← hf, hty]; decide), if_neg (by rw [← hf, hty]; decide), if_pos (by rw [← hf, hty])]
    rw [hs]
  rw [hR]
  obtain ⟨W1, hW1⟩ : ∃ V, w.alloc (.cells (tnv t) 78) = V := ⟨_, rfl⟩
  obtain ⟨b0, hb'⟩ : ∃ q, w.heap.size = q := ⟨_, rfl⟩
  have b1 : Below w.heap.size w W1 := by rw [← hW1]; exact bel1 _ _
  have hb0 : W1.heap[b0]? = some (.cells (tnv t) 78 (0, 0)) := by rw [← hW1, ← hb', heap_al, if_pos rfl]
  have HL0 : Hid (LJ w0 W1 A k m ∧ W1.heap[b0]? = some (.cells (tnv t) 78 (0, 0))) := ⟨h.below b1, hb0⟩
  have j0 := cell_blk hb0 0
  have j1 := cell_blk hb0 1
  have j2 := cell_blk hb0 2
  have j3 := cell_blk hb0 3
  have j4 := cell_blk hb0 4
  have j5 := cell_blk hb0 5
  have j6 := cell_blk hb0 6
  have j7 := cell_blk hb0 7
  have j8 := cell_blk hb0 8
  have j9 := cell_blk hb0 9
  have j10 := cell_blk hb0 10
  have j11 := cell_blk hb0 11
  have j12 := cell_blk hb0 12
  have j13 := cell_blk hb0 13
  have j14 := cell_blk hb0 14
  have HZ : Hid (∀ V, LJ w0 V A k m → LJ w0 (V.setCell ⟨t.wa, 1, none⟩ (.bool true)) A (k.upd t.s fun y => { y with ga := true }) m) := fun V hV => by
    rw [hw]
    exact hV.ga t.s
  have y1 : W1.cell? ⟨t.wa, 1, none⟩ = some (.bool (k.wy t.s).ga) := by rw [hw]; exact (HL0.out.1.wi t.s).cells.2.1
  have y2 : W1.frozen? ⟨t.wa, 1, none⟩ = false := by rw [hw]; exact frozen_blk (HL0.out.1.wi t.s).blk 1
  obtain ⟨g0, hg0⟩ : ∃ v, (k.wy t.s).ga = v := ⟨_, rfl⟩
  rw [hg0] at y1
  clear hg0
  clear h hv hw hb hi hla hm hln hd hpd hpg ha ht h0 hp b1 hb0 hf hs hR
  obtain ⟨lk, ⟨ty, fl, st, da, pa, de, ex, wt, co, la⟩, p, s, wa, bk⟩ := t
  simp only at hg hty
  subst hg hty
  simp only at y1 y2 HZ HQ
  simp only [tnv] at hW1 HL0 j0 j1 j2 j3 j4 j5 j6 j7 j8 j9 j10 j11 j12 j13 j14 ⊢
  simp only [List.getElem?_toArray, List.getElem?_cons_succ, List.getElem?_cons_zero] at j0 j1 j2 j3 j4 j5 j6 j7 j8 j9 j10 j11 j12 j13 j14
  go_enter Tryz.func32, Tryz.ntmps32
  go_wp2_with fail
  try rw [hW1]
  try rw [hb']
  clear hW1 hb'
  go_wp2_with fail
  try go_region
  all_goals
    go_wp2_with fail
    go_ret
    exact ⟨by rw [HQ.out]; rfl, A, rfl, (by first | exact fun u => rfl | exact ⟨rfl, rfl⟩), by rw [HQ.out]; first | exact (HZ.out _ HL0.out.1).more (by omega) | exact (HZ.out _ HL0.out.1.dr).more (by omega)⟩
set_option maxRecDepth 100000 in
set_option maxHeartbeats 40000000 in
theorem byType_2 (t : Tn) (e : Et) (w0 w : World) (A : LA) (k : Lk) (m : Nat) (h : LJ w0 w A k m) (hv : Lv k) (hf : t.f = e.f) (hs : t.s = e.s) (hg : t.lk = A.g) (hw : t.wa = (A.w t.s).g) (hb : t.bk = (A.w (!t.s)).g) (hi : I64 t.f.st) (hla : I64 t.f.last) (hm : m + 2 < maxLen) (hln : 0 ≤ (k.wy t.s).ln ∧ (k.wy t.s).ln ≤ 1099511627776) (hd : t.f.data.size ≤ 140737488355328) (hpd : t.f.ty = 0 → Fm.hasF t.f.fl 8 = true → 0 ≤ t.f.pad ∧ t.f.pad ≤ 255) (hpg : (k.wy t.s).pg.length ≤ 1099511627776) (ha : okW (k.wy t.s).ac) (ht : ∀ x ∈ (k.wy t.s).wt, okW x) (h0 : Std w0) (hp : In EP w0 t.p e.ps) (hty : t.f.ty = 2) : Calls Tryz.prog 32 #[.agg (tnv t)] w fun r w' => r = .returned (.int .i64 (k.byType e).2) ∧ ∃ A', A'.g = A.g ∧ (∀ u, (A'.w u).g = (A.w u).g) ∧ LJ w0 w' A' (k.byType e).1 (m + 3) := by
  obtain ⟨R, hR⟩ : ∃ R, k.byType e = R := ⟨_, rfl⟩
  obtain ⟨⟨k1, c1, i1⟩, hH⟩ : ∃ H, k.happen t.s t.f.st 8 = H := ⟨_, rfl⟩
  have HQ : Hid (R = (k1, c1)) := by
    show _ = _
    rw [← hR]
    unfold Lk.byType
    rw [if_neg (by rw [← hf, hty]; decide), if_neg (by rw [← hf, hty]; decide), if_neg (by rw [← hf, hty]; decide), if_neg (by rw [← hf, hty]; decide), if_neg (by rw [← hf, hty]; decide), if_neg (by rw [← hf, hty]; decide), if_neg (by rw [← hf, hty]; decide), if_neg (by rw [← hf, hty]; decide), if_neg (by rw [← hf, hty]; decide), if_pos (by rw [← hf, hty])]
    rw [← hf, ← hs, hH]
  have HHp : Hid (∀ V, LJ w0 V A k m → Calls Tryz.prog 47 #[.agg (tnv t), .int .i64 t.f.st, .int .i64 8] V fun e w' => e = .returned (.tuple #[.int .i64 c1, .bool i1]) ∧ ∃ A', A'.g = A.g ∧ (∀ u, (A'.w u).g = (A.w u).g) ∧ LJ w0 w' A' k1 (m + 2) ∧ KpO V w') := fun V hV => by
    have := happen_any t t.f.st 8 w0 V A k m hV hv hg hw hb hi (by omega)
    rw [hH] at this
    exact this
  rw [hR]
  clear hH
  obtain ⟨W1, hW1⟩ : ∃ V, w.alloc (.cells (tnv t) 78) = V := ⟨_, rfl⟩
  obtain ⟨b0, hb'⟩ : ∃ q, w.heap.size = q := ⟨_, rfl⟩
  have b1 : Below w.heap.size w W1 := by rw [← hW1]; exact bel1 _ _
  have hb0 : W1.heap[b0]? = some (.cells (tnv t) 78 (0, 0)) := by rw [← hW1, ← hb', heap_al, if_pos rfl]
  have HL0 : Hid (LJ w0 W1 A k m ∧ W1.heap[b0]? = some (.cells (tnv t) 78 (0, 0))) := ⟨h.below b1, hb0⟩
  have j0 := cell_blk hb0 0
  have j1 := cell_blk hb0 1
  have j2 := cell_blk hb0 2
  have j3 := cell_blk hb0 3
  have j4 := cell_blk hb0 4
  have j5 := cell_blk hb0 5
  have j6 := cell_blk hb0 6
  have j7 := cell_blk hb0 7
  have j8 := cell_blk hb0 8
  have j9 := cell_blk hb0 9
  have j10 := cell_blk hb0 10
  have j11 := cell_blk hb0 11
  have j12 := cell_blk hb0 12
  have j13 := cell_blk hb0 13
  have j14 := cell_blk hb0 14
  clear h hv hw hb hi hla hm hln hd hpd hpg ha ht h0 hp b1 hb0 hf hs hR
  obtain ⟨lk, ⟨ty, fl, st, da, pa, de, ex, wt, co, la⟩, p, s, wa, bk⟩ := t
  simp only at hg hty
  subst hg hty
  simp only at HHp
  simp only [tnv] at hW1 HL0 HHp j0 j1 j2 j3 j4 j5 j6 j7 j8 j9 j10 j11 j12 j13 j14 ⊢
  simp only [List.getElem?_toArray, List.getElem?_cons_succ, List.getElem?_cons_zero] at j0 j1 j2 j3 j4 j5 j6 j7 j8 j9 j10 j11 j12 j13 j14
  go_enter Tryz.func32, Tryz.ntmps32
  go_wp2_with fail
  try rw [hW1]
  try rw [hb']
  clear hW1 hb'
  go_wp2_with fail
  go_at_call 47
  refine (HHp.out _ HL0.out.1).mono ?_
  rintro e' V1 ⟨rfl, A1, a1, a2, a3, _⟩
  have HE := hid (And.intro a1 (And.intro a2 a3))
  clear a1 a2 a3 j0 j1 j2 j3 j4 j5 j6 j7 j8 j9 j10 j11 j12 j13 j14
  go_wp2_with fail
  go_ret
  exact ⟨by rw [HQ.out]; rfl, A1, HE.out.1, (by first | exact HE.out.2.1 | exact ⟨HE.out.2.1 _, HE.out.2.1 _⟩), by rw [HQ.out]; exact HE.out.2.2.more (by omega)⟩
set_option maxRecDepth 100000 in
set_option maxHeartbeats 40000000 in
theorem byType_no (t : Tn) (e : Et) (w0 w : World) (A : LA) (k : Lk) (m : Nat) (h : LJ w0 w A k m) (hv : Lv k) (hf : t.f = e.f) (hs : t.s = e.s) (hg : t.lk = A.g) (hw : t.wa = (A.w t.s).g) (hb : t.bk = (A.w (!t.s)).g) (hi : I64 t.f.st) (hla : I64 t.f.last) (hm : m + 2 < maxLen) (hln : 0 ≤ (k.wy t.s).ln ∧ (k.wy t.s).ln ≤ 1099511627776) (hd : t.f.data.size ≤ 140737488355328) (hpd : t.f.ty = 0 → Fm.hasF t.f.fl 8 = true → 0 ≤ t.f.pad ∧ t.f.pad ≤ 255) (hpg : (k.wy t.s).pg.length ≤ 1099511627776) (ha : okW (k.wy t.s).ac) (ht : ∀ x ∈ (k.wy t.s).wt, okW x) (h0 : Std w0) (hp : In EP w0 t.p e.ps) (n1 : t.f.ty ≠ 1) (n5 : t.f.ty ≠ 5) (n9 : t.f.ty ≠ 9) (n0 : t.f.ty ≠ 0) (n3 : t.f.ty ≠ 3) (n4 : t.f.ty ≠ 4) (n6 : t.f.ty ≠ 6) (n7 : t.f.ty ≠ 7) (n8 : t.f.ty ≠ 8) (n2 : t.f.ty ≠ 2) : Calls Tryz.prog 32 #[.agg (tnv t)] w fun r w' => r = .returned (.int .i64 (k.byType e).2) ∧ ∃ A', A'.g = A.g ∧ (∀ u, (A'.w u).g = (A.w u).g) ∧ LJ w0 w' A' (k.byType e).1 (m + 3) := by
  obtain ⟨R, hR⟩ : ∃ R, k.byType e = R := ⟨_, rfl⟩
  have HQ : Hid (R = (k, 0)) := by
    show _ = _
    rw [← hR]
    unfold Lk.byType
    rw [← hf, if_neg n1, if_neg n5, if_neg n9, if_neg n0, if_neg n3, if_neg n4, if_neg n6, if_neg n7, if_neg n8, if_neg n2]
  rw [hR]
  have q1 : (t.f.ty == 1) = false := beq_eq_false_iff_ne.2 n1
  have q5 : (t.f.ty == 5) = false := beq_eq_false_iff_ne.2 n5
  have q9 : (t.f.ty == 9) = false := beq_eq_false_iff_ne.2 n9
  have q0 : (t.f.ty == 0) = false := beq_eq_false_iff_ne.2 n0
  have q3 : (t.f.ty == 3) = false := beq_eq_false_iff_ne.2 n3
  have q4 : (t.f.ty == 4) = false := beq_eq_false_iff_ne.2 n4
  have q6 : (t.f.ty == 6) = false := beq_eq_false_iff_ne.2 n6
  have q7 : (t.f.ty == 7) = false := beq_eq_false_iff_ne.2 n7
  have q8 : (t.f.ty == 8) = false := beq_eq_false_iff_ne.2 n8
  have q2 : (t.f.ty == 2) = false := beq_eq_false_iff_ne.2 n2
  obtain ⟨W1, hW1⟩ : ∃ V, w.alloc (.cells (tnv t) 78) = V := ⟨_, rfl⟩
  obtain ⟨b0, hb'⟩ : ∃ q, w.heap.size = q := ⟨_, rfl⟩
  have b1 : Below w.heap.size w W1 := by rw [← hW1]; exact bel1 _ _
  have hb0 : W1.heap[b0]? = some (.cells (tnv t) 78 (0, 0)) := by rw [← hW1, ← hb', heap_al, if_pos rfl]
  have HL0 : Hid (LJ w0 W1 A k m ∧ W1.heap[b0]? = some (.cells (tnv t) 78 (0, 0))) := ⟨h.below b1, hb0⟩
  have j0 := cell_blk hb0 0
  have j1 := cell_blk hb0 1
  have j2 := cell_blk hb0 2
  have j3 := cell_blk hb0 3
  have j4 := cell_blk hb0 4
  have j5 := cell_blk hb0 5
  have j6 := cell_blk hb0 6
  have j7 := cell_blk hb0 7
  have j8 := cell_blk hb0 8
  have j9 := cell_blk hb0 9
  have j10 := cell_blk hb0 10
  have j11 := cell_blk hb0 11
  have j12 := cell_blk hb0 12
  have j13 := cell_blk hb0 13
  have j14 := cell_blk hb0 14
  clear h hv hw hb hi hla hm hln hd hpd hpg ha ht h0 hp b1 hb0 hf hs hR n1 n5 n9 n0 n3 n4 n6 n7 n8 n2
  obtain ⟨lk, ⟨ty, fl, st, da, pa, de, ex, wt, co, la⟩, p, s, wa, bk⟩ := t
  simp only at hg q1 q5 q9 q0 q3 q4 q6 q7 q8 q2
  subst hg
  simp only [tnv] at hW1 HL0 j0 j1 j2 j3 j4 j5 j6 j7 j8 j9 j10 j11 j12 j13 j14 ⊢
  simp only [List.getElem?_toArray, List.getElem?_cons_succ, List.getElem?_cons_zero] at j0 j1 j2 j3 j4 j5 j6 j7 j8 j9 j10 j11 j12 j13 j14
  go_enter Tryz.func32, Tryz.ntmps32
  go_wp2_with fail
  try rw [hW1]
  try rw [hb']
  clear hW1 hb'
  go_wp2_with fail
  go_ret
  exact ⟨by rw [HQ.out]; rfl, A, rfl, (by first | exact fun u => rfl | exact ⟨rfl, rfl⟩), by rw [HQ.out]; exact HL0.out.1.more (by omega)⟩
theorem byType_any (t : Tn) (e : Et) (w0 w : World) (A : LA) (k : Lk) (m : Nat) (h : LJ w0 w A k m) (hv : Lv k) (hf : t.f = e.f) (hs : t.s = e.s) (hg : t.lk = A.g) (hw : t.wa = (A.w t.s).g) (hb : t.bk = (A.w (!t.s)).g) (hi : I64 t.f.st) (hla : I64 t.f.last) (hm : m + 2 < maxLen) (hln : 0 ≤ (k.wy t.s).ln ∧ (k.wy t.s).ln ≤ 1099511627776) (hd : t.f.data.size ≤ 140737488355328) (hpd : t.f.ty = 0 → Fm.hasF t.f.fl 8 = true → 0 ≤ t.f.pad ∧ t.f.pad ≤ 255) (hpg : (k.wy t.s).pg.length ≤ 1099511627776) (ha : okW (k.wy t.s).ac) (ht : ∀ x ∈ (k.wy t.s).wt, okW x) (h0 : Std w0) (hp : In EP w0 t.p e.ps) : Calls Tryz.prog 32 #[.agg (tnv t)] w fun r w' => r = .returned (.int .i64 (k.byType e).2) ∧ ∃ A', A'.g = A.g ∧ (∀ u, (A'.w u).g = (A.w u).g) ∧ LJ w0 w' A' (k.byType e).1 (m + 3) := by
  by_cases n1 : t.f.ty = 1
  · exact byType_1 t e w0 w A k m h hv hf hs hg hw hb hi hla hm hln hd hpd hpg ha ht h0 hp n1
  by_cases n5 : t.f.ty = 5
  · exact byType_5 t e w0 w A k m h hv hf hs hg hw hb hi hla hm hln hd hpd hpg ha ht h0 hp n5
  by_cases n9 : t.f.ty = 9
  · exact byType_9 t e w0 w A k m h hv hf hs hg hw hb hi hla hm hln hd hpd hpg ha ht h0 hp n9
  by_cases n0 : t.f.ty = 0
  · exact byType_0 t e w0 w A k m h hv hf hs hg hw hb hi hla hm hln hd hpd hpg ha ht h0 hp n0
  by_cases n3 : t.f.ty = 3
  · exact byType_3 t e w0 w A k m h hv hf hs hg hw hb hi hla hm hln hd hpd hpg ha ht h0 hp n3
  by_cases n4 : t.f.ty = 4
  · exact byType_4 t e w0 w A k m h hv hf hs hg hw hb hi hla hm hln hd hpd hpg ha ht h0 hp n4
  by_cases n6 : t.f.ty = 6
  · exact byType_6 t e w0 w A k m h hv hf hs hg hw hb hi hla hm hln hd hpd hpg ha ht h0 hp n6
  by_cases n7 : t.f.ty = 7
  · exact byType_7 t e w0 w A k m h hv hf hs hg hw hb hi hla hm hln hd hpd hpg ha ht h0 hp n7
  by_cases n8 : t.f.ty = 8
  · exact byType_8 t e w0 w A k m h hv hf hs hg hw hb hi hla hm hln hd hpd hpg ha ht h0 hp n8
  by_cases n2 : t.f.ty = 2
  · exact byType_2 t e w0 w A k m h hv hf hs hg hw hb hi hla hm hln hd hpd hpg ha ht h0 hp n2
  exact byType_no t e w0 w A k m h hv hf hs hg hw hb hi hla hm hln hd hpd hpg ha ht h0 hp n1 n5 n9 n0 n3 n4 n6 n7 n8 n2
end Go.Proofs.YtfmljlflnpmceaaGreatDoor
