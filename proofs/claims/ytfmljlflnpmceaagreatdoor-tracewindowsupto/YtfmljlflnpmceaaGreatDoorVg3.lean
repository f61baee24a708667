import Derived.Test.YtfmljlflnpmceaaGreatDoorVg2
import Derived.Lib.SliceRun
import Derived.Laws.IdiomCopy
import Derived.Test.YtfmljlflnpmceaaGreatDoorVa
import Derived.Deep.RegionHeld3
import Derived.Deep.Cut
import Derived.Deep.CutRange
import Derived.Lib.MinMax
/- Apply. -/
namespace Go.Proofs.YtfmljlflnpmceaaGreatDoor
open Go.RowKit
set_option linter.unusedVariables false
set_option linter.unusedSimpArgs false

theorem applyS_take_succ (s s' : St) (l : List (Int × Int)) (c : Bool) (k : Nat) (hk : k < l.length) (h : applyS s (l.take k) c = (s', 0)) :
    applyS s (l.take (k + 1)) c = if validS l[k] c = 0 then (withS s' l[k], 0) else (St.zero, validS l[k] c) := by
  rw [List.take_succ_eq_append_getElem hk, applyS_append, h]
  simp only [if_true, applyS]
theorem applyS_stop (s : St) (l : List (Int × Int)) (c : Bool) (k : Nat) (h : (applyS s (l.take k) c).2 ≠ 0) : applyS s l c = applyS s (l.take k) c := by
  conv => lhs; rw [← List.take_append_drop k l, applyS_append, if_neg h]

set_option maxRecDepth 100000 in
set_option maxHeartbeats 4000000 in
theorem apply_any (s : St) (v : Value) (l : List (Int × Int)) (c : Bool) (w : World) (hv : In EP w v l) :
    Calls Tryz.prog 61 #[.agg s.a, v, .bool c] w fun e w' => e = .returned (.tuple #[.agg (applyS s l c).1.a, .int .i64 (applyS s l c).2]) ∧ Below w.heap.size w w' := by
  have HV : Hid (In EP w v l) := hv
  obtain ⟨vb, vc, rfl, hc1, hc2⟩ := hv.slice
  obtain ⟨n, hn⟩ : ∃ n, l.length = n := ⟨_, rfl⟩
  rw [hn] at hc1 HV ⊢
  have HN : Hid (l.length = n) := hn
  clear hn hv
  obtain ⟨s1, s2, s3, s4, s5, s6⟩ := s
  obtain ⟨S0, hS0⟩ : ∃ S0 : St, S0 = ⟨s1, s2, s3, s4, s5, s6⟩ := ⟨_, rfl⟩
  obtain ⟨A, hA⟩ : ∃ A, A = applyS S0 l c := ⟨_, rfl⟩
  have HA : Hid (A = applyS S0 l c) := hA
  have HS0 : Hid (S0 = ⟨s1, s2, s3, s4, s5, s6⟩) := hS0
  rw [← hS0, ← hA]
  rw [hS0]
  clear hA hS0
  unfold St.a
  simp only
  go_enter Tryz.func61, Tryz.ntmps61
  go_wp2
  go_loopw [13] (fun i wr => ∃ k : Nat, k ≤ n ∧ i = .int .i64 (k : Int) ∧ Hid (∃ s', applyS S0 (l.take k) c = (s', 0) ∧ wr.heap[w.heap.size]? = some (.cells s'.a 92 (0, 0)) ∧ wr.heap[w.heap.size + 1]? = some (.cells St.zero.a 92 (0, 0)) ∧ Below w.heap.size w wr)) (fun i _ => n - (intOf i).toNat)
  case atStart =>
    refine ⟨0, Nat.zero_le _, rfl, S0, rfl, ?_, fresh2 _ _ _, bel2 _ _ _⟩
    rw [heap_al, if_neg (by simp), HS0.out]
    exact heap_alloc_new _ _
  case round =>
    obtain ⟨k, hk, rfl, HP⟩ := hrel
    obtain ⟨s', hs', h3, h6, hB⟩ := HP.out
    have hlen := HN.out
    by_cases hlt : k < n
    · obtain ⟨B, off, cap, hvb, hBl, d1, d2⟩ := (HV.out.below hB).par k (by omega)
      injection hvb with e1 e2 e3
      subst e1
      clear e2 e3
      obtain ⟨x, y, hq⟩ : ∃ x y, l[k]'(by omega) = (x, y) := ⟨_, _, rfl⟩
      rw [hq] at d1 d2
      simp only at d1 d2
      have hstep := applyS_take_succ S0 s' l c k (by omega) hs'
      rw [hq] at hstep
      have hg0 : w.heap.size < wr.heap.size := heap_lt h3
      have hg1 : w.heap.size + 1 < wr.heap.size := heap_lt h6
      have hW1 : Below wr.heap.size wr (wr.alloc (.cells #[.int .i64 x, .int .i64 y] 42)) := bel1 _ _
      have hcall : Calls Tryz.prog 79 #[.agg #[.int .i64 x, .int .i64 y], .bool c] (wr.alloc (.cells #[.int .i64 x, .int .i64 y] 42)) fun e w1 => e = .returned (.int .i64 (validS (x, y) c)) ∧ Hid (w1.heap[w.heap.size]? = some (.cells s'.a 92 (0, 0)) ∧ w1.heap[w.heap.size + 1]? = some (.cells St.zero.a 92 (0, 0)) ∧ Below w.heap.size w w1) ∧ w1.cell? ⟨wr.heap.size, 0, none⟩ = some (.int .i64 x) ∧ w1.cell? ⟨wr.heap.size, 1, none⟩ = some (.int .i64 y) ∧ C6 w1 w.heap.size s' ∧ F6 w1 w.heap.size ∧ C6 w1 (w.heap.size + 1) St.zero ∧ F6 w1 (w.heap.size + 1) ∧ w.heap.size < w1.heap.size ∧ w.heap.size + 1 < w1.heap.size ∧ wr.heap.size < w1.heap.size := by
        refine (valid_any x y c _).mono ?_
        rintro e w1 ⟨rfl, hb⟩
        have k3 : w1.heap[w.heap.size]? = some (.cells s'.a 92 (0, 0)) := (hb.block _ (by rw [size_al]; omega)).trans ((hW1.block _ hg0).trans h3)
        have k6 : w1.heap[w.heap.size + 1]? = some (.cells St.zero.a 92 (0, 0)) := (hb.block _ (by rw [size_al]; omega)).trans ((hW1.block _ hg1).trans h6)
        have k9 : w1.heap[wr.heap.size]? = some (.cells #[.int .i64 x, .int .i64 y] 42 (0, 0)) := (hb.block _ (by rw [size_al]; omega)).trans (heap_alloc_new _ _)
        exact ⟨rfl, ⟨k3, k6, hB.trans ((hW1.mono hB.size).trans (hb.mono (by rw [size_al]; omega)))⟩, cell_blk k9 0, cell_blk k9 1, c6 k3, f6 k3, c6 k6, f6 k6, heap_lt k3, heap_lt k6, heap_lt k9⟩
      have hlti : (k : Int) < (n : Int) := by omega
      have hlts : w.heap.size ≠ w.heap.size + 1 := by omega
      by_cases hz : validS (x, y) c = 0
      · rw [hz] at hcall
        rw [if_pos hz] at hstep
        have HS : Hid _ := hstep
        obtain ⟨r1, r2, r3, r4, r5, r6⟩ : St := s'
        obtain ⟨q, hqq⟩ : ∃ q, withS ⟨r1, r2, r3, r4, r5, r6⟩ (x, y) = q := ⟨_, rfl⟩
        rw [hqq] at HS
        obtain ⟨q1, q2, q3, q4, q5, q6⟩ := q
        have hwith : ∀ w1 : World, Hid (w1.heap[w.heap.size]? = some (.cells (St.mk r1 r2 r3 r4 r5 r6).a 92 (0, 0)) ∧ w1.heap[w.heap.size + 1]? = some (.cells St.zero.a 92 (0, 0)) ∧ Below w.heap.size w w1) → Calls Tryz.prog 80 #[.agg (St.mk r1 r2 r3 r4 r5 r6).a, .agg #[.int .i64 x, .int .i64 y]] w1 fun e w2 => e = .returned (.agg (St.mk q1 q2 q3 q4 q5 q6).a) ∧ C6 w2 w.heap.size ⟨r1, r2, r3, r4, r5, r6⟩ ∧ F6 w2 w.heap.size ∧ Hid (∃ s', applyS S0 (l.take (k + 1)) c = (s', 0) ∧ (set6 w2 w.heap.size ⟨q1, q2, q3, q4, q5, q6⟩).heap[w.heap.size]? = some (.cells s'.a 92 (0, 0)) ∧ (set6 w2 w.heap.size ⟨q1, q2, q3, q4, q5, q6⟩).heap[w.heap.size + 1]? = some (.cells St.zero.a 92 (0, 0)) ∧ Below w.heap.size w (set6 w2 w.heap.size ⟨q1, q2, q3, q4, q5, q6⟩)) := by
          intro w1 h
          obtain ⟨k3, k6, kB⟩ := h.out
          refine (with_any ⟨r1, r2, r3, r4, r5, r6⟩ x y w1).mono ?_
          rintro e w2 ⟨rfl, rfl⟩
          rw [hqq]
          generalize hw2 : ((w1.alloc (.cells (St.mk q1 q2 q3 q4 q5 q6).a 92)).alloc (.cells #[.int .i64 x, .int .i64 y] 42)).alloc (.cells (St.mk q1 q2 q3 q4 q5 q6).a 92) = w2
          have hb3 : Below w1.heap.size w1 w2 := by rw [← hw2]; exact bel3 _ _ _ _
          have k3' := (hb3.block _ (heap_lt k3)).trans k3
          have k6' := (hb3.block _ (heap_lt k6)).trans k6
          refine ⟨rfl, c6 k3', f6 k3', _, HS.out, set6_blk _ k3', (set6_other _ _ _ _ (by omega)).trans k6', ?_⟩
          exact kB.trans ((hb3.mono kB.size).trans ((set6_ks _ _ _).below (Nat.le_trans kB.size hb3.size) (fun i hi => by omega)))
        simp only [set6, St.a] at hwith
        clear hstep hqq hz h3 h6 hB hs' HP hW1 HS hq hlen
        go_wp2_with (first | (go_at_call 79; refine hcall.mono ?_; rintro e w1 ⟨rfl, HH, m0, m1, ⟨a0, a1, a2, a3, a4, a5⟩, ⟨f0, f1, f2, f3, f4, f5⟩, ⟨b0, b1, b2, b3, b4, b5⟩, ⟨g0, g1, g2, g3, g4, g5⟩, hl0, hl1, hl2⟩; simp only at a0 a1 a2 a3 a4 a5; replace hwith := hwith _ HH) | (go_at_call 80; refine hwith.mono ?_; rintro e w2 ⟨rfl, ⟨A0, A1, A2, A3, A4, A5⟩, ⟨F0, F1, F2, F3, F4, F5⟩, hfin⟩; simp only at A0 A1 A2 A3 A4 A5))
        go_roundw
        case rel => exact ⟨k + 1, by omega, by simp, hfin⟩
        case measure => simp [intOf]; omega
      · rw [if_neg hz] at hstep
        obtain ⟨V, hV⟩ : ∃ V, validS (x, y) c = V := ⟨_, rfl⟩
        rw [hV] at hcall hz hstep
        have hA2 : Hid (applyS S0 l c = (St.zero, V)) := by
          rw [applyS_stop S0 l c (k + 1) (by rw [hstep]; exact hz), hstep]
          trivial
        have hfin : ∀ w1 : World, Hid (w1.heap[w.heap.size]? = some (.cells s'.a 92 (0, 0)) ∧ w1.heap[w.heap.size + 1]? = some (.cells St.zero.a 92 (0, 0)) ∧ Below w.heap.size w w1) → Hid ((set6 w1 (w.heap.size + 1) St.zero).heap[w.heap.size + 1]? = some (.cells St.zero.a 92 (0, 0)) ∧ Below w.heap.size w (set6 w1 (w.heap.size + 1) St.zero)) := by
          intro w1 h
          obtain ⟨k3, k6, kB⟩ := h.out
          exact ⟨set6_blk _ k6, kB.trans ((set6_ks w1 _ _).below kB.size (fun i hi => by omega))⟩
        have hE : Hid (Value.tuple #[.agg #[.int .i64 0, .int .i64 0, .int .i64 0, .int .i64 0, .int .i64 0, .int .i64 0], .int .i64 V] = Value.tuple #[.agg #[.int .i64 A.1.tab, .int .i64 A.1.psh, .int .i64 A.1.str, .int .i64 A.1.win, .int .i64 A.1.frm, .int .i64 A.1.lst], .int .i64 A.2]) := by
          have e : A = (St.zero, V) := HA.out.trans hA2.out
          rw [e]
          exact rfl
        simp only [set6, St.a, St.zero] at hfin
        have hvn : (V != 0) = true := by simpa using hz
        clear hstep hz h3 h6 hB hs' HP hW1 hq hV hlen
        go_wp2_with (first | (go_at_call 79; refine hcall.mono ?_; rintro e w1 ⟨rfl, HH, m0, m1, ⟨a0, a1, a2, a3, a4, a5⟩, ⟨f0, f1, f2, f3, f4, f5⟩, ⟨b0, b1, b2, b3, b4, b5⟩, ⟨g0, g1, g2, g3, g4, g5⟩, hl0, hl1, hl2⟩))
        have H6 := (hfin _ HH).out
        refine bodyPost_ret (results_ctg (p := 6) (r := 7) (ty := 92) rfl _ _ (w.heap.size + 1) 92 _ (0, 0) _ rfl H6.1 Tryz.underlying92 rfl (by kernel_rfl)) rfl ⟨?_, H6.2⟩
        exact congrArg Ending.returned hE.out
    · have hkn : k = n := by omega
      subst hkn
      have hfin : Hid (applyS S0 l c = (s', 0)) := by
        rw [List.take_of_length_le (by omega)] at hs'
        exact hs'
      have hL : w.heap.size + 1 < wr.heap.size := heap_lt h6
      have hL0 : w.heap.size < wr.heap.size := by omega
      obtain ⟨x1, x2, x3, x4, x5, x6⟩ := s'
      obtain ⟨a0, a1, a2, a3, a4, a5⟩ := c6 h3
      obtain ⟨b0, b1, b2, b3, b4, b5⟩ := c6 h6
      obtain ⟨f0, f1, f2, f3, f4, f5⟩ := f6 h6
      simp only at a0 a1 a2 a3 a4 a5
      have H6 : Hid ((set6 wr (w.heap.size + 1) ⟨x1, x2, x3, x4, x5, x6⟩).heap[w.heap.size + 1]? = some (.cells (St.mk x1 x2 x3 x4 x5 x6).a 92 (0, 0)) ∧ Below w.heap.size w (set6 wr (w.heap.size + 1) ⟨x1, x2, x3, x4, x5, x6⟩)) :=
        ⟨set6_blk _ h6, hB.trans ((set6_ks wr _ _).below hB.size (fun i hi => by omega))⟩
      simp only [set6, St.a] at H6
      have hE : Hid (Value.tuple #[.agg #[.int .i64 x1, .int .i64 x2, .int .i64 x3, .int .i64 x4, .int .i64 x5, .int .i64 x6], .int .i64 0] = Value.tuple #[.agg #[.int .i64 A.1.tab, .int .i64 A.1.psh, .int .i64 A.1.str, .int .i64 A.1.win, .int .i64 A.1.frm, .int .i64 A.1.lst], .int .i64 A.2]) := by
        have e : A = (⟨x1, x2, x3, x4, x5, x6⟩, 0) := HA.out.trans hfin.out
        rw [e]
        exact rfl
      clear h3 h6 hB hs' HP
      go_wp2
      refine bodyPost_ret (results_ctg (p := 6) (r := 7) (ty := 92) rfl _ _ (w.heap.size + 1) 92 _ (0, 0) _ rfl H6.out.1 Tryz.underlying92 rfl (by kernel_rfl)) rfl ⟨?_, H6.out.2⟩
      exact congrArg Ending.returned hE.out
end Go.Proofs.YtfmljlflnpmceaaGreatDoor
/- A book in memory; NewBook, Acked, Waiting, last. -/
namespace Go.Proofs.YtfmljlflnpmceaaGreatDoor
open Go.RowKit
set_option linter.unusedVariables false
set_option linter.unusedSimpArgs false

/-- the cells of a book -/
def bcs (c : Bool) (s : St) (v : Value) : Array Value := #[.bool c, .int .i64 s.tab, .int .i64 s.psh, .int .i64 s.str, .int .i64 s.win, .int .i64 s.frm, .int .i64 s.lst, v]
/-- Block b is a book: its kind, what is acknowledged, the sets that wait. -/
structure Bk (w : World) (b : Nat) (c : Bool) (s : St) (v : Value) (L : List St) : Prop where
  blk : w.heap[b]? = some (.cells (bcs c s v) 101 (0, 0))
  row : R ES w v L
  len : L.length ≤ 64
theorem Bk.lt {w : World} {b : Nat} {c : Bool} {s : St} {v : Value} {L : List St} (h : Bk w b c s v L) : b < w.heap.size := heap_lt h.blk
theorem Bk.ne {w : World} {b : Nat} {c : Bool} {s : St} {v : Value} {L : List St} (h : Bk w b c s v L) : v.ownBlock ≠ some b := fun e => by
  obtain ⟨cs, hc⟩ := h.row.ty b e
  rw [h.blk] at hc
  simp [ES] at hc
/-- what a book's own memory is -/
def Own (b : Nat) (v : Value) (k : Nat) : Prop := k = b ∨ v.ownBlock = some k
theorem Bk.keep {A : Nat → Prop} {w w' : World} {b : Nat} {c : Bool} {s : St} {v : Value} {L : List St} (h : Bk w b c s v L) (hk : Ks A w w') (ho : ∀ k, Own b v k → ¬ A k) : Bk w' b c s v L :=
  ⟨(hk.block b h.lt (ho b (.inl rfl))).trans h.blk, h.row.stays fun k e hl => hk.block k hl (ho k (.inr e)), h.len⟩
theorem Bk.below {w w' : World} {b : Nat} {c : Bool} {s : St} {v : Value} {L : List St} (h : Bk w b c s v L) (hb : Below w.heap.size w w') : Bk w' b c s v L :=
  ⟨(hb.block b h.lt).trans h.blk, h.row.below hb, h.len⟩
structure Bc (w : World) (b : Nat) (c : Bool) (s : St) (v : Value) : Prop where
  c0 : w.cell? ⟨b, 0, none⟩ = some (.bool c)
  c1 : w.cell? ⟨b, 1, none⟩ = some (.int .i64 s.tab)
  c2 : w.cell? ⟨b, 2, none⟩ = some (.int .i64 s.psh)
  c3 : w.cell? ⟨b, 3, none⟩ = some (.int .i64 s.str)
  c4 : w.cell? ⟨b, 4, none⟩ = some (.int .i64 s.win)
  c5 : w.cell? ⟨b, 5, none⟩ = some (.int .i64 s.frm)
  c6 : w.cell? ⟨b, 6, none⟩ = some (.int .i64 s.lst)
  c7 : w.cell? ⟨b, 7, none⟩ = some v
theorem Bk.cells {w : World} {b : Nat} {c : Bool} {s : St} {v : Value} {L : List St} (h : Bk w b c s v L) : Bc w b c s v :=
  ⟨cell_blk h.blk 0, cell_blk h.blk 1, cell_blk h.blk 2, cell_blk h.blk 3, cell_blk h.blk 4, cell_blk h.blk 5, cell_blk h.blk 6, cell_blk h.blk 7⟩
theorem Bk.frozen {w : World} {b : Nat} {c : Bool} {s : St} {v : Value} {L : List St} (h : Bk w b c s v L) (i : Nat) : w.frozen? ⟨b, i, none⟩ = false := frozen_blk h.blk i

def lastS (s : St) (L : List St) : St := L.getLastD s

theorem Std.below {w w' : World} (h : Std w) (hb : Below w.heap.size w w') : Std w' := by
  obtain ⟨t, h⟩ := h
  exact ⟨t, (hb.block 0 (heap_lt h)).trans h⟩
theorem Std.lt {w : World} (h : Std w) : 0 < w.heap.size := by
  obtain ⟨t, h⟩ := h
  exact heap_lt h
theorem dflt {w : World} (h : Std w) : Calls Tryz.prog 48 #[] w fun e w' => e = .returned (.agg St.dfl.a) ∧ w' = w.alloc (.cells St.dfl.a 92) := by
  obtain ⟨t, h⟩ := h
  exact default_any w t h

set_option maxRecDepth 100000 in
set_option maxHeartbeats 1000000 in
theorem bnew_any (c : Bool) (w : World) (h : Std w) :
    Calls Tryz.prog 34 #[.bool c] w fun e w' => ∃ b, e = .returned (.pointer (some ⟨b, 0, none⟩)) ∧ Bk w' b c St.dfl (.slice none 0 0) [] ∧ w.heap.size ≤ b ∧ Below w.heap.size w w' := by
  have hd := fun W (hW : Std W) => dflt hW
  simp only [St.a, St.dfl] at hd
  go_enter Tryz.func34, Tryz.ntmps34
  go_wp2_with (go_at_call 48; refine (hd _ h).mono ?_; rintro e w' ⟨rfl, rfl⟩)
  go_ret
  refine ⟨_, rfl, ⟨fresh2 _ _ _, R.nil _ _, by simp⟩, by omega, bel2 _ _ _⟩

set_option maxRecDepth 100000 in
set_option maxHeartbeats 1000000 in
theorem acked_any (w : World) (b : Nat) (c : Bool) (s : St) (v : Value) (L : List St) (h : Bk w b c s v L) :
    Calls Tryz.prog 37 #[.pointer (some ⟨b, 0, none⟩)] w fun e w' => e = .returned (.agg s.a) ∧ Below w.heap.size w w' := by
  obtain ⟨c0, c1, c2, c3, c4, c5, c6, c7⟩ := h.cells
  have hl := h.lt
  clear h
  unfold St.a
  go_enter Tryz.func37, Tryz.ntmps37
  go_wp2
  refine bodyPost_ret (results_cell_row (p := 2) (ty := 92) rfl _ _ w.heap.size 92 _ (0, 0) _ rfl (heap_alloc_new _ _) Tryz.underlying92 rfl (by kernel_rfl)) rfl ⟨rfl, bel1 _ _⟩

/-- the cells of the set with number k -/
theorem In.set {w : World} {v : Value} {l : List St} (h : In ES w v l) (k : Nat) (hk : k < l.length) : ∃ B off cap, v = .slice (some ⟨B, off, none⟩) l.length cap ∧ B < w.heap.size ∧ w.cell? ⟨B, off + k * 6, none⟩ = some (.int .i64 l[k].tab) ∧ w.cell? ⟨B, off + k * 6 + 1, none⟩ = some (.int .i64 l[k].psh) ∧ w.cell? ⟨B, off + k * 6 + 2, none⟩ = some (.int .i64 l[k].str) ∧ w.cell? ⟨B, off + k * 6 + 3, none⟩ = some (.int .i64 l[k].win) ∧ w.cell? ⟨B, off + k * 6 + 4, none⟩ = some (.int .i64 l[k].frm) ∧ w.cell? ⟨B, off + k * 6 + 5, none⟩ = some (.int .i64 l[k].lst) := by
  obtain ⟨B, off, cap, h1, h2, h3⟩ := h.get okS k hk
  exact ⟨B, off, cap, h1, h2, h3 0 _ rfl, h3 1 _ rfl, h3 2 _ rfl, h3 3 _ rfl, h3 4 _ rfl, h3 5 _ rfl⟩
theorem R.zero_off {α : Type} {E : El α} {w : World} {B off n cap : Nat} {l : List α} (h : R E w (.slice (some ⟨B, off, none⟩) n cap) l) : off = 0 ∧ n = l.length ∧ n ≤ cap ∧ cap ≤ 9223372036854775807 := by
  rcases h.2 with ⟨hv, h0⟩ | ⟨g, cap', cur, hv, hb, hg, hn, hm, hs, ht⟩
  · cases hv
  · injection hv with e1 e2 e3
    injection e1 with e1
    injection e1 with e1 e4 e5
    unfold maxLen at hm
    exact ⟨e4, e2, by omega, by omega⟩

set_option maxRecDepth 100000 in
set_option maxHeartbeats 1000000 in
theorem blast_any (w : World) (b : Nat) (c : Bool) (s : St) (v : Value) (L : List St) (h : Bk w b c s v L) :
    Calls Tryz.prog 81 #[.pointer (some ⟨b, 0, none⟩)] w fun e w' => e = .returned (.agg (lastS s L).a) ∧ Below w.heap.size w w' := by
  obtain ⟨c0, c1, c2, c3, c4, c5, c6, c7⟩ := h.cells
  have hl := h.lt
  by_cases hL : L = []
  · subst hL
    obtain ⟨vb, vc, rfl, h1, h2⟩ := h.row.slice
    clear h
    unfold St.a lastS
    simp only [List.getLastD_nil, List.length_nil] at c7 ⊢
    go_enter Tryz.func81, Tryz.ntmps81
    go_wp2
    refine bodyPost_ret (results_cell_row (p := 2) (ty := 92) rfl _ _ w.heap.size 92 _ (0, 0) _ rfl (heap_alloc_new _ _) Tryz.underlying92 rfl (by kernel_rfl)) rfl ⟨rfl, bel1 _ _⟩
  · have hpos : 0 < L.length := List.length_pos_iff.2 hL
    obtain ⟨B, off, cap, hv, hBl, d0, d1, d2, d3, d4, d5⟩ := h.row.isIn.set (L.length - 1) (by omega)
    have hz := h.row
    rw [hv] at hz
    obtain ⟨rfl, _, h1, h2⟩ := hz.zero_off
    have hla : lastS s L = L[L.length - 1]'(by omega) := by
      unfold lastS
      rw [List.getLastD_eq_getLast?, List.getLast?_eq_getElem?, List.getElem?_eq_getElem (by omega)]
      rfl
    rw [hla]
    obtain ⟨x, hx⟩ : ∃ x, L[L.length - 1]'(by omega) = x := ⟨_, rfl⟩
    rw [hx] at d0 d1 d2 d3 d4 d5 ⊢
    subst hv
    have h64 := h.len
    obtain ⟨n, hn⟩ : ∃ n, L.length = n + 1 := ⟨L.length - 1, by omega⟩
    rw [hn] at d0 d1 d2 d3 d4 d5 c7 h1 h64
    simp only [Nat.add_sub_cancel, Nat.zero_add] at d0 d1 d2 d3 d4 d5
    have hs1 : ((n + 1 : Nat) : Int) - 1 = (n : Int) := by omega
    have hne : (((n + 1 : Nat) : Int) == 0) = false := by simp; omega
    have hlt : (n : Int) < ((n + 1 : Nat) : Int) := by omega
    obtain ⟨m, hm⟩ : ∃ m, n + 1 = m := ⟨_, rfl⟩
    rw [hm] at c7 h1 h64 hs1 hne hlt
    clear h hz hla hx hn hpos hL hm
    unfold St.a
    go_enter Tryz.func81, Tryz.ntmps81
    go_wp2
    go_region
    all_goals
      go_wp2
      refine bodyPost_ret (results_cell_row (p := 2) (ty := 92) rfl _ _ w.heap.size 92 _ (0, 0) _ rfl (heap_alloc_new _ _) Tryz.underlying92 rfl (by kernel_rfl)) rfl ⟨rfl, ?_⟩
      first | exact bel1 _ _ | exact (bel1 _ _).drew
end Go.Proofs.YtfmljlflnpmceaaGreatDoor
/- slices.Delete of the first set; Ack. -/
namespace Go.Proofs.YtfmljlflnpmceaaGreatDoor
open Go.RowKit
set_option linter.unusedVariables false
set_option linter.unusedSimpArgs false

def zero6 : List Value := [.int .i64 0, .int .i64 0, .int .i64 0, .int .i64 0, .int .i64 0, .int .i64 0]
theorem zero6_eq : (Builtin.zeroCells #[.int .i64 0, .int .i64 0, .int .i64 0, .int .i64 0, .int .i64 0, .int .i64 0] 1).toList = zero6 := by kernel_rfl

/-- clear of one set of a row -/
theorem run_clear_one (w : World) (g k c ty : Nat) (cur : Array Value) (hg : w.heap[g]? = some (.cells cur 92 (0, 0))) (hfit : k * 6 + 6 ≤ cur.size) :
    (Builtin.clear_ #[99] ty #[.slice (some ⟨g, k * 6, none⟩) 1 c]).run Tryz.prog w =
      .ok (.tuple #[]) (w.setRow g (cur.toList.take (k * 6) ++ zero6 ++ cur.toList.drop (k * 6 + 6)).toArray) := by
  have hst := run_storeCells_at Tryz.prog g (k * 6) 92 zero6 0 cur w hg (by simp [zero6]; omega) (by
    intro u hu
    simp only [zero6, List.mem_cons, List.not_mem_nil, or_false] at hu
    rcases hu with rfl | rfl | rfl | rfl | rfl | rfl <;> rfl)
  simp only [Nat.add_zero, show zero6.length = 6 from rfl] at hst
  simp [Builtin.clear_, run_underlying Tryz.underlying99, Tryz.zeroValue92, Value.cells, zero6_eq, hst]

set_option maxRecDepth 100000 in
theorem run_shift (w : World) (g cap : Nat) (x : St) (T : List St) (A : Addr) (c : Nat) (cur : Array Value) (hg : w.heap[g]? = some (.cells cur 92 (0, 0))) (hc : T.length + 1 ≤ cap) (hcs : cur.size = cap * 6) (ht : cur.toList.take ((T.length + 1) * 6) = ES.cs (x :: T)) (hA : T = [] ∨ A = ⟨g, 6, none⟩) :
    (Builtin.append_ #[99, 99] 99 #[.slice (some ⟨g, 0, none⟩) 0 cap, .slice (some A) T.length c]).run Tryz.prog w = .ok (.slice (some ⟨g, 0, none⟩) T.length cap) (w.setRow g (ES.cs T ++ cur.toList.drop (T.length * 6)).toArray) := by
  obtain ⟨i0, z, hi0, hz0, hz1, hz2, hz3⟩ := info_z okS
  have hcells : ∀ j u, (ES.cs T)[j]? = some u → w.cell? (A.add j) = some u := by
    intro j u hu
    rcases hA with rfl | rfl
    · simp [El.cs] at hu
    · rw [Addr.add_lit, cell_blk hg]
      have hj : j < T.length * 6 := by
        have := (List.getElem?_eq_some_iff.1 hu).1
        rw [okS.length] at this
        exact this
      have e : (ES.cs (x :: T))[6 + j]? = (ES.cs T)[j]? := by
        show (x.a.toList ++ ES.cs T)[6 + j]? = _
        rw [List.getElem?_append_right (by simp [St.a])]
        congr 1
        simp [St.a]
      rw [← Array.getElem?_toList, ← hu, ← e, ← ht, List.getElem?_take, if_pos (by omega)]
  have hr := run_append_room (P := Tryz.prog) w 99 99 92 i0 Tryz.underlying99 hi0 g 0 cap cur hg A T.length c (ES.cs T) (by rw [hz1]; exact okS.length T) hcells (okS.ones T) (by omega) (by
    rw [hcs, okS.length, Nat.zero_mul, Nat.zero_add]
    show T.length * 6 ≤ _
    omega)
  rw [hr]
  simp only [Nat.zero_mul, Nat.zero_add, List.take_zero, List.nil_append, okS.length]
  rfl

set_option maxRecDepth 100000 in
set_option maxHeartbeats 4000000 in
theorem delete_walk (w : World) (g k cap : Nat) (D : Array Value) (hk : k + 1 ≤ cap) (hc : cap ≤ 9223372036854775807)
    (hap : ∀ A : Addr, (k = 0 ∨ A = ⟨g, 6, none⟩) → Hid ((Builtin.append_ #[99, 99] 99 #[.slice (some ⟨g, 0, none⟩) 0 cap, .slice (some A) k (cap - 1)]).run Tryz.prog w.drew = .ok (.slice (some ⟨g, 0, none⟩) k cap) (w.drew.setRow g D)))
    (W2 : World) (hcl : ∀ ty, (Builtin.clear_ #[99] ty #[.slice (some ⟨g, k * 6, none⟩) 1 (cap - k)]).run Tryz.prog (w.drew.setRow g D) = .ok (.tuple #[]) W2) :
    Calls Tryz.prog 110 #[.slice (some ⟨g, 0, none⟩) (k + 1) cap, .int .i64 0, .int .i64 1] w fun e w' => e = .returned (.slice (some ⟨g, 0, none⟩) k cap) ∧ w' = W2 := by
  by_cases h1 : cap = 1
  · subst h1
    obtain rfl : k = 0 := by omega
    have hrun := hap ⟨g, 0, none⟩ (.inl rfl)
    clear hap
    simp only [Nat.sub_self, Nat.zero_mul, Nat.sub_zero, Nat.zero_add] at hrun hcl ⊢
    go_enter Tryz.func110, Tryz.ntmps110
    go_wp2_with fail
    go_region_law (refine step_append_run rfl (.tmp 22) (.tmp 25) 99 99 rfl hrun.out (by simp [Act.eval, Act.put]) (by simp [Act.eval, Act.put]) ?_)
    all_goals
      go_wp2
      go_ret
      exact ⟨rfl, rfl⟩
  · have hrun := hap ⟨g, 6, none⟩ (.inr rfl)
    clear hap
    obtain ⟨n, hn⟩ : ∃ n, k + 1 = n := ⟨_, rfl⟩
    have hnk : n - k = 1 := by omega
    have hnk' : (n : Int) - (k : Int) = 1 := by omega
    have hkn : (k : Int) ≤ (n : Int) := by omega
    have h1n : (1 : Int) ≤ (n : Int) := by omega
    have hnc : (n : Int) ≤ (cap : Int) := by omega
    have hk1 : n - 1 = k := by omega
    have h1c : (1 : Int) ≤ (cap : Int) := by omega
    have hc1 : ¬ (cap - 1 = 0) := by omega
    have hck : ¬ (cap - k = 0) := by omega
    have hck' : ¬ (cap = k) := by omega
    rw [hn] at hk ⊢
    clear hn
    go_enter Tryz.func110, Tryz.ntmps110
    go_wp2_with fail
    go_region_law (refine step_append_run rfl (.tmp 22) (.tmp 25) 99 99 rfl hrun.out (by simp [Act.eval, Act.put]) (by simp [Act.eval, Act.put]) ?_)
    all_goals
      go_wp2
      go_ret
      exact ⟨rfl, rfl⟩

theorem take_shift (cur : Array Value) (cap k : Nat) (X : List Value) (hX : X.length = k * 6) (hk : k + 1 ≤ cap) (hcs : cur.size = cap * 6) :
    let D := (X ++ cur.toList.drop (k * 6)).toArray
    let F := (D.toList.take (k * 6) ++ zero6 ++ D.toList.drop (k * 6 + 6)).toArray
    D.size = cap * 6 ∧ F.size = cap * 6 ∧ F.toList.take (k * 6) = X := by
  intro D F
  have hD : D.size = cap * 6 := by
    show (X ++ cur.toList.drop (k * 6)).toArray.size = _
    simp [hX, hcs]
    omega
  have hDt : D.toList.take (k * 6) = X := by
    show (X ++ cur.toList.drop (k * 6)).take (k * 6) = X
    rw [← hX, List.take_left']
    rfl
  refine ⟨hD, ?_, ?_⟩
  · show (D.toList.take (k * 6) ++ zero6 ++ D.toList.drop (k * 6 + 6)).toArray.size = _
    rw [hDt]
    simp only [List.size_toArray, List.length_append, List.length_drop, Array.length_toList, hD, hX]
    simp only [zero6, List.length_cons, List.length_nil]
    omega
  · show (D.toList.take (k * 6) ++ zero6 ++ D.toList.drop (k * 6 + 6)).take (k * 6) = X
    rw [hDt, List.append_assoc, ← hX, List.take_left']
    rfl

theorem delete_any (w : World) (v : Value) (x : St) (T : List St) (h : R ES w v (x :: T)) :
    Calls Tryz.prog 110 #[v, .int .i64 0, .int .i64 1] w fun e w' => ∃ v', e = .returned v' ∧ R ES w' v' T ∧ v'.ownBlock = v.ownBlock ∧ Ks (fun k => v.ownBlock = some k) w w' := by
  rcases h.2 with ⟨_, h0⟩ | ⟨g, cap, cur, rfl, hb, hg, hn, hm, hs, ht⟩
  · simp at h0
  · have hXl : (ES.cs T).length = T.length * 6 := okS.length T
    simp only [List.length_cons] at hn ht ⊢
    obtain ⟨hD, hF, hFt⟩ := take_shift cur cap T.length (ES.cs T) hXl hn hs
    have hg2 : (w.drew.setRow g (ES.cs T ++ cur.toList.drop (T.length * 6)).toArray).heap[g]? = some (.cells (ES.cs T ++ cur.toList.drop (T.length * 6)).toArray 92 (0, 0)) := setRow_heap _ _ cur _ 92 (0, 0) hg
    refine (delete_walk w g T.length cap _ hn (by unfold maxLen at hm; omega) (fun A hA => run_shift w.drew g cap x T A (cap - 1) cur hg hn hs ht (hA.imp (fun e => List.eq_nil_of_length_eq_zero e) id)) _ (fun ty => run_clear_one _ g T.length (cap - T.length) ty _ hg2 (by rw [hD]; omega))).mono ?_
    rintro e w' ⟨rfl, rfl⟩
    refine ⟨_, rfl, ⟨hXl, .inr ⟨g, cap, _, rfl, hb, setRow_heap _ _ _ _ 92 (0, 0) hg2, by omega, hm, hF, hFt⟩⟩, rfl, ⟨rfl, rfl, rfl, by simp, fun k _ hk => ?_⟩⟩
    rw [setRow_other _ _ _ _ (fun e => hk (by rw [e]; rfl)), setRow_other _ _ _ _ (fun e => hk (by rw [e]; rfl))]
    rfl

/-- the acknowledged set of a book, set anew -/
def setB (w : World) (g : Nat) (s : St) : World :=
  (((((w.setCell ⟨g, 1, none⟩ (.int .i64 s.tab)).setCell ⟨g, 2, none⟩ (.int .i64 s.psh)).setCell ⟨g, 3, none⟩ (.int .i64 s.str)).setCell ⟨g, 4, none⟩ (.int .i64 s.win)).setCell ⟨g, 5, none⟩ (.int .i64 s.frm)).setCell ⟨g, 6, none⟩ (.int .i64 s.lst)
theorem setB_blk {w : World} {g : Nat} {c : Bool} {x : St} {v : Value} {t : TypeId} {fz : Nat × Nat} (s : St) (h : w.heap[g]? = some (.cells (bcs c x v) t fz)) : (setB w g s).heap[g]? = some (.cells (bcs c s v) t fz) := by
  have h1 := setCell_block w g 1 (.int .i64 s.tab) _ t fz h
  have h2 := setCell_block _ g 2 (.int .i64 s.psh) _ t fz h1
  have h3 := setCell_block _ g 3 (.int .i64 s.str) _ t fz h2
  have h4 := setCell_block _ g 4 (.int .i64 s.win) _ t fz h3
  have h5 := setCell_block _ g 5 (.int .i64 s.frm) _ t fz h4
  have h6 := setCell_block _ g 6 (.int .i64 s.lst) _ t fz h5
  simp only [bcs, List.setIfInBounds_toArray, List.set_cons_zero, List.set_cons_succ] at h6
  exact h6
theorem setB_ks (w : World) (g : Nat) (s : St) : Ks (fun k => k = g) w (setB w g s) :=
  ((((((Ks.refl (fun k => k = g) w).set g 1 _ rfl).set g 2 _ rfl).set g 3 _ rfl).set g 4 _ rfl).set g 5 _ rfl).set g 6 _ rfl

set_option maxRecDepth 100000 in
set_option maxHeartbeats 1000000 in
theorem ack_none (w : World) (b : Nat) (c : Bool) (s : St) (v : Value) (h : Bk w b c s v []) :
    Calls Tryz.prog 77 #[.pointer (some ⟨b, 0, none⟩)] w fun e w' => e = .returned (.tuple #[.agg St.zero.a, .bool false]) ∧ Below w.heap.size w w' := by
  obtain ⟨c0, c1, c2, c3, c4, c5, c6, c7⟩ := h.cells
  have hl := h.lt
  obtain ⟨vb, vc, rfl, h1, h2⟩ := h.row.slice
  clear h
  simp only [List.length_nil] at c7
  go_enter Tryz.func77, Tryz.ntmps77
  go_wp2
  refine bodyPost_ret (results_ctg (p := 2) (r := 3) (ty := 92) rfl _ _ w.heap.size 92 St.zero.a (0, 0) _ rfl (heap_alloc_new _ _) Tryz.underlying92 rfl (by kernel_rfl)) rfl ⟨rfl, bel1 _ _⟩

end Go.Proofs.YtfmljlflnpmceaaGreatDoor
/- Ack where one waits. -/
namespace Go.Proofs.YtfmljlflnpmceaaGreatDoor
open Go.RowKit
set_option linter.unusedVariables false
set_option linter.unusedSimpArgs false

set_option maxRecDepth 100000 in
set_option maxHeartbeats 4000000 in
theorem ack_some (w : World) (b : Nat) (c : Bool) (s : St) (v : Value) (x : St) (T : List St) (h : Bk w b c s v (x :: T)) :
    Calls Tryz.prog 77 #[.pointer (some ⟨b, 0, none⟩)] w fun e w' => e = .returned (.tuple #[.agg x.a, .bool true]) ∧ ∃ v', Bk w' b c x v' T ∧ Ks (Own b v) w w' ∧ v'.ownBlock = v.ownBlock := by
  obtain ⟨x1, x2, x3, x4, x5, x6⟩ := x
  obtain ⟨c0, c1, c2, c3, c4, c5, c6, c7⟩ := h.cells
  have f0 := h.frozen 0; have f1 := h.frozen 1; have f2 := h.frozen 2; have f3 := h.frozen 3; have f4 := h.frozen 4; have f5 := h.frozen 5; have f6 := h.frozen 6; have f7 := h.frozen 7
  have hl := h.lt
  have hks := setB_ks w b ⟨x1, x2, x3, x4, x5, x6⟩
  have hsz0 : (setB w b ⟨x1, x2, x3, x4, x5, x6⟩).heap.size = w.heap.size := by simp [setB, World.setCell]
  have hla : Below w.heap.size (setB w b ⟨x1, x2, x3, x4, x5, x6⟩) ((setB w b ⟨x1, x2, x3, x4, x5, x6⟩).alloc (.cells St.zero.a 92)) := by rw [← hsz0]; exact bel1 _ _
  have hne := h.ne
  have hcall : Calls Tryz.prog 110 #[v, .int .i64 0, .int .i64 1] ((setB w b ⟨x1, x2, x3, x4, x5, x6⟩).alloc (.cells St.zero.a 92)) fun e w2 => ∃ vb vl vc, e = .returned (.slice vb vl vc) ∧ w2.cell? ⟨b, 7, none⟩ = some v ∧ w2.frozen? ⟨b, 7, none⟩ = false ∧ b < w2.heap.size ∧ w.heap.size < w2.heap.size ∧ C6 (w2.setCell ⟨b, 7, none⟩ (.slice vb vl vc)) w.heap.size St.zero ∧ F6 (w2.setCell ⟨b, 7, none⟩ (.slice vb vl vc)) w.heap.size ∧ (w2.setCell ⟨b, 7, none⟩ (.slice vb vl vc)).cell? ⟨b, 1, none⟩ = some (.int .i64 x1) ∧ (w2.setCell ⟨b, 7, none⟩ (.slice vb vl vc)).cell? ⟨b, 2, none⟩ = some (.int .i64 x2) ∧ (w2.setCell ⟨b, 7, none⟩ (.slice vb vl vc)).cell? ⟨b, 3, none⟩ = some (.int .i64 x3) ∧ (w2.setCell ⟨b, 7, none⟩ (.slice vb vl vc)).cell? ⟨b, 4, none⟩ = some (.int .i64 x4) ∧ (w2.setCell ⟨b, 7, none⟩ (.slice vb vl vc)).cell? ⟨b, 5, none⟩ = some (.int .i64 x5) ∧ (w2.setCell ⟨b, 7, none⟩ (.slice vb vl vc)).cell? ⟨b, 6, none⟩ = some (.int .i64 x6) ∧ Hid ((set6 (w2.setCell ⟨b, 7, none⟩ (.slice vb vl vc)) w.heap.size ⟨x1, x2, x3, x4, x5, x6⟩).heap[w.heap.size]? = some (.cells (St.mk x1 x2 x3 x4 x5 x6).a 92 (0, 0)) ∧ Bk (set6 (w2.setCell ⟨b, 7, none⟩ (.slice vb vl vc)) w.heap.size ⟨x1, x2, x3, x4, x5, x6⟩) b c ⟨x1, x2, x3, x4, x5, x6⟩ (.slice vb vl vc) T ∧ Ks (Own b v) w (set6 (w2.setCell ⟨b, 7, none⟩ (.slice vb vl vc)) w.heap.size ⟨x1, x2, x3, x4, x5, x6⟩) ∧ (Value.slice vb vl vc).ownBlock = v.ownBlock) := by
    have hrow : R ES ((setB w b ⟨x1, x2, x3, x4, x5, x6⟩).alloc (.cells St.zero.a 92)) v (⟨x1, x2, x3, x4, x5, x6⟩ :: T) := h.row.stays fun k hk hlt => (hla.block k hlt).trans (hks.block k hlt (fun e => hne (e ▸ hk)))
    have hvlt := h.row.lt
    refine (delete_any _ v _ T hrow).mono ?_
    rintro e w2 ⟨v', rfl, hR2, hown, hK2⟩
    obtain ⟨vb, vc, rfl, _, _⟩ := hR2.slice
    have hbsz : ((setB w b ⟨x1, x2, x3, x4, x5, x6⟩).alloc (.cells St.zero.a 92)).heap.size = w.heap.size + 1 := by rw [size_al, hsz0]
    have hblk2 : w2.heap[b]? = some (.cells (bcs c ⟨x1, x2, x3, x4, x5, x6⟩ v) 101 (0, 0)) := (hK2.block b (by rw [hbsz]; omega) hne).trans ((hla.block b hl).trans (setB_blk _ h.blk))
    have hz2 : w2.heap[w.heap.size]? = some (.cells St.zero.a 92 (0, 0)) := (hK2.block _ (by rw [hbsz]; omega) (fun e => by have := hvlt _ e; omega)).trans (by rw [heap_al, if_pos hsz0.symm])
    have hblk3 : (w2.setCell ⟨b, 7, none⟩ (.slice vb T.length vc)).heap[b]? = some (.cells (bcs c ⟨x1, x2, x3, x4, x5, x6⟩ (.slice vb T.length vc)) 101 (0, 0)) := setCell_block _ _ _ _ _ _ _ hblk2
    have hz3 : (w2.setCell ⟨b, 7, none⟩ (.slice vb T.length vc)).heap[w.heap.size]? = some (.cells St.zero.a 92 (0, 0)) := (setCell_other _ _ _ _ _ (by omega)).trans hz2
    have hR3 : R ES (w2.setCell ⟨b, 7, none⟩ (.slice vb T.length vc)) (.slice vb T.length vc) T := hR2.stays fun k hk _ => setCell_other _ _ _ _ _ (fun e => hne (by rw [← hown, hk, e]))
    refine ⟨vb, _, vc, rfl, cell_blk hblk2 7, frozen_blk hblk2 7, heap_lt hblk2, heap_lt hz2, Go.Proofs.YtfmljlflnpmceaaGreatDoor.c6 hz3, Go.Proofs.YtfmljlflnpmceaaGreatDoor.f6 hz3, cell_blk hblk3 1, cell_blk hblk3 2, cell_blk hblk3 3, cell_blk hblk3 4, cell_blk hblk3 5, cell_blk hblk3 6, set6_blk _ hz3, ⟨(set6_other _ _ _ _ (by omega)).trans hblk3, hR3.stays fun k hk _ => set6_other _ _ _ _ (fun e => ?_), by have := h.len; simp at this; omega⟩, ?_, hown⟩
    · rw [hown] at hk
      have := hvlt _ hk
      omega
    · refine ⟨?_, ?_, ?_, ?_, ?_⟩
      · exact (set6_ks _ _ _).os.trans (hK2.os.trans (hla.os.trans hks.os))
      · exact (set6_ks _ _ _).tape.trans (hK2.tape.trans (hla.tape.trans hks.tape))
      · exact (set6_ks _ _ _).output.trans (hK2.output.trans (hla.output.trans hks.output))
      · rw [set6_size]
        have := heap_lt hz3
        omega
      · intro k hk hn
        rw [set6_other _ _ _ _ (by omega), setCell_other _ _ _ _ _ (fun e => hn (.inl e)), hK2.block k (by rw [hbsz]; omega) (fun e => hn (.inr e)), hla.block k hk, hks.block k hk (fun e => hn (.inl e))]
  obtain ⟨B, off, cap, hv, hBl, d0, d1, d2, d3, d4, d5⟩ := h.row.isIn.set 0 (by simp)
  have hz := h.row
  rw [hv] at hz
  obtain ⟨rfl, _, h1, h2⟩ := hz.zero_off
  simp only [List.getElem_cons_zero, Nat.zero_mul, Nat.add_zero, Nat.zero_add] at d0 d1 d2 d3 d4 d5
  have hBb : B ≠ b := fun e => hne (by rw [hv, e]; rfl)
  have hbB : b ≠ B := fun e => hBb e.symm
  simp only [List.length_cons] at hv h1
  obtain ⟨n, hn⟩ : ∃ n, T.length + 1 = n := ⟨_, rfl⟩
  have hn0 : ((n : Nat) : Int) ≠ 0 := by omega
  have hn0' : ((n : Int) == 0) = false := by simpa using hn0
  have hn1 : (0 : Int) < (n : Int) := by omega
  rw [hn] at hv h1
  subst hv
  clear h hz hla hks hne hn hsz0
  simp only [setB, set6, St.a, St.zero] at hcall ⊢
  have hbw : b ≠ w.heap.size := by omega
  have hwb : w.heap.size ≠ b := by omega
  go_enter Tryz.func77, Tryz.ntmps77
  go_wp2_with (go_at_call 110; refine hcall.mono ?_; clear hcall; rintro e w2 ⟨vb, vl, vc, rfl, g7, k7, hbl, hwl, ⟨z0, z1, z2, z3, z4, z5⟩, ⟨y0, y1, y2, y3, y4, y5⟩, e1, e2, e3, e4, e5, e6, HF⟩; try simp only at z0 z1 z2 z3 z4 z5)
  refine bodyPost_ret (results_ctg (p := 2) (r := 3) (ty := 92) rfl _ _ w.heap.size 92 _ (0, 0) _ rfl HF.out.1 Tryz.underlying92 rfl (by kernel_rfl)) rfl ⟨rfl, _, HF.out.2.1, HF.out.2.2⟩
end Go.Proofs.YtfmljlflnpmceaaGreatDoor
/- Send. -/
namespace Go.Proofs.YtfmljlflnpmceaaGreatDoor
open Go.RowKit
set_option linter.unusedVariables false
set_option linter.unusedSimpArgs false

def sendC (c : Bool) (s : St) (L : List St) (l : List (Int × Int)) : Int := if (applyS (lastS s L) l c).2 = 0 then (if L.length = 64 then 6 else 0) else 1
def sendL (c : Bool) (s : St) (L : List St) (l : List (Int × Int)) : List St := if (applyS (lastS s L) l c).2 = 0 then (if L.length = 64 then L else L ++ [(applyS (lastS s L) l c).1]) else L

/-- what all calls of Send keep -/
def Sq (w : World) (b : Nat) (c : Bool) (s : St) (v : Value) (L : List St) (lv : Value) (l : List (Int × Int)) (W : World) : Prop := Bk W b c s v L ∧ In EP W lv l ∧ Below w.heap.size w W
theorem Sq.below {w : World} {b : Nat} {c : Bool} {s : St} {v : Value} {L : List St} {lv : Value} {l : List (Int × Int)} {W V : World} (h : Sq w b c s v L lv l W) (hb : Below W.heap.size W V) : Sq w b c s v L lv l V :=
  ⟨h.1.below hb, h.2.1.below hb, h.2.2.trans (hb.mono h.2.2.size)⟩

set_option maxRecDepth 100000 in
set_option maxHeartbeats 8000000 in
theorem send_any (w : World) (b : Nat) (c : Bool) (s : St) (v : Value) (L : List St) (h : Bk w b c s v L) (lv : Value) (l : List (Int × Int)) (hl : In EP w lv l) :
    Calls Tryz.prog 62 #[.pointer (some ⟨b, 0, none⟩), lv] w fun e w' => e = .returned (.int .i64 (sendC c s L l)) ∧ ∃ v', Bk w' b c s v' (sendL c s L l) ∧ Ks (Own b v) w w' ∧ (∀ k, v'.ownBlock = some k → v.ownBlock = some k ∨ w.heap.size ≤ k) := by
  have hbw := h.lt
  have hvw := h.row.lt
  obtain ⟨lb, lc, rfl, _, _⟩ := hl.slice
  obtain ⟨n, hn⟩ : ∃ n, l.length = n := ⟨_, rfl⟩
  rw [hn] at hl ⊢
  clear hn
  have hI0 : Sq w b c s v L (.slice lb n lc) l w := ⟨h, hl, Below.refl _ _⟩
  have hal : Hid (∀ W (o : Obj), Sq w b c s v L (.slice lb n lc) l W → Sq w b c s v L (.slice lb n lc) l (W.alloc o)) := fun W o hW => hW.below (bel1 _ _)
  have hfull : Hid (∀ W, Sq w b c s v L (.slice lb n lc) l W → (fun W => W.cell? ⟨b, 0, none⟩ = some (.bool c) ∧ Sq w b c s v L (.slice lb n lc) l W) W) := fun W hW => ⟨hW.1.cells.c0, hW⟩
  obtain ⟨r, hr⟩ : ∃ r, lastS s L = r := ⟨_, rfl⟩
  have hlast : Hid (∀ W, Sq w b c s v L (.slice lb n lc) l W → Calls Tryz.prog 81 #[.pointer (some ⟨b, 0, none⟩)] W fun e w' => e = .returned (.agg r.a) ∧ (∀ k, k < W.heap.size → w'.heap[k]? = W.heap[k]?) ∧ Sq w b c s v L (.slice lb n lc) l w') := fun W hW => by
    refine (blast_any W b c s v L hW.1).mono ?_
    rintro e w' ⟨rfl, hb⟩
    exact ⟨by rw [hr], fun k hk => hb.block k hk, hW.below hb⟩
  obtain ⟨A, hA⟩ : ∃ A, applyS r l c = A := ⟨_, rfl⟩
  have happ : Hid (∀ W, Sq w b c s v L (.slice lb n lc) l W → Calls Tryz.prog 61 #[.agg r.a, .slice lb n lc, .bool c] W fun e w' => e = .returned (.tuple #[.agg A.1.a, .int .i64 A.2]) ∧ (∀ k, k < W.heap.size → w'.heap[k]? = W.heap[k]?) ∧ Sq w b c s v L (.slice lb n lc) l w') := fun W hW => by
    refine (apply_any r _ l c W hW.2.1).mono ?_
    rintro e w' ⟨rfl, hb⟩
    exact ⟨by rw [hA], fun k hk => hb.block k hk, hW.below hb⟩
  have hres : Hid (applyS (lastS s L) l c = A) := by rw [hr]; exact hA
  obtain ⟨⟨q1, q2, q3, q4, q5, q6⟩, code⟩ := A
  obtain ⟨r1, r2, r3, r4, r5, r6⟩ := r
  have hst : Hid (∀ (W : World) (a5 : Nat), W.heap[a5]? = some (.cells St.zero.a 92 (0, 0)) → w.heap.size ≤ a5 → Sq w b c s v L (.slice lb n lc) l W → (set6 W a5 (St.mk q1 q2 q3 q4 q5 q6)).heap[a5]? = some (.cells (St.mk q1 q2 q3 q4 q5 q6).a 92 (0, 0)) ∧ Sq w b c s v L (.slice lb n lc) l (set6 W a5 (St.mk q1 q2 q3 q4 q5 q6))) := by
    intro W a5 h5 hb5 hW
    have hks := set6_ks W a5 (St.mk q1 q2 q3 q4 q5 q6)
    have hbel : Below w.heap.size W (set6 W a5 (St.mk q1 q2 q3 q4 q5 q6)) := hks.below hW.2.2.size (fun i hi => by omega)
    refine ⟨set6_blk _ h5, hW.1.keep hks ?_, ?_, hW.2.2.trans hbel⟩
    · intro k hk e
      subst e
      rcases hk with hk | hk
      · omega
      · have := hvw k hk; omega
    · exact hl.below (hW.2.2.trans hbel)
  clear hr hA
  simp only [St.a] at hlast happ
  go_enter Tryz.func62, Tryz.ntmps62
  go_wp2_with fail
  go_cut [5, 6] from 7 (fun x5 x6 wx => ∃ a5 : Nat, x5 = .pointer (some ⟨a5, 0, none⟩) ∧ x6 = .int .i64 code ∧ wx.heap[a5]? = some (.cells (St.mk q1 q2 q3 q4 q5 q6).a 92 (0, 0)) ∧ w.heap.size ≤ a5 ∧ Sq w b c s v L (.slice lb n lc) l wx)
  case rest =>
    obtain ⟨a5, rfl, rfl, h5, hb5, hS⟩ := hcut
    obtain ⟨hB, hIn, hBel⟩ := hS
    clear hI0 hal hfull hlast happ hst
    by_cases hc0 : code = 0
    · subst hc0
      obtain ⟨c0, c1, c2, c3, c4, c5, c6', c7⟩ := hB.cells
      obtain ⟨vb, vc, hv, hv1, hv2⟩ := hB.row.slice
      have h64 := hB.len
      by_cases hL : L.length = 64
      · have hfin : Hid ((6 : Int) = sendC c s L l ∧ ∃ v', Bk wc b c s v' (sendL c s L l) ∧ Ks (Own b v) w wc ∧ (∀ k, v'.ownBlock = some k → v.ownBlock = some k ∨ w.heap.size ≤ k)) := by
          unfold sendC sendL
          rw [hres.out]
          simp only [if_true, hL, true_and]
          exact ⟨v, hB, Ks.of_below hBel, fun k hk => .inl hk⟩
        rw [hL] at hv
        subst hv
        clear hB hIn hBel hres hL h64 h5 hv1 hl h
        go_wp2_with fail
        go_ret
        exact ⟨congrArg (fun x => Ending.returned (Value.int .i64 x)) hfin.out.1, hfin.out.2⟩
      · have hBk : ((wc.alloc (.cells #[.int .i64 q1, .int .i64 q2, .int .i64 q3, .int .i64 q4, .int .i64 q5, .int .i64 q6] 92)).drew).heap[wc.heap.size]? = some (.cells #[.int .i64 q1, .int .i64 q2, .int .i64 q3, .int .i64 q4, .int .i64 q5, .int .i64 q6] 92 (0, 0)) := heap_alloc_new wc _
        have hb1 : Below wc.heap.size wc ((wc.alloc (.cells #[.int .i64 q1, .int .i64 q2, .int .i64 q3, .int .i64 q4, .int .i64 q5, .int .i64 q6] 92)).drew) := (bel1 _ _).drew
        have hIn1 := in_one (E := ES) _ wc.heap.size (St.mk q1 q2 q3 q4 q5 q6) _ 92 (0, 0) hBk rfl
        have hB1 := hB.below hb1
        have hne := hB1.ne
        obtain ⟨base, cap, w3, hrun, hR3, hG3⟩ := app okS _ _ _ hB1.row _ _ hIn1 (by simp only [ES, List.length_cons, List.length_nil]; omega)
        simp only [List.length_cons, List.length_nil, Nat.zero_add] at hrun hR3 hG3
        have hblk3 : w3.heap[b]? = some (.cells (bcs c s v) 101 (0, 0)) := (hG3.block b hB1.lt hne).trans hB1.blk
        have hown3 : ∀ k, (Value.slice base (L.length + 1) cap).ownBlock = some k → v.ownBlock = some k ∨ w.heap.size ≤ k := fun k hk => (hG3.own k hk).imp id fun hh => by
          have := hBel.size
          rw [size_dr, size_al] at hh
          omega
        have hne3 : (Value.slice base (L.length + 1) cap).ownBlock ≠ some b := fun e => (hown3 b e).elim hne (fun hh => by omega)
        have hfin : Hid ((0 : Int) = sendC c s L l ∧ ∃ v', Bk (w3.setCell ⟨b, 7, none⟩ (.slice base (L.length + 1) cap)) b c s v' (sendL c s L l) ∧ Ks (Own b v) w (w3.setCell ⟨b, 7, none⟩ (.slice base (L.length + 1) cap)) ∧ (∀ k, v'.ownBlock = some k → v.ownBlock = some k ∨ w.heap.size ≤ k)) := by
          unfold sendC sendL
          rw [hres.out]
          simp only [if_true, hL, if_false, true_and]
          refine ⟨_, ⟨setCell_block _ _ _ _ _ _ _ hblk3, hR3.stays fun k hk _ => setCell_other _ _ _ _ _ (fun e => hne3 (e ▸ hk)), by simp; omega⟩, ?_, hown3⟩
          refine (Ks.of_below (A := Own b v) (hBel.trans (hb1.mono hBel.size))).trans ((Ks.of_gr hG3).trans (Ks.setCell (Own b v) w3 b 7 _ (.inl rfl)) (C := Own b v) (fun _ _ e => .inr e) (fun _ _ e => e)) (fun _ _ e => e) (fun _ _ e => e)
        have d7 : w3.cell? ⟨b, 7, none⟩ = some v := cell_blk hblk3 7
        have f7 := frozen_blk hblk3 7
        have hbx : b < wc.heap.size := hB.lt
        obtain ⟨m0, m1, m2, m3, m4, m5⟩ := c6 h5
        simp only at m0 m1 m2 m3 m4 m5
        have hLb : (((L.length : Nat) : Int) == 64) = false := by simp; omega
        have ha5 : a5 < wc.heap.size := heap_lt h5
        subst hv
        obtain ⟨k, hk⟩ : ∃ k, L.length = k := ⟨_, rfl⟩
        rw [hk] at hrun hfin c7 d7 hLb hv1
        have HK : Hid (L.length = k) := hk
        obtain ⟨k1, hk1⟩ : ∃ k1, k + 1 = k1 := ⟨_, rfl⟩
        rw [hk1] at hrun hfin
        simp only [ES] at hrun
        replace hrun : Hid _ := hrun
        clear hB hIn hBel hres hL h64 h5 hBk hb1 hIn1 hB1 hne hR3 hG3 hblk3 hown3 hne3 hl h hk hk1
        go_wp2_with fail
        go_region_law (refine step_append_run rfl (.tmp 30) (.tmp 32) 99 99 rfl hrun.out (by simp [Act.eval]) (by simp [Act.eval]) ?_)
        all_goals
          go_wp2_with fail
          go_ret
          exact ⟨congrArg (fun x => Ending.returned (Value.int .i64 x)) hfin.out.1, by rw [HK.out]; exact hfin.out.2⟩
    · have hfin : Hid ((1 : Int) = sendC c s L l ∧ ∃ v', Bk wc b c s v' (sendL c s L l) ∧ Ks (Own b v) w wc ∧ (∀ k, v'.ownBlock = some k → v.ownBlock = some k ∨ w.heap.size ≤ k)) := by
        unfold sendC sendL
        rw [hres.out]
        simp only [hc0, if_false, true_and]
        exact ⟨v, hB, Ks.of_below hBel, fun k hk => .inl hk⟩
      have hcb : (code != 0) = true := by simpa using hc0
      clear hB hIn hBel hres hc0 h5 hl h
      go_wp2_with fail
      go_ret
      exact ⟨congrArg (fun x => Ending.returned (Value.int .i64 x)) hfin.out.1, hfin.out.2⟩
  have hIW : Sq w b c s v L (.slice lb n lc) l w.drew := hI0.below (Below.refl _ w).drew
  refine wp_region_held_drew (S := fun W => W.cell? ⟨b, 0, none⟩ = some (.bool c) ∧ Sq w b c s v L (.slice lb n lc) l W) (by kernel_rfl) (hfull.out _ hIW) (fun hHeld => ?_)
  generalize hWg : World.drew _ = W at hIW hHeld ⊢
  clear hWg hI0 h hl
  refine tkA (i := 0) (oi := ⟨some 8, .move (.tmp 0), 72, "book.go:25", #[], none⟩) ?_
  try simp only [Act.put, lA, l0, lS]
  refine tkA (i := 2) (oi := ⟨some 10, .move (.tmp 1), 29, "book.go:25", #[], none⟩) ?_
  try simp only [Act.put, lA, l0, lS]
  refine tkA (i := 3) (oi := ⟨some 11, .move (.tmp 0), 72, "book.go:25", #[], none⟩) ?_
  try simp only [Act.put, lA, l0, lS]
  refine tkA (i := 4) (oi := ⟨some 12, .nilCheck (.tmp 11), 0, "book.go:25", #[⟨3, .data⟩], none⟩) ?_
  try simp only [Act.put, lA, l0, lS]
  refine tkA (i := 5) (oi := ⟨some 13, .fieldAddr 101 (.tmp 12) 0, 0, "book.go:25", #[⟨4, .data⟩], none⟩) ?_
  try simp only [Act.put, lA, l0, lS]
  refine tkA (i := 6) (oi := ⟨some 14, .load 4 (.tmp 13), 4, "book.go:25", #[⟨5, .data⟩], none⟩) ?_
  try simp only [Act.put, lA, l0, lS]
  refine wpAnyH_ready (rs := [1, 11]) (by kernel_rfl) (by simp) ?_
  refine AllReadyH.cons (o := ⟨some 9, .call { callee := Callee.value (.func 81), args := #[.tmp 8], argTypes := #[72] }, 92, "book.go:25", #[⟨0, .data⟩], none⟩) rfl (fun K hK => ?_) ?_
  · go_simp
    refine (hlast.out _ hIW).mono ?_
    rintro e' Wx ⟨rfl, hO, hIWx⟩
    go_wp2_with fail
    refine hK.out _ _ (hfull.out _ hIWx) (fun hHeld => ?_)
    clear hK K hO hIW
    try simp only [Act.put, lA, l0, lS]
    refine wpAnyH_ready (rs := [7, 11]) (by kernel_rfl) (by simp) ?_
    refine AllReadyH.cons (o := ⟨some 15, .call { callee := Callee.value (.func 61), args := #[.tmp 9, .tmp 10, .tmp 14], argTypes := #[92, 29, 4] }, 112, "book.go:25", #[⟨1, .data⟩, ⟨2, .data⟩, ⟨6, .data⟩, ⟨1, .chain⟩], none⟩) rfl (fun K hK => ?_) ?_
    · go_simp
      refine (happ.out _ hIWx).mono ?_
      rintro e' Wxx ⟨rfl, hO, hIWxx⟩
      go_wp2_with fail
      refine hK.out _ _ (hfull.out _ hIWxx) (fun hHeld => ?_)
      clear hK K hO hIWx
      try simp only [Act.put, lA, l0, lS]
      refine tkA (i := 8) (oi := ⟨some 7, .move (.tmp 15), 112, "book.go:25", #[⟨7, .data⟩], none⟩) ?_
      try simp only [Act.put, lA, l0, lS]
      refine tkA (i := 9) (oi := ⟨some 16, .extract (.tmp 7) 0, 92, "book.go:25", #[⟨8, .data⟩], none⟩) ?_
      try simp only [Act.put, lA, l0, lS]
      refine tkA (i := 10) (oi := ⟨some 17, .extract (.tmp 7) 1, 2, "book.go:25", #[⟨8, .data⟩, { on := 12, ground := Ground.gcOnly Departure.lateStores }], none⟩) ?_
      try simp only [Act.put, lA, l0, lS]
      refine wpAnyH_ready (rs := [11]) (by kernel_rfl) (by simp) ?_
      refine AllReadyH.cons (o := ⟨some 5, .alloc 92, 0, "book.go:25", #[], none⟩) rfl (fun K hK => ?_) AllReadyH.nil
      go_simp
      obtain ⟨Wxxx, hV⟩ : ∃ Wxxx, Wxxx = Wxx.alloc (.cells #[.int .i64 0, .int .i64 0, .int .i64 0, .int .i64 0, .int .i64 0, .int .i64 0] 92) := ⟨_, rfl⟩
      obtain ⟨a5, ha5⟩ : ∃ a5, a5 = Wxx.heap.size := ⟨_, rfl⟩
      have h5 : Wxxx.heap[a5]? = some (.cells St.zero.a 92 (0, 0)) := by rw [hV, ha5]; exact heap_alloc_new _ _
      have hIWxxx := hal.out _ (.cells #[.int .i64 0, .int .i64 0, .int .i64 0, .int .i64 0, .int .i64 0, .int .i64 0] 92) hIWxx
      rw [← hV] at hIWxxx
      have hO : ∀ k, k < Wxx.heap.size → Wxxx.heap[k]? = Wxx.heap[k]? := fun k hk => by rw [hV]; exact heap_alloc_old _ _ hk
      have hb5 : w.heap.size ≤ a5 := by rw [ha5]; exact hIWxx.2.2.size
      rw [← hV, ← ha5]
      clear hV ha5
      refine hK.out _ _ (hfull.out _ hIWxxx) (fun hHeld => ?_)
      clear hK K hO hIWxx
      try simp only [Act.put, lA, l0, lS]
      refine wpAnyH_ready (rs := [12]) (by kernel_rfl) (by simp) ?_
      refine AllReadyH.cons (o := ⟨none, .store 92 (.tmp 5) (.tmp 16), 0, "book.go:25", #[⟨11, .data⟩, ⟨9, .data⟩, ⟨7, .chain⟩, ⟨0, .phase⟩, ⟨1, .phase⟩, ⟨2, .phase⟩, ⟨3, .phase⟩, ⟨4, .phase⟩, ⟨5, .phase⟩, ⟨6, .phase⟩, ⟨7, .phase⟩, ⟨8, .phase⟩, ⟨9, .phase⟩, { on := 10, ground := Ground.textOnly Departure.lateStores }, ⟨11, .phase⟩], none⟩) rfl (fun K hK => ?_) AllReadyH.nil
      obtain ⟨z0, z1, z2, z3, z4, z5⟩ := c6 h5
      obtain ⟨y0, y1, y2, y3, y4, y5⟩ := f6 h5
      simp only [St.zero] at z0 z1 z2 z3 z4 z5
      go_simp
      change K _ (set6 Wxxx a5 (St.mk q1 q2 q3 q4 q5 q6))
      obtain ⟨x1, x2⟩ := hst.out Wxxx a5 h5 hb5 hIWxxx
      refine hK.out _ _ (hfull.out _ x2) (fun hHeld => ?_)
      generalize hWn : set6 Wxxx a5 (St.mk q1 q2 q3 q4 q5 q6) = Wxxxx at x1 x2 hHeld ⊢
      clear hWn z0 z1 z2 z3 z4 z5 y0 y1 y2 y3 y4 y5 hK K
      try simp only [Act.put, lA, l0, lS]
      refine tkA (i := 13) (oi := ⟨some 6, .assign (.tmp 17), 2, "book.go:25", #[⟨10, .data⟩, ⟨12, .chain⟩, ⟨0, .phase⟩, ⟨1, .phase⟩, ⟨2, .phase⟩, ⟨3, .phase⟩, ⟨4, .phase⟩, ⟨5, .phase⟩, ⟨6, .phase⟩, ⟨7, .phase⟩, ⟨8, .phase⟩, ⟨9, .phase⟩, ⟨10, .phase⟩, ⟨11, .phase⟩, ⟨12, .phase⟩], none⟩) ?_
      try simp only [Act.put, lA, l0, lS]
      refine wpAnyH_done (by kernel_rfl) ?_ _
      go_wp2_with fail
      go_meet
      case rel => exact ⟨a5, rfl, rfl, x1, hb5, x2⟩
    refine AllReadyH.cons (o := ⟨some 5, .alloc 92, 0, "book.go:25", #[], none⟩) rfl (fun K hK => ?_) AllReadyH.nil
    go_simp
    obtain ⟨Wxx, hV⟩ : ∃ Wxx, Wxx = Wx.alloc (.cells #[.int .i64 0, .int .i64 0, .int .i64 0, .int .i64 0, .int .i64 0, .int .i64 0] 92) := ⟨_, rfl⟩
    obtain ⟨a5, ha5⟩ : ∃ a5, a5 = Wx.heap.size := ⟨_, rfl⟩
    have h5 : Wxx.heap[a5]? = some (.cells St.zero.a 92 (0, 0)) := by rw [hV, ha5]; exact heap_alloc_new _ _
    have hIWxx := hal.out _ (.cells #[.int .i64 0, .int .i64 0, .int .i64 0, .int .i64 0, .int .i64 0, .int .i64 0] 92) hIWx
    rw [← hV] at hIWxx
    have hO : ∀ k, k < Wx.heap.size → Wxx.heap[k]? = Wx.heap[k]? := fun k hk => by rw [hV]; exact heap_alloc_old _ _ hk
    have hb5 : w.heap.size ≤ a5 := by rw [ha5]; exact hIWx.2.2.size
    rw [← hV, ← ha5]
    clear hV ha5
    refine hK.out _ _ (hfull.out _ hIWxx) (fun hHeld => ?_)
    clear hK K hO hIWx
    try simp only [Act.put, lA, l0, lS]
    refine wpAnyH_ready (rs := [7]) (by kernel_rfl) (by simp) ?_
    refine AllReadyH.cons (o := ⟨some 15, .call { callee := Callee.value (.func 61), args := #[.tmp 9, .tmp 10, .tmp 14], argTypes := #[92, 29, 4] }, 112, "book.go:25", #[⟨1, .data⟩, ⟨2, .data⟩, ⟨6, .data⟩, ⟨1, .chain⟩], none⟩) rfl (fun K hK => ?_) AllReadyH.nil
    go_simp
    refine (happ.out _ hIWxx).mono ?_
    rintro e' Wxxx ⟨rfl, hO, hIWxxx⟩
    go_wp2_with fail
    refine hK.out _ _ (hfull.out _ hIWxxx) (fun hHeld => ?_)
    replace h5 := (hO _ (heap_lt h5)).trans h5
    clear hK K hO hIWxx
    try simp only [Act.put, lA, l0, lS]
    refine tkA (i := 8) (oi := ⟨some 7, .move (.tmp 15), 112, "book.go:25", #[⟨7, .data⟩], none⟩) ?_
    try simp only [Act.put, lA, l0, lS]
    refine tkA (i := 9) (oi := ⟨some 16, .extract (.tmp 7) 0, 92, "book.go:25", #[⟨8, .data⟩], none⟩) ?_
    try simp only [Act.put, lA, l0, lS]
    refine tkA (i := 10) (oi := ⟨some 17, .extract (.tmp 7) 1, 2, "book.go:25", #[⟨8, .data⟩, { on := 12, ground := Ground.gcOnly Departure.lateStores }], none⟩) ?_
    try simp only [Act.put, lA, l0, lS]
    refine wpAnyH_ready (rs := [12]) (by kernel_rfl) (by simp) ?_
    refine AllReadyH.cons (o := ⟨none, .store 92 (.tmp 5) (.tmp 16), 0, "book.go:25", #[⟨11, .data⟩, ⟨9, .data⟩, ⟨7, .chain⟩, ⟨0, .phase⟩, ⟨1, .phase⟩, ⟨2, .phase⟩, ⟨3, .phase⟩, ⟨4, .phase⟩, ⟨5, .phase⟩, ⟨6, .phase⟩, ⟨7, .phase⟩, ⟨8, .phase⟩, ⟨9, .phase⟩, { on := 10, ground := Ground.textOnly Departure.lateStores }, ⟨11, .phase⟩], none⟩) rfl (fun K hK => ?_) AllReadyH.nil
    obtain ⟨z0, z1, z2, z3, z4, z5⟩ := c6 h5
    obtain ⟨y0, y1, y2, y3, y4, y5⟩ := f6 h5
    simp only [St.zero] at z0 z1 z2 z3 z4 z5
    go_simp
    change K _ (set6 Wxxx a5 (St.mk q1 q2 q3 q4 q5 q6))
    obtain ⟨x1, x2⟩ := hst.out Wxxx a5 h5 hb5 hIWxxx
    refine hK.out _ _ (hfull.out _ x2) (fun hHeld => ?_)
    generalize hWn : set6 Wxxx a5 (St.mk q1 q2 q3 q4 q5 q6) = Wxxxx at x1 x2 hHeld ⊢
    clear hWn z0 z1 z2 z3 z4 z5 y0 y1 y2 y3 y4 y5 hK K
    try simp only [Act.put, lA, l0, lS]
    refine tkA (i := 13) (oi := ⟨some 6, .assign (.tmp 17), 2, "book.go:25", #[⟨10, .data⟩, ⟨12, .chain⟩, ⟨0, .phase⟩, ⟨1, .phase⟩, ⟨2, .phase⟩, ⟨3, .phase⟩, ⟨4, .phase⟩, ⟨5, .phase⟩, ⟨6, .phase⟩, ⟨7, .phase⟩, ⟨8, .phase⟩, ⟨9, .phase⟩, ⟨10, .phase⟩, ⟨11, .phase⟩, ⟨12, .phase⟩], none⟩) ?_
    try simp only [Act.put, lA, l0, lS]
    refine wpAnyH_done (by kernel_rfl) ?_ _
    go_wp2_with fail
    go_meet
    case rel => exact ⟨a5, rfl, rfl, x1, hb5, x2⟩
  refine AllReadyH.cons (o := ⟨some 5, .alloc 92, 0, "book.go:25", #[], none⟩) rfl (fun K hK => ?_) AllReadyH.nil
  go_simp
  obtain ⟨Wx, hV⟩ : ∃ Wx, Wx = W.alloc (.cells #[.int .i64 0, .int .i64 0, .int .i64 0, .int .i64 0, .int .i64 0, .int .i64 0] 92) := ⟨_, rfl⟩
  obtain ⟨a5, ha5⟩ : ∃ a5, a5 = W.heap.size := ⟨_, rfl⟩
  have h5 : Wx.heap[a5]? = some (.cells St.zero.a 92 (0, 0)) := by rw [hV, ha5]; exact heap_alloc_new _ _
  have hIWx := hal.out _ (.cells #[.int .i64 0, .int .i64 0, .int .i64 0, .int .i64 0, .int .i64 0, .int .i64 0] 92) hIW
  rw [← hV] at hIWx
  have hO : ∀ k, k < W.heap.size → Wx.heap[k]? = W.heap[k]? := fun k hk => by rw [hV]; exact heap_alloc_old _ _ hk
  have hb5 : w.heap.size ≤ a5 := by rw [ha5]; exact hIW.2.2.size
  rw [← hV, ← ha5]
  clear hV ha5
  refine hK.out _ _ (hfull.out _ hIWx) (fun hHeld => ?_)
  clear hK K hO hIW
  try simp only [Act.put, lA, l0, lS]
  refine wpAnyH_ready (rs := [1]) (by kernel_rfl) (by simp) ?_
  refine AllReadyH.cons (o := ⟨some 9, .call { callee := Callee.value (.func 81), args := #[.tmp 8], argTypes := #[72] }, 92, "book.go:25", #[⟨0, .data⟩], none⟩) rfl (fun K hK => ?_) AllReadyH.nil
  go_simp
  refine (hlast.out _ hIWx).mono ?_
  rintro e' Wxx ⟨rfl, hO, hIWxx⟩
  go_wp2_with fail
  refine hK.out _ _ (hfull.out _ hIWxx) (fun hHeld => ?_)
  replace h5 := (hO _ (heap_lt h5)).trans h5
  clear hK K hO hIWx
  try simp only [Act.put, lA, l0, lS]
  refine wpAnyH_ready (rs := [7]) (by kernel_rfl) (by simp) ?_
  refine AllReadyH.cons (o := ⟨some 15, .call { callee := Callee.value (.func 61), args := #[.tmp 9, .tmp 10, .tmp 14], argTypes := #[92, 29, 4] }, 112, "book.go:25", #[⟨1, .data⟩, ⟨2, .data⟩, ⟨6, .data⟩, ⟨1, .chain⟩], none⟩) rfl (fun K hK => ?_) AllReadyH.nil
  go_simp
  refine (happ.out _ hIWxx).mono ?_
  rintro e' Wxxx ⟨rfl, hO, hIWxxx⟩
  go_wp2_with fail
  refine hK.out _ _ (hfull.out _ hIWxxx) (fun hHeld => ?_)
  replace h5 := (hO _ (heap_lt h5)).trans h5
  clear hK K hO hIWxx
  try simp only [Act.put, lA, l0, lS]
  refine tkA (i := 8) (oi := ⟨some 7, .move (.tmp 15), 112, "book.go:25", #[⟨7, .data⟩], none⟩) ?_
  try simp only [Act.put, lA, l0, lS]
  refine tkA (i := 9) (oi := ⟨some 16, .extract (.tmp 7) 0, 92, "book.go:25", #[⟨8, .data⟩], none⟩) ?_
  try simp only [Act.put, lA, l0, lS]
  refine tkA (i := 10) (oi := ⟨some 17, .extract (.tmp 7) 1, 2, "book.go:25", #[⟨8, .data⟩, { on := 12, ground := Ground.gcOnly Departure.lateStores }], none⟩) ?_
  try simp only [Act.put, lA, l0, lS]
  refine wpAnyH_ready (rs := [12]) (by kernel_rfl) (by simp) ?_
  refine AllReadyH.cons (o := ⟨none, .store 92 (.tmp 5) (.tmp 16), 0, "book.go:25", #[⟨11, .data⟩, ⟨9, .data⟩, ⟨7, .chain⟩, ⟨0, .phase⟩, ⟨1, .phase⟩, ⟨2, .phase⟩, ⟨3, .phase⟩, ⟨4, .phase⟩, ⟨5, .phase⟩, ⟨6, .phase⟩, ⟨7, .phase⟩, ⟨8, .phase⟩, ⟨9, .phase⟩, { on := 10, ground := Ground.textOnly Departure.lateStores }, ⟨11, .phase⟩], none⟩) rfl (fun K hK => ?_) AllReadyH.nil
  obtain ⟨z0, z1, z2, z3, z4, z5⟩ := c6 h5
  obtain ⟨y0, y1, y2, y3, y4, y5⟩ := f6 h5
  simp only [St.zero] at z0 z1 z2 z3 z4 z5
  go_simp
  change K _ (set6 Wxxx a5 (St.mk q1 q2 q3 q4 q5 q6))
  obtain ⟨x1, x2⟩ := hst.out Wxxx a5 h5 hb5 hIWxxx
  refine hK.out _ _ (hfull.out _ x2) (fun hHeld => ?_)
  generalize hWn : set6 Wxxx a5 (St.mk q1 q2 q3 q4 q5 q6) = Wxxxx at x1 x2 hHeld ⊢
  clear hWn z0 z1 z2 z3 z4 z5 y0 y1 y2 y3 y4 y5 hK K
  try simp only [Act.put, lA, l0, lS]
  refine tkA (i := 13) (oi := ⟨some 6, .assign (.tmp 17), 2, "book.go:25", #[⟨10, .data⟩, ⟨12, .chain⟩, ⟨0, .phase⟩, ⟨1, .phase⟩, ⟨2, .phase⟩, ⟨3, .phase⟩, ⟨4, .phase⟩, ⟨5, .phase⟩, ⟨6, .phase⟩, ⟨7, .phase⟩, ⟨8, .phase⟩, ⟨9, .phase⟩, ⟨10, .phase⟩, ⟨11, .phase⟩, ⟨12, .phase⟩], none⟩) ?_
  try simp only [Act.put, lA, l0, lS]
  refine wpAnyH_done (by kernel_rfl) ?_ _
  go_wp2_with fail
  go_meet
  case rel => exact ⟨a5, rfl, rfl, x1, hb5, x2⟩
end Go.Proofs.YtfmljlflnpmceaaGreatDoor
/- A window in memory; New, Left, Take, Shift, Give, Room. -/
namespace Go.Proofs.YtfmljlflnpmceaaGreatDoor
open Go.RowKit
set_option linter.unusedVariables false
set_option linter.unusedSimpArgs false

/-- Block b is a window with n left. -/
def Wd (w : World) (b : Nat) (n : Int) : Prop := w.heap[b]? = some (.cells #[.int .i64 n] 103 (0, 0))
theorem Wd.lt {w : World} {b : Nat} {n : Int} (h : Wd w b n) : b < w.heap.size := heap_lt h
theorem Wd.cell {w : World} {b : Nat} {n : Int} (h : Wd w b n) : w.cell? ⟨b, 0, none⟩ = some (.int .i64 n) := cell_blk h 0
theorem Wd.frozen {w : World} {b : Nat} {n : Int} (h : Wd w b n) (i : Nat) : w.frozen? ⟨b, i, none⟩ = false := frozen_blk h i
theorem Wd.keep {A : Nat → Prop} {w w' : World} {b : Nat} {n : Int} (h : Wd w b n) (hk : Ks A w w') (ho : ¬ A b) : Wd w' b n := (hk.block b h.lt ho).trans h
theorem Wd.below {w w' : World} {b : Nat} {n : Int} (h : Wd w b n) (hb : Below w.heap.size w w') : Wd w' b n := (hb.block b h.lt).trans h

/-- within New's bounds -/
def cl (n : Int) : Int := min (max n 0) 2147483647

set_option maxRecDepth 100000 in
set_option maxHeartbeats 1000000 in
theorem wnew_any (n : Int) (w : World) :
    Calls Tryz.prog 35 #[.int .i64 n] w fun e w' => ∃ b, e = .returned (.pointer (some ⟨b, 0, none⟩)) ∧ Wd w' b (cl n) ∧ w.heap.size ≤ b ∧ Below w.heap.size w w' := by
  go_enter Tryz.func35, Tryz.ntmps35
  go_wp2
  go_ret
  exact ⟨_, rfl, heap_alloc_new _ _, Nat.le_refl _, bel1 _ _⟩

/-- what is written into a window -/
theorem Wd.set {w : World} {b : Nat} {n : Int} (h : Wd w b n) (m : Int) : Wd (w.setCell ⟨b, 0, none⟩ (.int .i64 m)) b m := setCell_block w b 0 _ _ _ _ h

/-- what Take answers -/
def tk (n k : Int) : Bool := decide (0 ≤ k) && decide (k ≤ max n 0)
def tkN (n k : Int) : Int := if tk n k then n - k else n
/-- what Shift answers -/
def sf (n k : Int) : Bool := decide (-2147483647 ≤ n + k) && decide (n + k ≤ 2147483647)
def sfC (n k : Int) : Int := if sf n k then 0 else 3
def sfN (n k : Int) : Int := if sf n k then n + k else n
def gvC (n k : Int) : Int := if k < 1 then 1 else sfC n k
def gvN (n k : Int) : Int := if k < 1 then n else sfN n k
def InB (n : Int) : Prop := -2147483647 ≤ n ∧ n ≤ 2147483647
theorem cl_in (n : Int) : InB (cl n) := by unfold InB cl; omega
theorem tkN_in {n k : Int} (h : InB n) : InB (tkN n k) := by
  unfold tkN tk
  unfold InB at h ⊢
  split
  · rename_i h1
    simp at h1
    omega
  · exact h
theorem sfN_in {n k : Int} (h : InB n) : InB (sfN n k) := by
  unfold sfN sf
  split
  · rename_i h1
    simpa [InB] using h1
  · exact h
theorem gvN_in {n k : Int} (h : InB n) : InB (gvN n k) := by
  unfold gvN
  split
  · exact h
  · exact sfN_in h

set_option maxRecDepth 100000 in
set_option maxHeartbeats 1000000 in
theorem take_any (w : World) (b : Nat) (n k : Int) (h : Wd w b n) (hn : InB n) :
    Calls Tryz.prog 76 #[.pointer (some ⟨b, 0, none⟩), .int .i64 k] w fun e w' => e = .returned (.bool (tk n k)) ∧ Wd w' b (tkN n k) ∧ Ks (fun j => j = b) w w' := by
  have c := h.cell
  have fz := h.frozen
  obtain ⟨hn1, hn2⟩ := hn
  by_cases h0 : k < 0
  · have ht : tk n k = false := by unfold tk; simp; omega
    have ht' : tkN n k = n := by unfold tkN; rw [ht]; rfl
    rw [ht, ht']
    go_enter Tryz.func76, Tryz.ntmps76
    go_wp2
    go_ret
    exact ⟨rfl, h, Ks.refl _ _⟩
  by_cases h1 : max n 0 < k
  · have ht : tk n k = false := by unfold tk; simp; omega
    have ht' : tkN n k = n := by unfold tkN; rw [ht]; rfl
    rw [ht, ht']
    go_enter Tryz.func76, Tryz.ntmps76
    go_wp2
    go_ret
    exact ⟨rfl, h, Ks.refl _ _⟩
  · have ht : tk n k = true := by unfold tk; simp; omega
    have ht' : tkN n k = n - k := by unfold tkN; rw [ht]; rfl
    rw [ht, ht']
    have hb : -4294967294 ≤ n - k ∧ n - k ≤ 4294967294 := by omega
    go_enter Tryz.func76, Tryz.ntmps76
    go_wp2
    go_ret
    exact ⟨rfl, h.set _, Ks.setCell _ _ _ _ _ rfl⟩

set_option maxRecDepth 100000 in
set_option maxHeartbeats 1000000 in
theorem shift_any (w : World) (b : Nat) (n k : Int) (h : Wd w b n) (hn : InB n) :
    Calls Tryz.prog 82 #[.pointer (some ⟨b, 0, none⟩), .int .i64 k] w fun e w' => e = .returned (.int .i64 (sfC n k)) ∧ Wd w' b (sfN n k) ∧ Ks (fun j => j = b) w w' := by
  have c := h.cell
  have fz := h.frozen
  obtain ⟨hn1, hn2⟩ := hn
  by_cases h0 : 2147483647 - n < k
  · have ht : sf n k = false := by unfold sf; simp; omega
    have ht' : sfN n k = n := by unfold sfN; rw [ht]; rfl
    have ht2 : sfC n k = 3 := by unfold sfC; rw [ht]; rfl
    rw [ht2, ht']
    go_enter Tryz.func82, Tryz.ntmps82
    go_wp2
    go_ret
    exact ⟨rfl, h, Ks.refl _ _⟩
  by_cases h1 : k < -2147483647 - n
  · have ht : sf n k = false := by unfold sf; simp; omega
    have ht' : sfN n k = n := by unfold sfN; rw [ht]; rfl
    have ht2 : sfC n k = 3 := by unfold sfC; rw [ht]; rfl
    rw [ht2, ht']
    go_enter Tryz.func82, Tryz.ntmps82
    go_wp2
    go_ret
    exact ⟨rfl, h, Ks.refl _ _⟩
  · have ht : sf n k = true := by unfold sf; simp; omega
    have ht' : sfN n k = n + k := by unfold sfN; rw [ht]; rfl
    have ht2 : sfC n k = 0 := by unfold sfC; rw [ht]; rfl
    rw [ht2, ht']
    have hb : -4294967294 ≤ n + k ∧ n + k ≤ 4294967294 := by omega
    go_enter Tryz.func82, Tryz.ntmps82
    go_wp2
    go_ret
    exact ⟨rfl, h.set _, Ks.setCell _ _ _ _ _ rfl⟩

set_option maxRecDepth 100000 in
set_option maxHeartbeats 1000000 in
theorem give_any (w : World) (b : Nat) (n k : Int) (h : Wd w b n) (hn : InB n) :
    Calls Tryz.prog 63 #[.pointer (some ⟨b, 0, none⟩), .int .i64 k] w fun e w' => e = .returned (.int .i64 (gvC n k)) ∧ Wd w' b (gvN n k) ∧ Ks (fun j => j = b) w w' := by
  by_cases h0 : k < 1
  · have ht' : gvN n k = n := by unfold gvN; rw [if_pos h0]
    have ht2 : gvC n k = 1 := by unfold gvC; rw [if_pos h0]
    rw [ht2, ht']
    go_enter Tryz.func63, Tryz.ntmps63
    go_wp2
    go_ret
    exact ⟨rfl, h, Ks.refl _ _⟩
  · have ht' : gvN n k = sfN n k := by unfold gvN; rw [if_neg h0]
    have ht2 : gvC n k = sfC n k := by unfold gvC; rw [if_neg h0]
    rw [ht2, ht']
    have hs := shift_any w b n k h hn
    go_enter Tryz.func63, Tryz.ntmps63
    go_wp2_with (go_at_call 82; refine hs.mono ?_; rintro e w' ⟨rfl, h1, h2⟩)
    go_ret
    exact ⟨rfl, h1, h2⟩

/-- what Room answers -/
def rm (a b c d : Int) : Int := max (min a (min b (min c d))) 0

end Go.Proofs.YtfmljlflnpmceaaGreatDoor
