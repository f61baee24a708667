/- plays. -/
import Derived.Test.YtbmaknjeflblcaaG2
namespace Go.Proofs.Ytbmaknjeflblcaa
open Go.RowKit Go.Maps
set_option linter.unusedVariables false
set_option linter.unusedSimpArgs false

set_option maxRecDepth 100000 in
set_option maxHeartbeats 8000000 in
theorem plays_any (w : World) (C : Nat → Prop) (p q m n : Nat) (T : St) (L : List Stm) (o : Op) (h : Pr w C p q T L m n) (hid : wf64 o.id) (hm : m + o.t.size ≤ 1048576) (hn : n + 1 ≤ 1048576)
    (H4 : ∀ W, Below w.heap.size w W → o.k = 4 → Calls Try.prog 30 #[.pointer (some ⟨p, 0, none⟩), .pointer (some ⟨q, 0, none⟩), opg o] W (PlP W C p q m n)) :
    Calls Try.prog 21 #[.pointer (some ⟨p, 0, none⟩), .pointer (some ⟨q, 0, none⟩), opg o] w (PlP w C p q (m + o.t.size) (n + 1)) := by
  obtain ⟨ok, os, oid, ot, oe, oc, ost, of, ⟨y1, y2, y3⟩, ol⟩ := o
  simp only at hid hm H4
  unfold opg sv at H4 ⊢
  simp only at H4 ⊢
  have hb1 := bel1 w (Obj.cells #[.int .i64 ok, .int .i64 os, .int .i64 oid, .string ot, .bool oe, .int .i64 oc, .int .i64 ost, .int .i64 of, .slice y1 y2 y3] 41)
  have h1 := h.below hb1
  obtain ⟨A, B, hA, hB, hd, hAC, hBC⟩ := h1.ab
  have hlt := h.lt
  have hltA : ∀ k, A k → k < w.heap.size := fun k hk => hlt k (hAC k hk)
  have hltB : ∀ k, B k → k < w.heap.size := fun k hk => hlt k (hBC k hk)
  have hrl := h.rl
  have HBX : Hid (∀ W, Ks A (w.alloc (Obj.cells #[.int .i64 ok, .int .i64 os, .int .i64 oid, .string ot, .bool oe, .int .i64 oc, .int .i64 ost, .int .i64 of, .slice y1 y2 y3] 41)) W → W.heap[w.heap.size]? = some (Obj.cells #[.int .i64 ok, .int .i64 os, .int .i64 oid, .string ot, .bool oe, .int .i64 oc, .int .i64 ost, .int .i64 of, .slice y1 y2 y3] 41)) := fun W hW => (hW.block _ (by simp) fun e => by have := hltA _ e; omega).trans (heap_alloc_new _ _)
  have HRB : Hid (∀ W, Ks A (w.alloc (Obj.cells #[.int .i64 ok, .int .i64 os, .int .i64 oid, .string ot, .bool oe, .int .i64 oc, .int .i64 ost, .int .i64 of, .slice y1 y2 y3] 41)) W → Rb W B q L) := fun W hW => hB.stays fun k hk hBk => hW.block k hk fun e => hd k e hBk
  have HF : Hid (∀ (w2 w3 : World) (T' : St) (L' : List Stm), Sh w2 (gr A (w.alloc (Obj.cells #[.int .i64 ok, .int .i64 os, .int .i64 oid, .string ot, .bool oe, .int .i64 oc, .int .i64 ost, .int .i64 of, .slice y1 y2 y3] 41)) w2) p T' → Ks A (w.alloc (Obj.cells #[.int .i64 ok, .int .i64 os, .int .i64 oid, .string ot, .bool oe, .int .i64 oc, .int .i64 ost, .int .i64 of, .slice y1 y2 y3] 41)) w2 → Rb w3 (gr B w2 w3) q L' → Ks B w2 w3 → Rl T' L' → (∀ j, (T'.b j).length ≤ m + ot.size) → L'.length ≤ n + 1 → PlP w C p q (m + ot.size) (n + 1) (.returned (.bool true)) w3) := fun w2 w3 T' L' a1 a2 a3 a4 a5 a6 a7 => by
    obtain ⟨r1, r2⟩ := h1.two hB hd hAC hBC a1 a2 a3 a4 a5 a6 a7
    refine ⟨rfl, ⟨T', L', ?_⟩, (Ks.of_below (A := C) hb1).trans r2 (fun _ _ e => e) (fun _ _ e => e)⟩
    obtain ⟨A', B', s1, s2, s3, s4, s5⟩ := r1.ab
    exact ⟨⟨A', B', s1, s2, s3, fun k hk => gr_box _ k (s4 k hk), fun k hk => gr_box _ k (s5 k hk)⟩, gr_lt hlt (Nat.le_trans hb1.size r2.size), r1.rl, r1.b, r1.n⟩
  have HSM : Hid (PlP w C p q (m + ot.size) (n + 1) (.returned (.bool true)) (w.alloc (Obj.cells #[.int .i64 ok, .int .i64 os, .int .i64 oid, .string ot, .bool oe, .int .i64 oc, .int .i64 ost, .int .i64 of, .slice y1 y2 y3] 41))) := ⟨rfl, ⟨T, L, by
    obtain ⟨A', B', s1, s2, s3, s4, s5⟩ := h1.ab
    exact ⟨⟨A', B', s1, s2, s3, fun k hk => .inl (s4 k hk), fun k hk => .inl (s5 k hk)⟩, gr_lt hlt hb1.size, h1.rl, fun j => Nat.le_trans (h1.b j) (by omega), Nat.le_trans h1.n (by omega)⟩⟩, Ks.of_below hb1⟩
  have hbm := h.b
  have hnn := h.n
  generalize hQ : PlP w C p q (m + ot.size) (n + 1) = Q at HF HSM ⊢
  by_cases k1 : ok = 1
  · subst k1
    clear H4
    have hz : (T.b oid).length + ot.size ≤ 140737488355328 := by have := hbm oid; omega
    clear hQ
    go_enter Try.func21, Try.ntmps21
    go_wp2_with fail
    refine (put_any _ A p T oid ot oe hid hz hA).mono ?_
    rintro e w2 ⟨rfl, hs2, hk2⟩

    have hbx := HBX.out w2 hk2
    have b2 := cell_blk hbx 2
    have b3 := cell_blk hbx 3
    have b4 := cell_blk hbx 4
    have b5 := cell_blk hbx 5
    have b6 := cell_blk hbx 6
    have b7 := cell_blk hbx 7
    have hbl := heap_lt hbx
    clear hbx

    have hzz : ∀ s ∈ L, s.t.size + ot.size ≤ 1048576 := fun s hs => by
      have h1 := (hrl.mem s hs).2.1
      have h2 := hbm s.id
      rw [h1] at h2
      simp at h2
      omega
    go_wp2_with fail
    refine (rput_any w2 _ q L oid ot oe (HRB.out w2 hk2).rn hzz (by omega) (by omega)).mono ?_
    rintro e w3 hrp
    obtain ⟨rfl, hr3, hk3⟩ := Rb.call hrp
    rw [hrl.putE]
    have HQ : Hid (Q (.returned (.bool true)) w3) := HF.out w2 w3 _ _ hs2 hk2 hr3 hk3 (hrl.put oid ot oe) (fun j => by have := put_len hrl.ok oid ot.data.toList oe j; have := hbm j; have : ot.data.toList.length = ot.size := (by simp); omega) (by have := rput_len L oid ot oe; omega)
    clear hrp hr3 hk3 hs2
    generalize T.putE oid = pe
    go_wp2_with fail
    exact HQ.out
  · have e1 : (ok == 1) = false := beq_eq_false_iff_ne.2 k1
    by_cases k2 : ok = 2
    · subst k2
      clear H4
      clear hQ
      go_enter Try.func21, Try.ntmps21
      go_wp2_with fail
      refine (drop_any _ A p T oid hid hA).mono ?_
      rintro e w2 ⟨rfl, hs2, hk2⟩

      have hbx := HBX.out w2 hk2
      have b2 := cell_blk hbx 2
      have b3 := cell_blk hbx 3
      have b4 := cell_blk hbx 4
      have b5 := cell_blk hbx 5
      have b6 := cell_blk hbx 6
      have b7 := cell_blk hbx 7
      have hbl := heap_lt hbx
      clear hbx

      go_wp2_with fail
      refine (rdrop_any w2 _ q L oid (HRB.out w2 hk2).rn (by omega)).mono ?_
      rintro e w3 hrp
      obtain ⟨rfl, hr3, hk3⟩ := Rb.call hrp
      rw [← hrl.is]
      have HQ : Hid (Q (.returned (.bool true)) w3) := HF.out w2 w3 _ _ (hs2.mono fun k hk => .inl hk) hk2 hr3 hk3 (hrl.drop oid) (fun j => by have := hbm j; rw [drop_b hrl.ok]; split; simp; omega) (by have := rdrop_len L oid; omega)
      clear hrp hr3 hk3 hs2
      generalize T.is oid = pe
      go_wp2_with fail
      exact HQ.out
    · have e2 : (ok == 2) = false := beq_eq_false_iff_ne.2 k2
      by_cases k3 : ok = 3
      · subst k3
        clear H4
        clear hQ
        go_enter Try.func21, Try.ntmps21
        go_wp2_with fail
        refine (waits_any _ A p T oid hid hA).mono ?_
        rintro e w2 ⟨rfl, hB2⟩
        have hk2 : Ks A (w.alloc (Obj.cells #[.int .i64 3, .int .i64 os, .int .i64 oid, .string ot, .bool oe, .int .i64 oc, .int .i64 ost, .int .i64 of, .slice y1 y2 y3] 41)) w2 := Ks.of_below hB2
        have hs2 : Sh w2 (gr A (w.alloc (Obj.cells #[.int .i64 3, .int .i64 os, .int .i64 oid, .string ot, .bool oe, .int .i64 oc, .int .i64 ost, .int .i64 of, .slice y1 y2 y3] 41)) w2) p T := (Sh.below hA hB2).mono fun k hk => .inl hk

        have hbx := HBX.out w2 hk2
        have b2 := cell_blk hbx 2
        have b3 := cell_blk hbx 3
        have b4 := cell_blk hbx 4
        have b5 := cell_blk hbx 5
        have b6 := cell_blk hbx 6
        have b7 := cell_blk hbx 7
        have hbl := heap_lt hbx
        clear hbx

        obtain ⟨v, hv1, hv2, hv3⟩ := (HRB.out w2 hk2).s
        go_wp2_with fail
        refine (rwaits_any w2 q v L oid hv1).mono ?_
        rintro e w3 ⟨rfl, hB3⟩
        have hr3 : Rb w3 (gr B w2 w3) q L := ((HRB.out w2 hk2).stays fun k hk _ => hB3.block k hk).mono fun k hk => .inl hk
        obtain ⟨wa, wb, _⟩ := hrl.waits oid
        rw [← wa, ← wb]
        have HQ : Hid (Q (.returned (.bool true)) w3) := HF.out w2 w3 _ _ hs2 hk2 hr3 (Ks.of_below hB3) hrl (fun j => by have := hbm j; omega) (by omega)
        clear hr3 hs2 hv1 wa wb
        generalize (T.b oid).length = pl
        generalize T.e oid = pe
        go_wp2_with fail
        exact HQ.out
      · have e3 : (ok == 3) = false := beq_eq_false_iff_ne.2 k3
        by_cases k4 : ok = 4
        · subst k4
          have hq : Hid (∀ w3, PlP (w.alloc (Obj.cells #[.int .i64 4, .int .i64 os, .int .i64 oid, .string ot, .bool oe, .int .i64 oc, .int .i64 ost, .int .i64 of, .slice y1 y2 y3] 41)) C p q m n (.returned (.bool true)) w3 → Q (.returned (.bool true)) w3) := fun w3 hp3 => by
            obtain ⟨_, ⟨T', L', r1⟩, r2⟩ := hp3
            rw [← hQ]
            obtain ⟨A', B', s1, s2, s3, s4, s5⟩ := r1.ab
            exact ⟨rfl, ⟨T', L', ⟨A', B', s1, s2, s3, fun k hk => gr_box _ k (s4 k hk), fun k hk => gr_box _ k (s5 k hk)⟩, gr_lt hlt (Nat.le_trans hb1.size r2.size), r1.rl, fun j => Nat.le_trans (r1.b j) (by omega), Nat.le_trans r1.n (by omega)⟩, (Ks.of_below (A := C) hb1).trans r2 (fun _ _ e => e) (fun _ _ e => e)⟩
          have HR : Hid _ := H4 _ hb1 rfl
          clear H4 hQ
          go_enter Try.func21, Try.ntmps21
          go_wp2_with fail
          refine Calls.mono HR.out ?_
          intro e w3 hp3
          have HQ : Hid _ := hq.out w3 ⟨rfl, hp3.2⟩
          obtain ⟨rfl, _⟩ := hp3
          go_wp2_with fail
          exact HQ.out
        · have e4 : (ok == 4) = false := beq_eq_false_iff_ne.2 k4
          clear H4
          by_cases k5 : ok = 5
          · subst k5
            clear hQ
            go_enter Try.func21, Try.ntmps21
            go_wp2_with fail
            refine (next_any _ A p T oid oc ost of hid hA).mono ?_
            rintro e w2 ⟨rfl, hs2, hk2⟩

            have hbx := HBX.out w2 hk2
            have b2 := cell_blk hbx 2
            have b3 := cell_blk hbx 3
            have b4 := cell_blk hbx 4
            have b5 := cell_blk hbx 5
            have b6 := cell_blk hbx 6
            have b7 := cell_blk hbx 7
            have hbl := heap_lt hbx
            clear hbx

            have hzz : ∀ s ∈ L, s.t.size ≤ 1048576 := fun s hs => by
              have h1 := (hrl.mem s hs).2.1
              have h2 := hbm s.id
              rw [h1] at h2
              simp at h2
              omega
            go_wp2_with fail
            refine (rnext_any w2 _ q L oid oc ost of (HRB.out w2 hk2).rn (by omega) hzz).mono ?_
            rintro e w3 hrp
            obtain ⟨rfl, hr3, hk3⟩ := Rb.call hrp
            unfold NV
            rw [hrl.nextE, hrl.nextL, hrl.nextP]
            have HQ : Hid (Q (.returned (.bool true)) w3) := HF.out w2 w3 _ _ (hs2.mono fun k hk => .inl hk) hk2 hr3 hk3 (hrl.next oid oc ost of) (fun j => by have := next_len hrl.ok oid oc ost of j; have := hbm j; omega) (by have := rnext_len L oid oc ost of; omega)
            clear hrp hr3 hk3 hs2
            generalize T.nextE oid oc ost of = pe
            generalize T.nextL oid oc ost of = pl
            unfold tx
            generalize (⟨(T.nextP oid oc ost of).toArray⟩ : ByteArray) = pt
            go_wp2_with fail
            exact HQ.out
          · have e5 : (ok == 5) = false := beq_eq_false_iff_ne.2 k5
            clear hQ
            go_enter Try.func21, Try.ntmps21
            go_wp2_with fail
            exact HSM.out
end Go.Proofs.Ytbmaknjeflblcaa
