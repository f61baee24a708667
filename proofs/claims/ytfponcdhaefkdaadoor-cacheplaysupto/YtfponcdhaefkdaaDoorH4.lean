/- The document's Find and Holds, over its Names and Match. -/
import Derived.Test.YtfponcdhaefkdaaDoorH3
import Derived.Test.YtfponcdhaefkdaaDoorVh
namespace Go.Proofs.YtfponcdhaefkdaaDoor
open Go.RowKit
set_option linter.unusedVariables false
set_option linter.unusedSimpArgs false
/-- what the document's Names tells -/
def RefN : Prop := ∀ (n : Int) (y : SV) (b : ByteArray) (l : List Fd) (w : World), In EFd w (sv y) l → (∀ v ∈ vsL l varyS, v.size ≤ 140737488351232) → (allP (vsL l varyS)).length ≤ 4398046511104 → Calls Tryd.prog 85 #[.agg (rsv n (sv y) b)] w fun e w' => NmPost (vsL l varyS) w e w'
/-- what its Match tells -/
def RefM : Prop := ∀ (p q : Rq) (t : SV) (P Q : List Fd) (l : List ByteArray) (w : World), In EFd w (sv p.y) P → In EFd w (sv q.y) Q → In ES w (sv t) l → P.length * 40 ≤ 140737488355328 → Q.length * 40 ≤ 140737488355328 → Calls Tryd.prog 87 #[.agg (rqv p), .agg (rqv q), sv t] w fun e w' => e = .returned (.bool (mtB p q P Q l)) ∧ Below w.heap.size w w'
/-- sizes of an entry -/
structure Kv (k : Kn) : Prop where
  zq : k.fq.length ≤ 1099511627776
  zv : ∀ v ∈ vsL k.fr varyS, v.size ≤ 140737488351232
  zn : (allP (vsL k.fr varyS)).length ≤ 4398046511104
/-- Find under way -/
structure Fw (W wr : World) (b : Nat) (me mb lf pd : Int) (z : SV) (B : List Kn) (now : Int) (q0 : Nat) (q : Rq) : Prop where
  rc : Rc wr b me mb lf pd z B now
  rq : RqB wr q0 q
  ks : Ks (fun k => k = b) W wr
theorem Fw.below {W wr V : World} {b : Nat} {me mb lf pd : Int} {z : SV} {B : List Kn} {now : Int} {q0 : Nat} {q : Rq} (h : Fw W wr b me mb lf pd z B now q0 q) (hb : Below wr.heap.size wr V) : Fw W V b me mb lf pd z B now q0 q := ⟨h.rc.below hb, h.rq.below hb, h.ks.bel hb⟩
set_option maxHeartbeats 16000000 in
set_option maxRecDepth 100000 in
theorem rfind_any (rN : RefN) (rM : RefM) (W : World) (b : Nat) (me mb lf pd : Int) (z : SV) (B : List Kn) (now : Int) (h : Rc W b me mb lf pd z B now) (q : Rq) (Q : List Fd) (hQ : ∀ V, Ks (fun k => k = b) W V → In EFd V (sv q.y) Q) (zQ : Q.length ≤ 1099511627776) (t : Int) (ht : t ≤ 9223372036854775807) (har : ∀ k ∈ B, 0 ≤ k.ar ∧ k.ar ≤ now) (hn : 0 ≤ now ∧ now ≤ 9223372036854775807) (hkv : ∀ k ∈ B, Kv k) :
    Calls Tryd.prog 73 #[.pointer (some ⟨b, 0, none⟩), .agg (rqv q), .int .i64 t] W fun r w' => r = .returned (.int .i64 (oI (B.findIdx? (anK (max now t) lf q Q)))) ∧ Rc w' b me mb lf pd z B (max now t) ∧ Ks (fun k => k = b) W w' := by
  obtain ⟨n1, hn1⟩ : ∃ n, max now t = n := ⟨_, rfl⟩
  have HN1 : Hid (n1 ≤ 9223372036854775807 ∧ ∀ k ∈ B, 0 ≤ k.ar ∧ k.ar ≤ n1) := ⟨by omega, fun k hk => by have := har k hk; omega⟩
  obtain ⟨W1, hW1⟩ : ∃ V, W.alloc (.cells (rqv q) 24) = V := ⟨_, rfl⟩
  obtain ⟨q0, hq0⟩ : ∃ k, W.heap.size = k := ⟨_, rfl⟩
  have b1 : Below W.heap.size W W1 := by rw [← hW1]; exact bel1 _ _
  have hR1 := h.below b1
  have hq1 : RqB W1 q0 q := by unfold RqB; rw [← hW1, ← hq0, heap_al, if_pos rfl]
  obtain ⟨W2, hW2⟩ : ∃ V, W1.setCell ⟨b, 5, none⟩ (.int .i64 n1) = V := ⟨_, rfl⟩
  have HF0 : Hid (Fw W W2 b me mb lf pd z B n1 q0 q) := ⟨by rw [← hW2]; exact hR1.setNow n1, by rw [← hW2]; exact (setCell_other _ _ _ _ _ (ty_ne hq1 hR1.blk (by decide))).trans hq1, by rw [← hW2]; exact (Ks.of_below b1 (A := fun _ => False)).trans (Ks.setCell (fun k => k = b) W1 b 5 _ rfl) (fun i _ hi => hi.elim) (fun i _ hi => hi)⟩
  obtain ⟨c0, c1, c2, c3, c4, c5, cf⟩ := hR1.cells
  have f5 := cf 5
  have lb := heap_lt hR1.blk
  have HQ : Hid (∀ V, Ks (fun k => k = b) W V → In EFd V (sv q.y) Q) := hQ
  have HZQ : Hid (Q.length ≤ 1099511627776) := zQ
  have HKv : Hid (∀ k ∈ B, Kv k) := hkv
  have HrN : Hid RefN := rN
  have HrM : Hid RefM := rM
  obtain ⟨z1, z2, z3⟩ := z
  obtain ⟨m1, m2, m3⟩ := slice_len (show In EV W (.slice z1 z2 z3) B from h.row.isIn)
  have HZ : Hid (B.length = z2) := m1.symm
  rw [← m1] at m2
  rw [hn1]
  obtain ⟨m, s, a, p, ⟨y1, y2, y3⟩, qb⟩ := q
  simp only [sv, rqv] at hW1 ⊢
  clear h hR1 hq1 ht har hn c0 c1 c2 c3 c4 cf m1 b1 rN rM hQ zQ hkv
  go_enter Tryd.func73, Tryd.ntmps73
  go_upto_region 2 with fail
  try rw [hW1]
  try rw [hq0]
  try rw [hW2]
  clear hW1 hq0 hW2 c5 f5 hn1 lb
  go_upto_region 3 with fail
  go_loopw [7, 8, 9] (fun iv _ _ wr => ∃ i : Nat, iv = .int .i64 (i : Int) ∧ i ≤ z2 ∧ Hid (Fw W wr b me mb lf pd (z1, z2, z3) B n1 q0 ⟨m, s, a, p, (y1, y2, y3), qb⟩) ∧ Hid (Fi' B (anK n1 lf ⟨m, s, a, p, (y1, y2, y3), qb⟩ Q) i none)) (fun iv _ _ _ => z2 - (intOf iv).toNat)
  case atStart => exact ⟨0, rfl, by omega, HF0.out, ⟨fun _ => ⟨by omega, fun j _ h => by omega⟩, fun m' hm' => by cases hm'⟩⟩
  case round =>
    clear HF0
    obtain ⟨i, rfl, hi, hFw, hFi⟩ := hrel
    obtain ⟨c0, c1, c2, c3, c4, c5, cf⟩ := hFw.out.rc.cells
    simp only [sv] at c4
    have lb := heap_lt hFw.out.rc.blk
    clear c0 c1 c2 c3 c5 cf
    by_cases hlt : i < z2
    · have hiB : i < B.length := by rw [HZ.out]; exact hlt
      have l1 : (i : Int) < (z2 : Int) := by omega
      obtain ⟨Bj, off, cap, e, hc⟩ := hFw.out.rc.row.isIn.ke i hiB
      simp only [sv] at e
      rw [HZ.out] at e
      injection e with e1 e2 e3
      clear e2
      subst e1 e3
      obtain ⟨x, hx⟩ : ∃ x, B[i] = x := ⟨_, rfl⟩
      have hxm : x ∈ B := by rw [← hx]; exact List.getElem_mem _
      rw [hx] at hc
      obtain ⟨d0, d1, d2, d3, d4, d5, d6, d7, d8, d9, d10⟩ := hc wr (Below.refl _ _)
      have HXc : Hid (∀ V, Below wr.heap.size wr V → CellsE V Bj (off + i * 11) x) := hc
      have hkv := HKv.out x hxm
      have HNm : Hid (Calls Tryd.prog 85 #[.agg (rsv x.rn (sv x.ry) x.rb)] wr fun e w' => NmPost (vsL x.fr varyS) wr e w') := HrN.out x.rn x.ry x.rb x.fr wr (hFw.out.rc.fl x hxm).2.isIn hkv.zv hkv.zn
      have HXr : Hid (0 ≤ x.ar ∧ x.ar ≤ n1 ∧ n1 ≤ 9223372036854775807) := ⟨(HN1.out.2 x hxm).1, (HN1.out.2 x hxm).2, HN1.out.1⟩
      have HXm : Hid (x ∈ B ∧ x.fq.length ≤ 1099511627776) := ⟨hxm, hkv.zq⟩
      have HXi : Hid (B[i]'hiB = x) := hx
      clear hc hx hxm hkv
      obtain ⟨kst, kar, ⟨km, ks, ka, kp, ⟨ky1, ky2, ky3⟩, kb⟩, krn, ⟨kr1, kr2, kr3⟩, krb, kfq, kfr⟩ := x
      simp only [sv, rsv] at d0 d1 d2 d3 d4 d5 d6 d7 d8 d9 d10 HNm
      go_wp2_with fail
      go_at_call 85
      refine HNm.out.mono ?_
      rintro e V5 ⟨⟨t1, t2, t3⟩, rfl, bV, hNr, _⟩
      have HFw : Hid (Fw W V5 b me mb lf pd (some ⟨Bj, off, none⟩, z2, z3) B n1 q0 ⟨m, s, a, p, (y1, y2, y3), qb⟩) := hFw.out.below bV
      obtain ⟨M, hM⟩ : ∃ M, mtB ⟨km, ks, ka, kp, (ky1, ky2, ky3), kb⟩ ⟨m, s, a, p, (y1, y2, y3), qb⟩ kfq Q (nmF kfr) = M := ⟨_, rfl⟩
      have HMt : Hid (∀ V, Below V5.heap.size V5 V → Calls Tryd.prog 87 #[.agg #[.string km, .string ks, .string ka, .string kp, .slice ky1 ky2 ky3, .string kb], .agg #[.string m, .string s, .string a, .string p, .slice y1 y2 y3, .string qb], .slice t1 t2 t3] V fun e w' => e = .returned (.bool M) ∧ Below V.heap.size V w') := fun V hV => by
        have h1 := HFw.out.below hV
        have := HrM.out ⟨km, ks, ka, kp, (ky1, ky2, ky3), kb⟩ ⟨m, s, a, p, (y1, y2, y3), qb⟩ (t1, t2, t3) kfq Q (nmF kfr) V (h1.rc.fl _ HXm.out.1).1.isIn (HQ.out V h1.ks) (hNr.isIn.below hV) (by have : kfq.length ≤ 1099511627776 := HXm.out.2; omega) (by have := HZQ.out; omega)
        rw [hM] at this
        exact this
      have HEx : Hid (∀ V, Below V5.heap.size V5 V → Calls Tryd.prog 74 #[.pointer (some ⟨b, 0, none⟩), .agg #[.string km, .string ks, .string ka, .string kp, .slice ky1 ky2 ky3, .string kb, .int .i64 krn, .slice kr1 kr2 kr3, .string krb, .int .i64 kst, .int .i64 kar]] V fun r w' => r = .returned (.bool (decide (lf < n1 - kar))) ∧ Below V.heap.size V w') := fun V hV => rexpired_any V b me mb lf pd _ n1 ⟨kst, kar, ⟨km, ks, ka, kp, (ky1, ky2, ky3), kb⟩, krn, (kr1, kr2, kr3), krb, kfq, kfr⟩ (HFw.out.below hV).rc.blk HXr.out
      have HAn : Hid (anK n1 lf ⟨m, s, a, p, (y1, y2, y3), qb⟩ Q (B[i]'hiB) = (decide (qb = ⟨#[]⟩) && (decide (n1 - kar ≤ lf) && M))) := by show _ = _; rw [HXi.out]; unfold anK; simp only; rw [hM]
      have HXc5 : Hid (∀ V, Below V5.heap.size V5 V → CellsE V Bj (off + i * 11) ⟨kst, kar, ⟨km, ks, ka, kp, (ky1, ky2, ky3), kb⟩, krn, (kr1, kr2, kr3), krb, kfq, kfr⟩) := fun V hV => HXc.out V (bV.trans (hV.mono bV.size))
      clear hM bV hNr HNm HXc d0 d1 d2 d3 d4 d5 d6 d7 d8 d9 d10 hFw c4
      have lb5 := heap_lt HFw.out.rc.blk
      simp only [sv]
      go_upto_region 6 with fail
      by_cases hqb : qb = ⟨#[]⟩
      · subst hqb
        obtain ⟨ex, hex⟩ : ∃ x, decide (lf < n1 - kar) = x := ⟨_, rfl⟩
        rw [hex] at HEx
        have hS6 : Hid (∀ V, Below V5.heap.size V5 V → V.cell? ⟨b, 4, none⟩ = some (.slice (some ⟨Bj, off, none⟩) z2 z3) ∧ V.cell? ⟨q0, 0, none⟩ = some (.string m) ∧ V.cell? ⟨q0, 1, none⟩ = some (.string s) ∧ V.cell? ⟨q0, 2, none⟩ = some (.string a) ∧ V.cell? ⟨q0, 3, none⟩ = some (.string p) ∧ V.cell? ⟨q0, 4, none⟩ = some (.slice y1 y2 y3) ∧ V.cell? ⟨q0, 5, none⟩ = some (.string ⟨#[]⟩) ∧ V.cell? ⟨Bj, off + i * 11, none⟩ = some (.string km) ∧ V.cell? ⟨Bj, off + i * 11 + 1, none⟩ = some (.string ks) ∧ V.cell? ⟨Bj, off + i * 11 + 2, none⟩ = some (.string ka) ∧ V.cell? ⟨Bj, off + i * 11 + 3, none⟩ = some (.string kp) ∧ V.cell? ⟨Bj, off + i * 11 + 4, none⟩ = some (.slice ky1 ky2 ky3) ∧ V.cell? ⟨Bj, off + i * 11 + 5, none⟩ = some (.string kb) ∧ V.cell? ⟨Bj, off + i * 11 + 6, none⟩ = some (.int .i64 krn) ∧ V.cell? ⟨Bj, off + i * 11 + 7, none⟩ = some (.slice kr1 kr2 kr3) ∧ V.cell? ⟨Bj, off + i * 11 + 8, none⟩ = some (.string krb) ∧ V.cell? ⟨Bj, off + i * 11 + 9, none⟩ = some (.int .i64 kst) ∧ V.cell? ⟨Bj, off + i * 11 + 10, none⟩ = some (.int .i64 kar)) := fun V hV => by
          have h1 := (HFw.out.below hV).rc.cells
          have h2 := (HFw.out.below hV).rq.cells
          have h3 := HXc5.out V hV
          exact ⟨h1.2.2.2.2.1, h2.1, h2.2.1, h2.2.2.1, h2.2.2.2.1, h2.2.2.2.2.1, h2.2.2.2.2.2.1, h3.1, h3.2.1, h3.2.2.1, h3.2.2.2.1, h3.2.2.2.2.1, h3.2.2.2.2.2.1, h3.2.2.2.2.2.2.1, h3.2.2.2.2.2.2.2.1, h3.2.2.2.2.2.2.2.2.1, h3.2.2.2.2.2.2.2.2.2.1, h3.2.2.2.2.2.2.2.2.2.2⟩
        cases ex
        · have HA : Hid (anK n1 lf ⟨m, s, a, p, (y1, y2, y3), ⟨#[]⟩⟩ Q (B[i]'hiB) = M) := by
            show _ = _
            have := of_decide_eq_false hex
            rw [HAn.out, decide_eq_true rfl, decide_eq_true (by omega)]
            simp
          clear HAn hex HXc5
          have hIW : Below V5.heap.size V5 V5.drew := (Below.refl _ _).drew
          refine wp_region_held_drew (S := (fun V => V.cell? ⟨b, 4, none⟩ = some (.slice (some ⟨Bj, off, none⟩) z2 z3) ∧ V.cell? ⟨q0, 0, none⟩ = some (.string m) ∧ V.cell? ⟨q0, 1, none⟩ = some (.string s) ∧ V.cell? ⟨q0, 2, none⟩ = some (.string a) ∧ V.cell? ⟨q0, 3, none⟩ = some (.string p) ∧ V.cell? ⟨q0, 4, none⟩ = some (.slice y1 y2 y3) ∧ V.cell? ⟨q0, 5, none⟩ = some (.string ⟨#[]⟩) ∧ V.cell? ⟨Bj, off + i * 11, none⟩ = some (.string km) ∧ V.cell? ⟨Bj, off + i * 11 + 1, none⟩ = some (.string ks) ∧ V.cell? ⟨Bj, off + i * 11 + 2, none⟩ = some (.string ka) ∧ V.cell? ⟨Bj, off + i * 11 + 3, none⟩ = some (.string kp) ∧ V.cell? ⟨Bj, off + i * 11 + 4, none⟩ = some (.slice ky1 ky2 ky3) ∧ V.cell? ⟨Bj, off + i * 11 + 5, none⟩ = some (.string kb) ∧ V.cell? ⟨Bj, off + i * 11 + 6, none⟩ = some (.int .i64 krn) ∧ V.cell? ⟨Bj, off + i * 11 + 7, none⟩ = some (.slice kr1 kr2 kr3) ∧ V.cell? ⟨Bj, off + i * 11 + 8, none⟩ = some (.string krb) ∧ V.cell? ⟨Bj, off + i * 11 + 9, none⟩ = some (.int .i64 kst) ∧ V.cell? ⟨Bj, off + i * 11 + 10, none⟩ = some (.int .i64 kar))) (by kernel_rfl) (hS6.out _ hIW) (fun hHeld => ?_)
          generalize hWg : World.drew _ = W6 at hIW hHeld ⊢
          clear hWg
          refine wpAnyH_take (i := 0) (oi := { dst := some 40, op := Op.fieldAddr 24 (Operand.tmp 4) 5, type := 0, pos := "ref.go:109", after := #[], guard := none }) (v := ?vv1) rfl (by kernel_rfl) (by kernel_rfl) (by kernel_rfl) (fun _ _ _ h => h) (Or.inl ⟨by rfl, ?hy1⟩) (by assumption) ?_
          case hy1 => (intro w hSw; (try dsimp only at hSw); go_simp; all_goals with_reducible rfl)
          try simp only [Act.put, List.setIfInBounds_toArray, List.set_cons_zero, List.set_cons_succ]
          refine wpAnyH_take (i := 1) (oi := { dst := some 41, op := Op.load 9 (Operand.tmp 40), type := 9, pos := "ref.go:109", after := #[{ on := 0, ground := Ground.data }], guard := none }) (v := ?vv2) rfl (by kernel_rfl) (by kernel_rfl) (by kernel_rfl) (fun _ _ _ h => h) (Or.inl ⟨by rfl, ?hy2⟩) (by assumption) ?_
          case hy2 => (intro w hSw; (try dsimp only at hSw); go_simp; all_goals with_reducible rfl)
          try simp only [Act.put, List.setIfInBounds_toArray, List.set_cons_zero, List.set_cons_succ]
          refine wpAnyH_take (i := 2) (oi := { dst := some 42, op := Op.binOp BinOp.eql 9 (Operand.tmp 41) (Operand.const (Value.string { data := #[] })) 9, type := 4, pos := "ref.go:109", after := #[{ on := 1, ground := Ground.data }], guard := none }) (v := ?vv3) rfl (by kernel_rfl) (by kernel_rfl) (by kernel_rfl) (fun _ _ _ h => h) (Or.inl ⟨by rfl, ?hy3⟩) (by assumption) ?_
          case hy3 => (intro w hSw; (try dsimp only at hSw); go_simp; all_goals with_reducible rfl)
          try simp only [Act.put, List.setIfInBounds_toArray, List.set_cons_zero, List.set_cons_succ]
          refine wpAnyH_take (i := 3) (oi := { dst := some 43, op := Op.move (Operand.tmp 42), type := 4, pos := "ref.go:109", after := #[{ on := 2, ground := Ground.data }], guard := none }) (v := ?vv4) rfl (by kernel_rfl) (by kernel_rfl) (by kernel_rfl) (fun _ _ _ h => h) (Or.inl ⟨by rfl, ?hy4⟩) (by assumption) ?_
          case hy4 => (intro w hSw; (try dsimp only at hSw); go_simp; all_goals with_reducible rfl)
          try simp only [Act.put, List.setIfInBounds_toArray, List.set_cons_zero, List.set_cons_succ]
          refine wpAnyH_take (i := 4) (oi := { dst := some 44, op := Op.move (Operand.tmp 0), type := 66, pos := "ref.go:109", after := #[{ on := 3, ground := Ground.guard }], guard := some (3, true) }) (v := ?vv5) rfl (by kernel_rfl) (by kernel_rfl) (by kernel_rfl) (fun _ _ _ h => h) (Or.inl ⟨by rfl, ?hy5⟩) (by assumption) ?_
          case hy5 => (intro w hSw; (try dsimp only at hSw); go_simp; all_goals with_reducible rfl)
          try simp only [Act.put, List.setIfInBounds_toArray, List.set_cons_zero, List.set_cons_succ]
          refine wpAnyH_take (i := 5) (oi := { dst := some 45, op := Op.move (Operand.tmp 0), type := 66, pos := "ref.go:109", after := #[{ on := 3, ground := Ground.guard }], guard := some (3, true) }) (v := ?vv6) rfl (by kernel_rfl) (by kernel_rfl) (by kernel_rfl) (fun _ _ _ h => h) (Or.inl ⟨by rfl, ?hy6⟩) (by assumption) ?_
          case hy6 => (intro w hSw; (try dsimp only at hSw); go_simp; all_goals with_reducible rfl)
          try simp only [Act.put, List.setIfInBounds_toArray, List.set_cons_zero, List.set_cons_succ]
          refine wpAnyH_take (i := 6) (oi := { dst := some 46, op := Op.nilCheck (Operand.tmp 45), type := 0, pos := "ref.go:109", after := #[{ on := 5, ground := Ground.data }, { on := 3, ground := Ground.guard }], guard := some (3, true) }) (v := ?vv7) rfl (by kernel_rfl) (by kernel_rfl) (by kernel_rfl) (fun _ _ _ h => h) (Or.inl ⟨by rfl, ?hy7⟩) (by assumption) ?_
          case hy7 => (intro w hSw; (try dsimp only at hSw); go_simp; all_goals with_reducible rfl)
          try simp only [Act.put, List.setIfInBounds_toArray, List.set_cons_zero, List.set_cons_succ]
          refine wpAnyH_take (i := 7) (oi := { dst := some 47, op := Op.fieldAddr 100 (Operand.tmp 46) 1, type := 0, pos := "ref.go:109", after := #[{ on := 6, ground := Ground.data }, { on := 3, ground := Ground.guard }], guard := some (3, true) }) (v := ?vv8) rfl (by kernel_rfl) (by kernel_rfl) (by kernel_rfl) (fun _ _ _ h => h) (Or.inl ⟨by rfl, ?hy8⟩) (by assumption) ?_
          case hy8 => (intro w hSw; (try dsimp only at hSw); go_simp; all_goals with_reducible rfl)
          try simp only [Act.put, List.setIfInBounds_toArray, List.set_cons_zero, List.set_cons_succ]
          refine wpAnyH_take (i := 8) (oi := { dst := some 48, op := Op.load 98 (Operand.tmp 47), type := 98, pos := "ref.go:109", after := #[{ on := 7, ground := Ground.data }, { on := 3, ground := Ground.guard }], guard := some (3, true) }) (v := ?vv9) rfl (by kernel_rfl) (by kernel_rfl) (by kernel_rfl) (fun _ _ _ h => h) (Or.inl ⟨by rfl, ?hy9⟩) (by assumption) ?_
          case hy9 => (intro w hSw; (try dsimp only at hSw); go_simp; all_goals with_reducible rfl)
          try simp only [Act.put, List.setIfInBounds_toArray, List.set_cons_zero, List.set_cons_succ]
          refine wpAnyH_take (i := 9) (oi := { dst := some 49, op := Op.move (Operand.tmp 7), type := 3, pos := "ref.go:109", after := #[{ on := 3, ground := Ground.guard }], guard := some (3, true) }) (v := ?vv10) rfl (by kernel_rfl) (by kernel_rfl) (by kernel_rfl) (fun _ _ _ h => h) (Or.inl ⟨by rfl, ?hy10⟩) (by assumption) ?_
          case hy10 => (intro w hSw; (try dsimp only at hSw); go_simp; all_goals with_reducible rfl)
          try simp only [Act.put, List.setIfInBounds_toArray, List.set_cons_zero, List.set_cons_succ]
          refine wpAnyH_take (i := 10) (oi := { dst := some 50, op := Op.indexAddr 98 (Operand.tmp 48) (Operand.tmp 49), type := 0, pos := "ref.go:109", after := #[{ on := 8, ground := Ground.data }, { on := 9, ground := Ground.data }, { on := 3, ground := Ground.guard }], guard := some (3, true) }) (v := ?vv11) rfl (by kernel_rfl) (by kernel_rfl) (by kernel_rfl) (fun _ _ _ h => h) (Or.inl ⟨by rfl, ?hy11⟩) (by assumption) ?_
          case hy11 => (intro w hSw; (try dsimp only at hSw); go_simp; all_goals with_reducible rfl)
          try simp only [Act.put, List.setIfInBounds_toArray, List.set_cons_zero, List.set_cons_succ]
          refine wpAnyH_take (i := 11) (oi := { dst := some 51, op := Op.load 119 (Operand.tmp 50), type := 119, pos := "ref.go:109", after := #[{ on := 10, ground := Ground.data }, { on := 3, ground := Ground.guard }], guard := some (3, true) }) (v := ?vv12) rfl (by kernel_rfl) (by kernel_rfl) (by kernel_rfl) (fun _ _ _ h => h) (Or.inl ⟨by rfl, ?hy12⟩) (by assumption) ?_
          case hy12 => (intro w hSw; (try dsimp only at hSw); go_simp; all_goals with_reducible rfl)
          try simp only [Act.put, List.setIfInBounds_toArray, List.set_cons_zero, List.set_cons_succ]
          refine wpAnyH_ready (rs := [12]) (by kernel_rfl) (by simp) ?_
          refine AllReadyH.cons (o := { dst := some 52, op := Op.call { callee := Callee.value (Operand.func 74), args := #[Operand.tmp 44, Operand.tmp 51], argTypes := #[66, 119] }, type := 4, pos := "ref.go:109", after := #[{ on := 4, ground := Ground.data }, { on := 11, ground := Ground.data }, { on := 3, ground := Ground.chain }, { on := 3, ground := Ground.guard }], guard := some (3, true) }) rfl (fun K hK => ?_) AllReadyH.nil
          refine ite_take (by rfl) ?_
          go_simp
          refine (HEx.out _ hIW).mono ?_
          rintro e' W6x ⟨rfl, bX⟩
          have hW6x : Below V5.heap.size V5 W6x := hIW.trans (bX.mono hIW.size)
          clear bX
          go_wp2_with fail
          refine hK.out _ _ (hS6.out _ hW6x) (fun hHeld => ?_)
          clear hK K
          try simp only [Act.put, List.setIfInBounds_toArray, List.set_cons_zero, List.set_cons_succ]
          refine wpAnyH_take (i := 13) (oi := { dst := some 53, op := Op.unOp UnOp.not 4 (Operand.tmp 52), type := 4, pos := "ref.go:109", after := #[{ on := 12, ground := Ground.data }, { on := 3, ground := Ground.guard }], guard := some (3, true) }) (v := ?vv13) rfl (by kernel_rfl) (by kernel_rfl) (by kernel_rfl) (fun _ _ _ h => h) (Or.inl ⟨by rfl, ?hy13⟩) (by assumption) ?_
          case hy13 => (intro w hSw; (try dsimp only at hSw); go_simp; all_goals with_reducible rfl)
          try simp only [Act.put, List.setIfInBounds_toArray, List.set_cons_zero, List.set_cons_succ]
          refine wpAnyH_take (i := 14) (oi := { dst := some 54, op := Op.pick (Operand.tmp 43) (Operand.tmp 53) (Operand.const (Value.bool false)), type := 4, pos := "ref.go:109", after := #[{ on := 3, ground := Ground.data }, { on := 13, ground := Ground.data }], guard := none }) (v := ?vv14) rfl (by kernel_rfl) (by kernel_rfl) (by kernel_rfl) (fun _ _ _ h => h) (Or.inl ⟨by rfl, ?hy14⟩) (by assumption) ?_
          case hy14 => (intro w hSw; (try dsimp only at hSw); go_simp; all_goals with_reducible rfl)
          try simp only [Act.put, List.setIfInBounds_toArray, List.set_cons_zero, List.set_cons_succ]
          refine wpAnyH_take (i := 15) (oi := { dst := some 55, op := Op.move (Operand.tmp 54), type := 4, pos := "ref.go:109", after := #[{ on := 14, ground := Ground.data }, { on := 12, ground := Ground.chain }], guard := none }) (v := ?vv15) rfl (by kernel_rfl) (by kernel_rfl) (by kernel_rfl) (fun _ _ _ h => h) (Or.inl ⟨by rfl, ?hy15⟩) (by assumption) ?_
          case hy15 => (intro w hSw; (try dsimp only at hSw); go_simp; all_goals with_reducible rfl)
          try simp only [Act.put, List.setIfInBounds_toArray, List.set_cons_zero, List.set_cons_succ]
          refine wpAnyH_take (i := 16) (oi := { dst := some 56, op := Op.move (Operand.tmp 0), type := 66, pos := "ref.go:109", after := #[{ on := 15, ground := Ground.guard }], guard := some (15, true) }) (v := ?vv16) rfl (by kernel_rfl) (by kernel_rfl) (by kernel_rfl) (fun _ _ _ h => h) (Or.inl ⟨by rfl, ?hy16⟩) (by assumption) ?_
          case hy16 => (intro w hSw; (try dsimp only at hSw); go_simp; all_goals with_reducible rfl)
          try simp only [Act.put, List.setIfInBounds_toArray, List.set_cons_zero, List.set_cons_succ]
          refine wpAnyH_take (i := 17) (oi := { dst := some 57, op := Op.nilCheck (Operand.tmp 56), type := 0, pos := "ref.go:109", after := #[{ on := 16, ground := Ground.data }, { on := 15, ground := Ground.guard }], guard := some (15, true) }) (v := ?vv17) rfl (by kernel_rfl) (by kernel_rfl) (by kernel_rfl) (fun _ _ _ h => h) (Or.inl ⟨by rfl, ?hy17⟩) (by assumption) ?_
          case hy17 => (intro w hSw; (try dsimp only at hSw); go_simp; all_goals with_reducible rfl)
          try simp only [Act.put, List.setIfInBounds_toArray, List.set_cons_zero, List.set_cons_succ]
          refine wpAnyH_take (i := 18) (oi := { dst := some 58, op := Op.fieldAddr 100 (Operand.tmp 57) 1, type := 0, pos := "ref.go:109", after := #[{ on := 17, ground := Ground.data }, { on := 15, ground := Ground.guard }], guard := some (15, true) }) (v := ?vv18) rfl (by kernel_rfl) (by kernel_rfl) (by kernel_rfl) (fun _ _ _ h => h) (Or.inl ⟨by rfl, ?hy18⟩) (by assumption) ?_
          case hy18 => (intro w hSw; (try dsimp only at hSw); go_simp; all_goals with_reducible rfl)
          try simp only [Act.put, List.setIfInBounds_toArray, List.set_cons_zero, List.set_cons_succ]
          refine wpAnyH_take (i := 19) (oi := { dst := some 59, op := Op.load 98 (Operand.tmp 58), type := 98, pos := "ref.go:109", after := #[{ on := 18, ground := Ground.data }, { on := 15, ground := Ground.guard }], guard := some (15, true) }) (v := ?vv19) rfl (by kernel_rfl) (by kernel_rfl) (by kernel_rfl) (fun _ _ _ h => h) (Or.inl ⟨by rfl, ?hy19⟩) (by assumption) ?_
          case hy19 => (intro w hSw; (try dsimp only at hSw); go_simp; all_goals with_reducible rfl)
          try simp only [Act.put, List.setIfInBounds_toArray, List.set_cons_zero, List.set_cons_succ]
          refine wpAnyH_take (i := 20) (oi := { dst := some 60, op := Op.move (Operand.tmp 7), type := 3, pos := "ref.go:109", after := #[{ on := 15, ground := Ground.guard }], guard := some (15, true) }) (v := ?vv20) rfl (by kernel_rfl) (by kernel_rfl) (by kernel_rfl) (fun _ _ _ h => h) (Or.inl ⟨by rfl, ?hy20⟩) (by assumption) ?_
          case hy20 => (intro w hSw; (try dsimp only at hSw); go_simp; all_goals with_reducible rfl)
          try simp only [Act.put, List.setIfInBounds_toArray, List.set_cons_zero, List.set_cons_succ]
          refine wpAnyH_take (i := 21) (oi := { dst := some 61, op := Op.indexAddr 98 (Operand.tmp 59) (Operand.tmp 60), type := 0, pos := "ref.go:109", after := #[{ on := 19, ground := Ground.data }, { on := 20, ground := Ground.data }, { on := 15, ground := Ground.guard }], guard := some (15, true) }) (v := ?vv21) rfl (by kernel_rfl) (by kernel_rfl) (by kernel_rfl) (fun _ _ _ h => h) (Or.inl ⟨by rfl, ?hy21⟩) (by assumption) ?_
          case hy21 => (intro w hSw; (try dsimp only at hSw); go_simp; all_goals with_reducible rfl)
          try simp only [Act.put, List.setIfInBounds_toArray, List.set_cons_zero, List.set_cons_succ]
          refine wpAnyH_take (i := 22) (oi := { dst := some 62, op := Op.fieldAddr 119 (Operand.tmp 61) 0, type := 0, pos := "ref.go:109", after := #[{ on := 21, ground := Ground.data }, { on := 15, ground := Ground.guard }], guard := some (15, true) }) (v := ?vv22) rfl (by kernel_rfl) (by kernel_rfl) (by kernel_rfl) (fun _ _ _ h => h) (Or.inl ⟨by rfl, ?hy22⟩) (by assumption) ?_
          case hy22 => (intro w hSw; (try dsimp only at hSw); go_simp; all_goals with_reducible rfl)
          try simp only [Act.put, List.setIfInBounds_toArray, List.set_cons_zero, List.set_cons_succ]
          refine wpAnyH_take (i := 23) (oi := { dst := some 63, op := Op.load 24 (Operand.tmp 62), type := 24, pos := "ref.go:109", after := #[{ on := 22, ground := Ground.data }, { on := 15, ground := Ground.guard }], guard := some (15, true) }) (v := ?vv23) rfl (by kernel_rfl) (by kernel_rfl) (by kernel_rfl) (fun _ _ _ h => h) (Or.inl ⟨by rfl, ?hy23⟩) (by assumption) ?_
          case hy23 => (intro w hSw; (try dsimp only at hSw); go_simp; all_goals with_reducible rfl)
          try simp only [Act.put, List.setIfInBounds_toArray, List.set_cons_zero, List.set_cons_succ]
          refine wpAnyH_take (i := 24) (oi := { dst := some 64, op := Op.load 24 (Operand.tmp 4), type := 24, pos := "ref.go:109", after := #[{ on := 15, ground := Ground.guard }], guard := some (15, true) }) (v := ?vv24) rfl (by kernel_rfl) (by kernel_rfl) (by kernel_rfl) (fun _ _ _ h => h) (Or.inl ⟨by rfl, ?hy24⟩) (by assumption) ?_
          case hy24 => (intro w hSw; (try dsimp only at hSw); go_simp; all_goals with_reducible rfl)
          try simp only [Act.put, List.setIfInBounds_toArray, List.set_cons_zero, List.set_cons_succ]
          refine wpAnyH_take (i := 25) (oi := { dst := some 65, op := Op.move (Operand.tmp 8), type := 27, pos := "ref.go:109", after := #[{ on := 15, ground := Ground.guard }], guard := some (15, true) }) (v := ?vv25) rfl (by kernel_rfl) (by kernel_rfl) (by kernel_rfl) (fun _ _ _ h => h) (Or.inl ⟨by rfl, ?hy25⟩) (by assumption) ?_
          case hy25 => (intro w hSw; (try dsimp only at hSw); go_simp; all_goals with_reducible rfl)
          try simp only [Act.put, List.setIfInBounds_toArray, List.set_cons_zero, List.set_cons_succ]
          refine wpAnyH_ready (rs := [26]) (by kernel_rfl) (by simp) ?_
          refine AllReadyH.cons (o := { dst := some 66, op := Op.call { callee := Callee.value (Operand.func 87), args := #[Operand.tmp 63, Operand.tmp 64, Operand.tmp 65], argTypes := #[24, 24, 27] }, type := 4, pos := "ref.go:109", after := #[{ on := 23, ground := Ground.data }, { on := 24, ground := Ground.data }, { on := 25, ground := Ground.data }, { on := 15, ground := Ground.chain }, { on := 15, ground := Ground.guard }], guard := some (15, true) }) rfl (fun K hK => ?_) AllReadyH.nil
          refine ite_take (by rfl) ?_
          go_simp
          refine (HMt.out _ hW6x).mono ?_
          rintro e' W6xx ⟨rfl, bX⟩
          have hW6xx : Below V5.heap.size V5 W6xx := hW6x.trans (bX.mono hW6x.size)
          clear bX
          go_wp2_with fail
          refine hK.out _ _ (hS6.out _ hW6xx) (fun hHeld => ?_)
          clear hK K
          try simp only [Act.put, List.setIfInBounds_toArray, List.set_cons_zero, List.set_cons_succ]
          refine wpAnyH_take (i := 27) (oi := { dst := some 67, op := Op.pick (Operand.tmp 55) (Operand.tmp 66) (Operand.const (Value.bool false)), type := 4, pos := "ref.go:109", after := #[{ on := 15, ground := Ground.data }, { on := 26, ground := Ground.data }], guard := none }) (v := ?vv26) rfl (by kernel_rfl) (by kernel_rfl) (by kernel_rfl) (fun _ _ _ h => h) (Or.inl ⟨by rfl, ?hy26⟩) (by assumption) ?_
          case hy26 => (intro w hSw; (try dsimp only at hSw); go_simp; all_goals with_reducible rfl)
          try simp only [Act.put, List.setIfInBounds_toArray, List.set_cons_zero, List.set_cons_succ]
          refine wpAnyH_done (by kernel_rfl) ?_ _
          have HE : Hid (Fw W W6xx b me mb lf pd (some ⟨Bj, off, none⟩, z2, z3) B n1 q0 ⟨m, s, a, p, (y1, y2, y3), ⟨#[]⟩⟩) := HFw.out.below hW6xx
          clear hS6 hHeld HEx HMt HFw
          cases M
          · have HJ : Hid (Fi' B (anK n1 lf ⟨m, s, a, p, (y1, y2, y3), ⟨#[]⟩⟩ Q) (i + 1) none) := hFi.out.no1 (by have := HZ.out; omega) HA.out
            clear hFi
            go_wp2_with fail
            go_roundw
            case rel => exact ⟨i + 1, by simp, by omega, HE.out, HJ.out⟩
            case measure => simp [intOf]; omega
          · have HJ : Hid (B.findIdx? (anK n1 lf ⟨m, s, a, p, (y1, y2, y3), ⟨#[]⟩⟩ Q) = some i) := (hFi.out.yes1 (by have := HZ.out; omega) HA.out).find (fun e => by cases e)
            clear hFi
            go_wp2_with fail
            go_ret
            refine ⟨?_, HE.out.rc, HE.out.ks⟩
            rw [HJ.out]
            rfl
        · have HA : Hid (anK n1 lf ⟨m, s, a, p, (y1, y2, y3), ⟨#[]⟩⟩ Q (B[i]'hiB) = false) := by
            show _ = _
            have := of_decide_eq_true hex
            rw [HAn.out, decide_eq_false (show ¬ n1 - kar ≤ lf by omega)]
            simp
          clear HAn hex HXc5
          have hIW : Below V5.heap.size V5 V5.drew := (Below.refl _ _).drew
          refine wp_region_held_drew (S := (fun V => V.cell? ⟨b, 4, none⟩ = some (.slice (some ⟨Bj, off, none⟩) z2 z3) ∧ V.cell? ⟨q0, 0, none⟩ = some (.string m) ∧ V.cell? ⟨q0, 1, none⟩ = some (.string s) ∧ V.cell? ⟨q0, 2, none⟩ = some (.string a) ∧ V.cell? ⟨q0, 3, none⟩ = some (.string p) ∧ V.cell? ⟨q0, 4, none⟩ = some (.slice y1 y2 y3) ∧ V.cell? ⟨q0, 5, none⟩ = some (.string ⟨#[]⟩) ∧ V.cell? ⟨Bj, off + i * 11, none⟩ = some (.string km) ∧ V.cell? ⟨Bj, off + i * 11 + 1, none⟩ = some (.string ks) ∧ V.cell? ⟨Bj, off + i * 11 + 2, none⟩ = some (.string ka) ∧ V.cell? ⟨Bj, off + i * 11 + 3, none⟩ = some (.string kp) ∧ V.cell? ⟨Bj, off + i * 11 + 4, none⟩ = some (.slice ky1 ky2 ky3) ∧ V.cell? ⟨Bj, off + i * 11 + 5, none⟩ = some (.string kb) ∧ V.cell? ⟨Bj, off + i * 11 + 6, none⟩ = some (.int .i64 krn) ∧ V.cell? ⟨Bj, off + i * 11 + 7, none⟩ = some (.slice kr1 kr2 kr3) ∧ V.cell? ⟨Bj, off + i * 11 + 8, none⟩ = some (.string krb) ∧ V.cell? ⟨Bj, off + i * 11 + 9, none⟩ = some (.int .i64 kst) ∧ V.cell? ⟨Bj, off + i * 11 + 10, none⟩ = some (.int .i64 kar))) (by kernel_rfl) (hS6.out _ hIW) (fun hHeld => ?_)
          generalize hWg : World.drew _ = W6 at hIW hHeld ⊢
          clear hWg
          refine wpAnyH_take (i := 0) (oi := { dst := some 40, op := Op.fieldAddr 24 (Operand.tmp 4) 5, type := 0, pos := "ref.go:109", after := #[], guard := none }) (v := ?vv27) rfl (by kernel_rfl) (by kernel_rfl) (by kernel_rfl) (fun _ _ _ h => h) (Or.inl ⟨by rfl, ?hy27⟩) (by assumption) ?_
          case hy27 => (intro w hSw; (try dsimp only at hSw); go_simp; all_goals with_reducible rfl)
          try simp only [Act.put, List.setIfInBounds_toArray, List.set_cons_zero, List.set_cons_succ]
          refine wpAnyH_take (i := 1) (oi := { dst := some 41, op := Op.load 9 (Operand.tmp 40), type := 9, pos := "ref.go:109", after := #[{ on := 0, ground := Ground.data }], guard := none }) (v := ?vv28) rfl (by kernel_rfl) (by kernel_rfl) (by kernel_rfl) (fun _ _ _ h => h) (Or.inl ⟨by rfl, ?hy28⟩) (by assumption) ?_
          case hy28 => (intro w hSw; (try dsimp only at hSw); go_simp; all_goals with_reducible rfl)
          try simp only [Act.put, List.setIfInBounds_toArray, List.set_cons_zero, List.set_cons_succ]
          refine wpAnyH_take (i := 2) (oi := { dst := some 42, op := Op.binOp BinOp.eql 9 (Operand.tmp 41) (Operand.const (Value.string { data := #[] })) 9, type := 4, pos := "ref.go:109", after := #[{ on := 1, ground := Ground.data }], guard := none }) (v := ?vv29) rfl (by kernel_rfl) (by kernel_rfl) (by kernel_rfl) (fun _ _ _ h => h) (Or.inl ⟨by rfl, ?hy29⟩) (by assumption) ?_
          case hy29 => (intro w hSw; (try dsimp only at hSw); go_simp; all_goals with_reducible rfl)
          try simp only [Act.put, List.setIfInBounds_toArray, List.set_cons_zero, List.set_cons_succ]
          refine wpAnyH_take (i := 3) (oi := { dst := some 43, op := Op.move (Operand.tmp 42), type := 4, pos := "ref.go:109", after := #[{ on := 2, ground := Ground.data }], guard := none }) (v := ?vv30) rfl (by kernel_rfl) (by kernel_rfl) (by kernel_rfl) (fun _ _ _ h => h) (Or.inl ⟨by rfl, ?hy30⟩) (by assumption) ?_
          case hy30 => (intro w hSw; (try dsimp only at hSw); go_simp; all_goals with_reducible rfl)
          try simp only [Act.put, List.setIfInBounds_toArray, List.set_cons_zero, List.set_cons_succ]
          refine wpAnyH_take (i := 4) (oi := { dst := some 44, op := Op.move (Operand.tmp 0), type := 66, pos := "ref.go:109", after := #[{ on := 3, ground := Ground.guard }], guard := some (3, true) }) (v := ?vv31) rfl (by kernel_rfl) (by kernel_rfl) (by kernel_rfl) (fun _ _ _ h => h) (Or.inl ⟨by rfl, ?hy31⟩) (by assumption) ?_
          case hy31 => (intro w hSw; (try dsimp only at hSw); go_simp; all_goals with_reducible rfl)
          try simp only [Act.put, List.setIfInBounds_toArray, List.set_cons_zero, List.set_cons_succ]
          refine wpAnyH_take (i := 5) (oi := { dst := some 45, op := Op.move (Operand.tmp 0), type := 66, pos := "ref.go:109", after := #[{ on := 3, ground := Ground.guard }], guard := some (3, true) }) (v := ?vv32) rfl (by kernel_rfl) (by kernel_rfl) (by kernel_rfl) (fun _ _ _ h => h) (Or.inl ⟨by rfl, ?hy32⟩) (by assumption) ?_
          case hy32 => (intro w hSw; (try dsimp only at hSw); go_simp; all_goals with_reducible rfl)
          try simp only [Act.put, List.setIfInBounds_toArray, List.set_cons_zero, List.set_cons_succ]
          refine wpAnyH_take (i := 6) (oi := { dst := some 46, op := Op.nilCheck (Operand.tmp 45), type := 0, pos := "ref.go:109", after := #[{ on := 5, ground := Ground.data }, { on := 3, ground := Ground.guard }], guard := some (3, true) }) (v := ?vv33) rfl (by kernel_rfl) (by kernel_rfl) (by kernel_rfl) (fun _ _ _ h => h) (Or.inl ⟨by rfl, ?hy33⟩) (by assumption) ?_
          case hy33 => (intro w hSw; (try dsimp only at hSw); go_simp; all_goals with_reducible rfl)
          try simp only [Act.put, List.setIfInBounds_toArray, List.set_cons_zero, List.set_cons_succ]
          refine wpAnyH_take (i := 7) (oi := { dst := some 47, op := Op.fieldAddr 100 (Operand.tmp 46) 1, type := 0, pos := "ref.go:109", after := #[{ on := 6, ground := Ground.data }, { on := 3, ground := Ground.guard }], guard := some (3, true) }) (v := ?vv34) rfl (by kernel_rfl) (by kernel_rfl) (by kernel_rfl) (fun _ _ _ h => h) (Or.inl ⟨by rfl, ?hy34⟩) (by assumption) ?_
          case hy34 => (intro w hSw; (try dsimp only at hSw); go_simp; all_goals with_reducible rfl)
          try simp only [Act.put, List.setIfInBounds_toArray, List.set_cons_zero, List.set_cons_succ]
          refine wpAnyH_take (i := 8) (oi := { dst := some 48, op := Op.load 98 (Operand.tmp 47), type := 98, pos := "ref.go:109", after := #[{ on := 7, ground := Ground.data }, { on := 3, ground := Ground.guard }], guard := some (3, true) }) (v := ?vv35) rfl (by kernel_rfl) (by kernel_rfl) (by kernel_rfl) (fun _ _ _ h => h) (Or.inl ⟨by rfl, ?hy35⟩) (by assumption) ?_
          case hy35 => (intro w hSw; (try dsimp only at hSw); go_simp; all_goals with_reducible rfl)
          try simp only [Act.put, List.setIfInBounds_toArray, List.set_cons_zero, List.set_cons_succ]
          refine wpAnyH_take (i := 9) (oi := { dst := some 49, op := Op.move (Operand.tmp 7), type := 3, pos := "ref.go:109", after := #[{ on := 3, ground := Ground.guard }], guard := some (3, true) }) (v := ?vv36) rfl (by kernel_rfl) (by kernel_rfl) (by kernel_rfl) (fun _ _ _ h => h) (Or.inl ⟨by rfl, ?hy36⟩) (by assumption) ?_
          case hy36 => (intro w hSw; (try dsimp only at hSw); go_simp; all_goals with_reducible rfl)
          try simp only [Act.put, List.setIfInBounds_toArray, List.set_cons_zero, List.set_cons_succ]
          refine wpAnyH_take (i := 10) (oi := { dst := some 50, op := Op.indexAddr 98 (Operand.tmp 48) (Operand.tmp 49), type := 0, pos := "ref.go:109", after := #[{ on := 8, ground := Ground.data }, { on := 9, ground := Ground.data }, { on := 3, ground := Ground.guard }], guard := some (3, true) }) (v := ?vv37) rfl (by kernel_rfl) (by kernel_rfl) (by kernel_rfl) (fun _ _ _ h => h) (Or.inl ⟨by rfl, ?hy37⟩) (by assumption) ?_
          case hy37 => (intro w hSw; (try dsimp only at hSw); go_simp; all_goals with_reducible rfl)
          try simp only [Act.put, List.setIfInBounds_toArray, List.set_cons_zero, List.set_cons_succ]
          refine wpAnyH_take (i := 11) (oi := { dst := some 51, op := Op.load 119 (Operand.tmp 50), type := 119, pos := "ref.go:109", after := #[{ on := 10, ground := Ground.data }, { on := 3, ground := Ground.guard }], guard := some (3, true) }) (v := ?vv38) rfl (by kernel_rfl) (by kernel_rfl) (by kernel_rfl) (fun _ _ _ h => h) (Or.inl ⟨by rfl, ?hy38⟩) (by assumption) ?_
          case hy38 => (intro w hSw; (try dsimp only at hSw); go_simp; all_goals with_reducible rfl)
          try simp only [Act.put, List.setIfInBounds_toArray, List.set_cons_zero, List.set_cons_succ]
          refine wpAnyH_ready (rs := [12]) (by kernel_rfl) (by simp) ?_
          refine AllReadyH.cons (o := { dst := some 52, op := Op.call { callee := Callee.value (Operand.func 74), args := #[Operand.tmp 44, Operand.tmp 51], argTypes := #[66, 119] }, type := 4, pos := "ref.go:109", after := #[{ on := 4, ground := Ground.data }, { on := 11, ground := Ground.data }, { on := 3, ground := Ground.chain }, { on := 3, ground := Ground.guard }], guard := some (3, true) }) rfl (fun K hK => ?_) AllReadyH.nil
          refine ite_take (by rfl) ?_
          go_simp
          refine (HEx.out _ hIW).mono ?_
          rintro e' W6x ⟨rfl, bX⟩
          have hW6x : Below V5.heap.size V5 W6x := hIW.trans (bX.mono hIW.size)
          clear bX
          go_wp2_with fail
          refine hK.out _ _ (hS6.out _ hW6x) (fun hHeld => ?_)
          clear hK K
          try simp only [Act.put, List.setIfInBounds_toArray, List.set_cons_zero, List.set_cons_succ]
          refine wpAnyH_take (i := 13) (oi := { dst := some 53, op := Op.unOp UnOp.not 4 (Operand.tmp 52), type := 4, pos := "ref.go:109", after := #[{ on := 12, ground := Ground.data }, { on := 3, ground := Ground.guard }], guard := some (3, true) }) (v := ?vv39) rfl (by kernel_rfl) (by kernel_rfl) (by kernel_rfl) (fun _ _ _ h => h) (Or.inl ⟨by rfl, ?hy39⟩) (by assumption) ?_
          case hy39 => (intro w hSw; (try dsimp only at hSw); go_simp; all_goals with_reducible rfl)
          try simp only [Act.put, List.setIfInBounds_toArray, List.set_cons_zero, List.set_cons_succ]
          refine wpAnyH_take (i := 14) (oi := { dst := some 54, op := Op.pick (Operand.tmp 43) (Operand.tmp 53) (Operand.const (Value.bool false)), type := 4, pos := "ref.go:109", after := #[{ on := 3, ground := Ground.data }, { on := 13, ground := Ground.data }], guard := none }) (v := ?vv40) rfl (by kernel_rfl) (by kernel_rfl) (by kernel_rfl) (fun _ _ _ h => h) (Or.inl ⟨by rfl, ?hy40⟩) (by assumption) ?_
          case hy40 => (intro w hSw; (try dsimp only at hSw); go_simp; all_goals with_reducible rfl)
          try simp only [Act.put, List.setIfInBounds_toArray, List.set_cons_zero, List.set_cons_succ]
          refine wpAnyH_take (i := 15) (oi := { dst := some 55, op := Op.move (Operand.tmp 54), type := 4, pos := "ref.go:109", after := #[{ on := 14, ground := Ground.data }, { on := 12, ground := Ground.chain }], guard := none }) (v := ?vv41) rfl (by kernel_rfl) (by kernel_rfl) (by kernel_rfl) (fun _ _ _ h => h) (Or.inl ⟨by rfl, ?hy41⟩) (by assumption) ?_
          case hy41 => (intro w hSw; (try dsimp only at hSw); go_simp; all_goals with_reducible rfl)
          try simp only [Act.put, List.setIfInBounds_toArray, List.set_cons_zero, List.set_cons_succ]
          refine wpAnyH_take (i := 16) (oi := { dst := some 56, op := Op.move (Operand.tmp 0), type := 66, pos := "ref.go:109", after := #[{ on := 15, ground := Ground.guard }], guard := some (15, true) }) (v := undef) rfl (by kernel_rfl) (by kernel_rfl) (by kernel_rfl) (fun _ _ _ h => h) (Or.inr ⟨by rfl, rfl⟩) (by assumption) ?_
          try simp only [Act.put, List.setIfInBounds_toArray, List.set_cons_zero, List.set_cons_succ]
          refine wpAnyH_take (i := 17) (oi := { dst := some 57, op := Op.nilCheck (Operand.tmp 56), type := 0, pos := "ref.go:109", after := #[{ on := 16, ground := Ground.data }, { on := 15, ground := Ground.guard }], guard := some (15, true) }) (v := undef) rfl (by kernel_rfl) (by kernel_rfl) (by kernel_rfl) (fun _ _ _ h => h) (Or.inr ⟨by rfl, rfl⟩) (by assumption) ?_
          try simp only [Act.put, List.setIfInBounds_toArray, List.set_cons_zero, List.set_cons_succ]
          refine wpAnyH_take (i := 18) (oi := { dst := some 58, op := Op.fieldAddr 100 (Operand.tmp 57) 1, type := 0, pos := "ref.go:109", after := #[{ on := 17, ground := Ground.data }, { on := 15, ground := Ground.guard }], guard := some (15, true) }) (v := undef) rfl (by kernel_rfl) (by kernel_rfl) (by kernel_rfl) (fun _ _ _ h => h) (Or.inr ⟨by rfl, rfl⟩) (by assumption) ?_
          try simp only [Act.put, List.setIfInBounds_toArray, List.set_cons_zero, List.set_cons_succ]
          refine wpAnyH_take (i := 19) (oi := { dst := some 59, op := Op.load 98 (Operand.tmp 58), type := 98, pos := "ref.go:109", after := #[{ on := 18, ground := Ground.data }, { on := 15, ground := Ground.guard }], guard := some (15, true) }) (v := undef) rfl (by kernel_rfl) (by kernel_rfl) (by kernel_rfl) (fun _ _ _ h => h) (Or.inr ⟨by rfl, rfl⟩) (by assumption) ?_
          try simp only [Act.put, List.setIfInBounds_toArray, List.set_cons_zero, List.set_cons_succ]
          refine wpAnyH_take (i := 20) (oi := { dst := some 60, op := Op.move (Operand.tmp 7), type := 3, pos := "ref.go:109", after := #[{ on := 15, ground := Ground.guard }], guard := some (15, true) }) (v := undef) rfl (by kernel_rfl) (by kernel_rfl) (by kernel_rfl) (fun _ _ _ h => h) (Or.inr ⟨by rfl, rfl⟩) (by assumption) ?_
          try simp only [Act.put, List.setIfInBounds_toArray, List.set_cons_zero, List.set_cons_succ]
          refine wpAnyH_take (i := 21) (oi := { dst := some 61, op := Op.indexAddr 98 (Operand.tmp 59) (Operand.tmp 60), type := 0, pos := "ref.go:109", after := #[{ on := 19, ground := Ground.data }, { on := 20, ground := Ground.data }, { on := 15, ground := Ground.guard }], guard := some (15, true) }) (v := undef) rfl (by kernel_rfl) (by kernel_rfl) (by kernel_rfl) (fun _ _ _ h => h) (Or.inr ⟨by rfl, rfl⟩) (by assumption) ?_
          try simp only [Act.put, List.setIfInBounds_toArray, List.set_cons_zero, List.set_cons_succ]
          refine wpAnyH_take (i := 22) (oi := { dst := some 62, op := Op.fieldAddr 119 (Operand.tmp 61) 0, type := 0, pos := "ref.go:109", after := #[{ on := 21, ground := Ground.data }, { on := 15, ground := Ground.guard }], guard := some (15, true) }) (v := undef) rfl (by kernel_rfl) (by kernel_rfl) (by kernel_rfl) (fun _ _ _ h => h) (Or.inr ⟨by rfl, rfl⟩) (by assumption) ?_
          try simp only [Act.put, List.setIfInBounds_toArray, List.set_cons_zero, List.set_cons_succ]
          refine wpAnyH_take (i := 23) (oi := { dst := some 63, op := Op.load 24 (Operand.tmp 62), type := 24, pos := "ref.go:109", after := #[{ on := 22, ground := Ground.data }, { on := 15, ground := Ground.guard }], guard := some (15, true) }) (v := undef) rfl (by kernel_rfl) (by kernel_rfl) (by kernel_rfl) (fun _ _ _ h => h) (Or.inr ⟨by rfl, rfl⟩) (by assumption) ?_
          try simp only [Act.put, List.setIfInBounds_toArray, List.set_cons_zero, List.set_cons_succ]
          refine wpAnyH_take (i := 24) (oi := { dst := some 64, op := Op.load 24 (Operand.tmp 4), type := 24, pos := "ref.go:109", after := #[{ on := 15, ground := Ground.guard }], guard := some (15, true) }) (v := undef) rfl (by kernel_rfl) (by kernel_rfl) (by kernel_rfl) (fun _ _ _ h => h) (Or.inr ⟨by rfl, rfl⟩) (by assumption) ?_
          try simp only [Act.put, List.setIfInBounds_toArray, List.set_cons_zero, List.set_cons_succ]
          refine wpAnyH_take (i := 25) (oi := { dst := some 65, op := Op.move (Operand.tmp 8), type := 27, pos := "ref.go:109", after := #[{ on := 15, ground := Ground.guard }], guard := some (15, true) }) (v := undef) rfl (by kernel_rfl) (by kernel_rfl) (by kernel_rfl) (fun _ _ _ h => h) (Or.inr ⟨by rfl, rfl⟩) (by assumption) ?_
          try simp only [Act.put, List.setIfInBounds_toArray, List.set_cons_zero, List.set_cons_succ]
          refine wpAnyH_take (i := 26) (oi := { dst := some 66, op := Op.call { callee := Callee.value (Operand.func 87), args := #[Operand.tmp 63, Operand.tmp 64, Operand.tmp 65], argTypes := #[24, 24, 27] }, type := 4, pos := "ref.go:109", after := #[{ on := 23, ground := Ground.data }, { on := 24, ground := Ground.data }, { on := 25, ground := Ground.data }, { on := 15, ground := Ground.chain }, { on := 15, ground := Ground.guard }], guard := some (15, true) }) (v := undef) rfl (by kernel_rfl) (by kernel_rfl) (by kernel_rfl) (fun _ _ _ h => h) (Or.inr ⟨by rfl, rfl⟩) (by assumption) ?_
          try simp only [Act.put, List.setIfInBounds_toArray, List.set_cons_zero, List.set_cons_succ]
          refine wpAnyH_take (i := 27) (oi := { dst := some 67, op := Op.pick (Operand.tmp 55) (Operand.tmp 66) (Operand.const (Value.bool false)), type := 4, pos := "ref.go:109", after := #[{ on := 15, ground := Ground.data }, { on := 26, ground := Ground.data }], guard := none }) (v := ?vv42) rfl (by kernel_rfl) (by kernel_rfl) (by kernel_rfl) (fun _ _ _ h => h) (Or.inl ⟨by rfl, ?hy42⟩) (by assumption) ?_
          case hy42 => (intro w hSw; (try dsimp only at hSw); go_simp; all_goals with_reducible rfl)
          try simp only [Act.put, List.setIfInBounds_toArray, List.set_cons_zero, List.set_cons_succ]
          refine wpAnyH_done (by kernel_rfl) ?_ _
          have HE : Hid (Fw W W6x b me mb lf pd (some ⟨Bj, off, none⟩, z2, z3) B n1 q0 ⟨m, s, a, p, (y1, y2, y3), ⟨#[]⟩⟩) := HFw.out.below hW6x
          have HJ : Hid (Fi' B (anK n1 lf ⟨m, s, a, p, (y1, y2, y3), ⟨#[]⟩⟩ Q) (i + 1) none) := hFi.out.no1 (by have := HZ.out; omega) HA.out
          clear hS6 hHeld HEx HMt HFw hFi
          go_wp2_with fail
          go_roundw
          case rel => exact ⟨i + 1, by simp, by omega, HE.out, HJ.out⟩
          case measure => simp [intOf]; omega
      · have hqe := st_empty hqb
        have HA : Hid (anK n1 lf ⟨m, s, a, p, (y1, y2, y3), qb⟩ Q (B[i]'hiB) = false) := by show _ = _; rw [HAn.out, decide_eq_false hqb]; rfl
        have HJ : Hid (Fi' B (anK n1 lf ⟨m, s, a, p, (y1, y2, y3), qb⟩ Q) (i + 1) none) := hFi.out.no1 hiB HA.out
        obtain ⟨f0, f1, f2, f3, f4, f5, f6⟩ := HFw.out.rq.cells
        simp only [sv] at f4
        clear HAn HA HEx HMt HXc5 hFi hqb
        go_quiet (fail)
        go_wp2_with fail
        go_roundw
        case rel => exact ⟨i + 1, by simp, by omega, HFw.out.below (below_drewN (Below.refl _ _) _), HJ.out⟩
        case measure => simp [intOf]; omega
    · have l1 : ¬ (i : Int) < (z2 : Int) := by omega
      have HE : Hid (B.findIdx? (anK n1 lf ⟨m, s, a, p, (y1, y2, y3), qb⟩ Q) = none) := hFi.out.find fun _ => by rw [HZ.out]; omega
      have HE2 := hFw
      clear hFi hFw
      go_wp2_with fail
      go_ret
      refine ⟨?_, HE2.out.rc, HE2.out.ks⟩
      rw [HE.out]
      rfl
set_option maxHeartbeats 1000000 in
theorem rholds_any (rN : RefN) (rM : RefM) (W : World) (b : Nat) (me mb lf pd : Int) (z : SV) (B : List Kn) (now : Int) (h : Rc W b me mb lf pd z B now) (q : Rq) (Q : List Fd) (hQ : ∀ V, Ks (fun k => k = b) W V → In EFd V (sv q.y) Q) (zQ : Q.length ≤ 1099511627776) (t : Int) (ht : t ≤ 9223372036854775807) (har : ∀ k ∈ B, 0 ≤ k.ar ∧ k.ar ≤ now) (hn : 0 ≤ now ∧ now ≤ 9223372036854775807) (hkv : ∀ k ∈ B, Kv k) :
    Calls Tryd.prog 51 #[.pointer (some ⟨b, 0, none⟩), .agg (rqv q), .int .i64 t] W fun r w' => r = .returned (.bool (B.findIdx? (anK (max now t) lf q Q)).isSome) ∧ Rc w' b me mb lf pd z B (max now t) ∧ Ks (fun k => k = b) W w' := by
  obtain ⟨W1, hW1⟩ : ∃ V, W.alloc (.cells (rqv q) 24) = V := ⟨_, rfl⟩
  obtain ⟨q0, hq0⟩ : ∃ k, W.heap.size = k := ⟨_, rfl⟩
  have b1 : Below W.heap.size W W1 := by rw [← hW1]; exact bel1 _ _
  have hq1 : RqB W1 q0 q := by unfold RqB; rw [← hW1, ← hq0, heap_al, if_pos rfl]
  have HK : Hid (∀ V, Ks (fun k => k = b) W1 V → Ks (fun k => k = b) W V) := fun V hV => (Ks.of_below b1 (A := fun _ => False)).trans hV (fun i _ hi => hi.elim) (fun i _ hi => hi)
  have HF : Hid (Calls Tryd.prog 73 #[.pointer (some ⟨b, 0, none⟩), .agg (rqv q), .int .i64 t] W1 fun r w' => r = .returned (.int .i64 (oI (B.findIdx? (anK (max now t) lf q Q)))) ∧ Rc w' b me mb lf pd z B (max now t) ∧ Ks (fun k => k = b) W1 w') := rfind_any rN rM W1 b me mb lf pd z B now (h.below b1) q Q (fun V hV => hQ V (HK.out V hV)) zQ t ht har hn hkv
  obtain ⟨f0, f1, f2, f3, f4, f5, f6⟩ := hq1.cells
  obtain ⟨ko, hko⟩ : ∃ k, B.findIdx? (anK (max now t) lf q Q) = k := ⟨_, rfl⟩
  rw [hko] at HF ⊢
  obtain ⟨n1, hn1⟩ : ∃ n, max now t = n := ⟨_, rfl⟩
  rw [hn1] at HF ⊢
  obtain ⟨m, s, a, p, ⟨y1, y2, y3⟩, qb⟩ := q
  simp only [sv, rqv] at hW1 HF f0 f1 f2 f3 f4 f5 ⊢
  clear h hq1 hQ zQ ht har hn hkv rN rM b1 hko hn1
  go_enter Tryd.func51, Tryd.ntmps51
  go_wp2_with fail
  try rw [hW1]
  try rw [hq0]
  clear hW1 hq0
  go_at_call 73
  refine HF.out.mono ?_
  rintro e V ⟨rfl, hR, hK⟩
  have HE : Hid (Rc V b me mb lf pd z B n1 ∧ Ks (fun k => k = b) W V) := ⟨hR, HK.out V hK⟩
  clear hR hK HF f0 f1 f2 f3 f4 f5 f6
  cases ko with
  | none =>
    simp only [oI]
    go_wp2_with fail
    go_ret
    exact ⟨rfl, HE.out⟩
  | some k =>
    simp only [oI]
    have k0 : 0 ≤ (k : Int) := by omega
    go_wp2_with fail
    go_ret
    exact ⟨rfl, HE.out⟩
end Go.Proofs.YtfponcdhaefkdaaDoor
