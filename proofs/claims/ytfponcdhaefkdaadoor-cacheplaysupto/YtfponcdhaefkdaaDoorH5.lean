/- The document's Claim. -/
import Derived.Test.YtfponcdhaefkdaaDoorH4
namespace Go.Proofs.YtfponcdhaefkdaaDoor
open Go.RowKit
set_option linter.unusedVariables false
set_option linter.unusedSimpArgs false
theorem In.takeV {w : World} {a : Addr} {n cap : Nat} {L : List Kn} (h : In EV w (.slice (some a) n cap) L) (i : Nat) (hi : i ≤ L.length) : In EV w (.slice (some a) i cap) (L.take i) := by
  rcases h with ⟨h, _⟩ | ⟨a', c, e, h2, h3, h4⟩
  · cases h
  · injection e with e1 e2 e3
    injection e1 with e1
    subst e1 e2 e3
    have hl : (L.take i).length = i := by rw [List.length_take]; omega
    refine .inr ⟨a, cap, by rw [hl], by rw [hl]; omega, h3, fun j u hu => h4 j u ?_⟩
    have : EV.cs L = EV.cs (L.take i) ++ EV.cs (L.drop i) := by rw [← El.cs_append, List.take_append_drop]
    rw [this, List.getElem?_append_left (List.getElem?_eq_some_iff.1 hu).1]
    exact hu
theorem In.dropV {w : World} {B off n cap : Nat} {L : List Kn} (h : In EV w (.slice (some ⟨B, off, none⟩) n cap) L) (i : Nat) (hi : i ≤ L.length) (A : Addr) (hA : L.length - i = 0 ∨ A = ⟨B, off + i * 11, none⟩) : In EV w (.slice (some A) (L.length - i) (cap - i)) (L.drop i) := by
  rcases h with ⟨h, _⟩ | ⟨a', c, e, h2, h3, h4⟩
  · cases h
  · injection e with e1 e2 e3
    injection e1 with e1
    subst e1 e2 e3
    have hl : (L.drop i).length = L.length - i := List.length_drop
    refine .inr ⟨A, cap - i, by rw [hl], by rw [hl]; omega, by omega, fun j u hu => ?_⟩
    rcases hA with h0 | rfl
    · have : L.drop i = [] := List.eq_nil_of_length_eq_zero (by rw [hl]; exact h0)
      rw [this] at hu
      simp [El.cs] at hu
    · have h5 : (EV.cs (L.take i)).length = i * 11 := by rw [okV.length, List.length_take, Nat.min_eq_left hi]; rfl
      have h6 : (EV.cs L)[i * 11 + j]? = some u := by
        have : EV.cs L = EV.cs (L.take i) ++ EV.cs (L.drop i) := by rw [← El.cs_append, List.take_append_drop]
        rw [this, List.getElem?_append_right (by rw [h5]; omega), h5, Nat.add_sub_cancel_left]
        exact hu
      have := h4 _ _ h6
      rw [Addr.add_lit] at this ⊢
      rw [Nat.add_assoc]
      exact this
/-- a row without one, made anew -/
theorem drop_one {W : World} {B off N cap : Nat} {L : List Kn} (hI : In EV W (.slice (some ⟨B, off, none⟩) N cap) L) (i : Nat) (hi : i < L.length) (hl : L.length ≤ 1000) : ∃ b1 c1 w1, (Builtin.append_ #[98, 98] 98 #[.slice none 0 0, .slice (some ⟨B, off, none⟩) i cap]).run Tryd.prog W = .ok (.slice b1 i c1) w1 ∧ Below W.heap.size W w1 ∧ ∀ A : Addr, (L.length - (i + 1) = 0 ∨ A = ⟨B, off + (i + 1) * 11, none⟩) → ∃ b2 c2 w2, (Builtin.append_ #[98, 98] 98 #[.slice b1 i c1, .slice (some A) (L.length - (i + 1)) (cap - (i + 1))]).run Tryd.prog w1 = .ok (.slice b2 (L.length - 1) c2) w2 ∧ R EV w2 (.slice b2 (L.length - 1) c2) (L.eraseIdx i) ∧ (∀ k, (Value.slice b2 (L.length - 1) c2).ownBlock = some k → W.heap.size ≤ k) ∧ Below W.heap.size W w2 := by
  obtain ⟨b1, c1, w1, r1, R1, G1⟩ := app okV W (.slice none 0 0) [] (R.nil EV W) _ _ (hI.takeV i (by omega)) (by simp only [EV, List.length_nil, List.length_take]; omega)
  have hl1 : ([] : List Kn).length + (L.take i).length = i := by rw [List.length_nil, List.length_take]; omega
  rw [hl1] at r1 R1 G1
  have hI1 : In EV w1 (.slice (some ⟨B, off, none⟩) N cap) L := hI.below G1.fresh
  refine ⟨b1, c1, w1, r1, G1.fresh, fun A hA => ?_⟩
  obtain ⟨b2, c2, w2, r2, R2, G2⟩ := app okV w1 (.slice b1 i c1) (L.take i) R1 _ _ (hI1.dropV (i + 1) (by omega) A hA) (by simp only [EV, List.length_take, List.length_drop]; omega)
  have hl2 : (L.take i).length + (L.drop (i + 1)).length = L.length - 1 := by rw [List.length_take, List.length_drop]; omega
  rw [hl2] at r2 R2 G2
  rw [← List.eraseIdx_eq_take_drop_succ] at R2
  have hG := G1.trans G2
  exact ⟨b2, c2, w2, r2, R2, hG.new, hG.fresh⟩
/-- what Claim tells, and leaves -/
def rclP (W w' : World) (b : Nat) (me mb lf pd : Int) (z : SV) (B : List Kn) (now : Int) (r : Ending) : Option Nat → Prop
  | none => r = .returned (.tuple #[.agg #[.int .i64 0, .slice none 0 0, .string ⟨#[]⟩], .int .i64 0, .bool false]) ∧ Rc w' b me mb lf pd z B now ∧ Ks (fun k => k = b) W w'
  | some i => ∃ hi : i < B.length, r = .returned (.tuple #[.agg (rsv B[i].rn (sv B[i].ry) B[i].rb), .int .i64 B[i].st, .bool true]) ∧ ∃ z' : SV, Rc w' b me mb lf pd z' (B.eraseIdx i) now ∧ Ks (fun k => k = b) W w' ∧ (∀ k, (sv z').ownBlock = some k → W.heap.size ≤ k) ∧ R EFd w' (sv B[i].ry) B[i].fr
set_option maxHeartbeats 16000000 in
set_option maxRecDepth 100000 in
theorem rclaim_any (rN : RefN) (rM : RefM) (W : World) (b : Nat) (me mb lf pd : Int) (z : SV) (B : List Kn) (now : Int) (h : Rc W b me mb lf pd z B now) (q : Rq) (Q : List Fd) (hQ : ∀ V, Ks (fun k => k = b) W V → In EFd V (sv q.y) Q) (zQ : Q.length ≤ 1099511627776) (t : Int) (ht : t ≤ 9223372036854775807) (har : ∀ k ∈ B, 0 ≤ k.ar ∧ k.ar ≤ now) (hn : 0 ≤ now ∧ now ≤ 9223372036854775807) (hkv : ∀ k ∈ B, Kv k) (hl : B.length ≤ 64) :
    Calls Tryd.prog 50 #[.pointer (some ⟨b, 0, none⟩), .agg (rqv q), .int .i64 t] W fun r w' => rclP W w' b me mb lf pd z B (max now t) r (B.findIdx? (anK (max now t) lf q Q)) := by
  obtain ⟨W1, hW1⟩ : ∃ V, (W.alloc (.cells (rqv q) 24)).alloc (.cells #[.int .i64 0, .slice none 0 0, .string ⟨#[]⟩] 26) = V := ⟨_, rfl⟩
  obtain ⟨q0, hq0⟩ : ∃ k, W.heap.size = k := ⟨_, rfl⟩
  obtain ⟨r0, hr0⟩ : ∃ k, q0 + 1 = k := ⟨_, rfl⟩
  have b1 : Below W.heap.size W W1 := by rw [← hW1]; exact bel2 _ _ _
  have hq1 : RqB W1 q0 q := by unfold RqB; rw [← hW1, ← hq0, heap_al, if_neg (by simp), heap_al, if_pos rfl]
  have hr1 : W1.heap[r0]? = some (.cells #[.int .i64 0, .slice none 0 0, .string ⟨#[]⟩] 26 (0, 0)) := by rw [← hW1, ← hr0, ← hq0]; exact fresh2 _ _ _
  have HK : Hid (∀ V, Ks (fun k => k = b) W1 V → Ks (fun k => k = b) W V) := fun V hV => (Ks.of_below b1 (A := fun _ => False)).trans hV (fun i _ hi => hi.elim) (fun i _ hi => hi)
  have HR1 : Hid (W1.heap[r0]? = some (.cells #[.int .i64 0, .slice none 0 0, .string ⟨#[]⟩] 26 (0, 0)) ∧ W.heap.size ≤ r0) := ⟨hr1, by omega⟩
  have HF : Hid (Calls Tryd.prog 73 #[.pointer (some ⟨b, 0, none⟩), .agg (rqv q), .int .i64 t] W1 fun r w' => r = .returned (.int .i64 (oI (B.findIdx? (anK (max now t) lf q Q)))) ∧ Rc w' b me mb lf pd z B (max now t) ∧ Ks (fun k => k = b) W1 w') := rfind_any rN rM W1 b me mb lf pd z B now (h.below b1) q Q (fun V hV => hQ V (HK.out V hV)) zQ t ht har hn hkv
  have HbW : Hid (b < W.heap.size ∧ W.heap.size ≤ W1.heap.size) := ⟨heap_lt h.blk, b1.size⟩
  obtain ⟨f0, f1, f2, f3, f4, f5, f6⟩ := hq1.cells
  obtain ⟨ko, hko⟩ : ∃ k, B.findIdx? (anK (max now t) lf q Q) = k := ⟨_, rfl⟩
  have HKo : Hid (∀ i, ko = some i → i < B.length) := fun i e => by
    rw [e] at hko
    exact (List.findIdx?_eq_some_iff_getElem.1 hko).1
  rw [hko] at HF ⊢
  obtain ⟨n1, hn1⟩ : ∃ n, max now t = n := ⟨_, rfl⟩
  rw [hn1] at HF ⊢
  have HL : Hid (B.length ≤ 64) := hl
  obtain ⟨z1, z2, z3⟩ := z
  obtain ⟨m1, m2, m3⟩ := slice_len (show In EV W (.slice z1 z2 z3) B from h.row.isIn)
  have HZ : Hid (B.length = z2) := m1.symm
  rw [← m1] at m2
  obtain ⟨m, s, a, p, ⟨y1, y2, y3⟩, qb⟩ := q
  simp only [sv, rqv] at hW1 HF f0 f1 f2 f3 f4 f5 ⊢
  clear h hq1 hr1 hQ zQ ht har hn hkv rN rM b1 hko hn1 m1
  go_enter Tryd.func50, Tryd.ntmps50
  go_wp2_with fail
  try rw [hW1]
  try rw [hq0]
  try rw [hr0]
  clear hW1 hq0 hr0
  go_at_call 73
  refine HF.out.mono ?_
  rintro e V ⟨rfl, hR, hK⟩
  have HR : Hid (Rc V b me mb lf pd (z1, z2, z3) B n1 ∧ Ks (fun k => k = b) W V) := ⟨hR, HK.out V hK⟩
  have hrV : V.heap[r0]? = some (.cells #[.int .i64 0, .slice none 0 0, .string ⟨#[]⟩] 26 (0, 0)) := (hK.block r0 (heap_lt HR1.out.1) (by have := HbW.out; have := HR1.out.2; omega)).trans HR1.out.1
  have HRv : Hid (V.heap[r0]? = some (.cells #[.int .i64 0, .slice none 0 0, .string ⟨#[]⟩] 26 (0, 0)) ∧ W.heap.size ≤ r0) := ⟨hrV, HR1.out.2⟩
  clear hR hK HF f0 f1 f2 f3 f4 f5 f6 HR1 hrV
  cases ko with
  | none =>
    simp only [oI]
    have p0 := cell_blk HRv.out.1 0
    have p1 := cell_blk HRv.out.1 1
    have p2 := cell_blk HRv.out.1 2
    have g0 := frozen_blk HRv.out.1 0
    have g1 := frozen_blk HRv.out.1 1
    have g2 := frozen_blk HRv.out.1 2
    simp only [List.getElem?_toArray, List.getElem?_cons_succ, List.getElem?_cons_zero] at p0 p1 p2
    obtain ⟨E, hE⟩ : ∃ E, ((V.setCell ⟨r0, 0, none⟩ (.int .i64 0)).setCell ⟨r0, 1, none⟩ (.slice none 0 0)).setCell ⟨r0, 2, none⟩ (.string ⟨#[]⟩) = E := ⟨_, rfl⟩
    have hoth : ∀ k, k ≠ r0 → E.heap[k]? = V.heap[k]? := fun k hk => by rw [← hE, setCell_other _ _ _ _ _ hk, setCell_other _ _ _ _ _ hk, setCell_other _ _ _ _ _ hk]
    have HEb : Hid (E.heap[r0]? = some (.cells #[.int .i64 0, .slice none 0 0, .string ⟨#[]⟩] 26 (0, 0))) := by
      show _ = _
      rw [← hE, setCell_block _ _ _ _ _ _ _ (setCell_block _ _ _ _ _ _ _ (setCell_block _ _ _ _ _ _ _ HRv.out.1))]
      rfl
    have HE : Hid (Rc E b me mb lf pd (z1, z2, z3) B n1 ∧ Ks (fun k => k = b) W E) := by
      refine ⟨HR.out.1.keep fun k hk _ => hoth k fun e => ?_, ⟨by rw [← hE]; exact HR.out.2.os, by rw [← hE]; exact HR.out.2.tape, by rw [← hE]; exact HR.out.2.output, by rw [← hE]; simpa [World.setCell] using HR.out.2.size, fun k hk hn => (hoth k (by have := HRv.out.2; omega)).trans (HR.out.2.block k hk hn)⟩⟩
      subst e
      rcases hk with hk | hk | ⟨x, hx, hk | hk⟩
      · exact ty_ne HRv.out.1 HR.out.1.blk (by decide) hk
      · obtain ⟨cc, hc⟩ := HR.out.1.row.ty _ hk; exact ty_ne HRv.out.1 hc (show (26 : TypeId) ≠ 119 by decide) rfl
      · obtain ⟨cc, hc⟩ := (HR.out.1.fl x hx).1.ty _ hk; exact ty_ne HRv.out.1 hc (show (26 : TypeId) ≠ 51 by decide) rfl
      · obtain ⟨cc, hc⟩ := (HR.out.1.fl x hx).2.ty _ hk; exact ty_ne HRv.out.1 hc (show (26 : TypeId) ≠ 51 by decide) rfl
    clear HR hoth
    go_wp2_with fail
    try rw [hE]
    refine bodyPost_ret (results_ctt (p := 6) (ty := 26) (r := 7) (q := 8) rfl _ _ r0 26 _ (0, 0) _ rfl HEb.out Tryd.underlying26 rfl (by kernel_rfl)) rfl ?_
    exact ⟨rfl, HE.out⟩
  | some i =>
    simp only [oI]
    have hiB : i < B.length := HKo.out i rfl
    have k0 : ¬ (i : Int) < 0 := by omega
    have k1 : (i : Int) < (z2 : Int) := by have := HZ.out; omega
    obtain ⟨Bj, off, cap, e, hc⟩ := HR.out.1.row.isIn.ke i hiB
    simp only [sv] at e
    rw [HZ.out] at e
    injection e with e1 e2 e3
    clear e2
    subst e1 e3
    obtain ⟨x, hx⟩ : ∃ x, B[i] = x := ⟨_, rfl⟩
    have HX : Hid (∀ h : i < B.length, B[i]'h = x) := fun _ => hx
    rw [hx] at hc
    obtain ⟨d0, d1, d2, d3, d4, d5, d6, d7, d8, d9, d10⟩ := hc V (Below.refl _ _)
    obtain ⟨c0, c1, c2, c3, c4, c5, cf⟩ := HR.out.1.cells
    simp only [sv] at c4
    have lb := heap_lt HR.out.1.blk
    clear c0 c1 c2 c3 c5 cf hc hx
    obtain ⟨kst, kar, ⟨km, ks, ka, kp, ⟨ky1, ky2, ky3⟩, kb⟩, krn, ⟨kr1, kr2, kr3⟩, krb, kfq, kfr⟩ := x
    simp only [sv] at d0 d1 d2 d3 d4 d5 d6 d7 d8 d9 d10
    go_upto_region 5 with fail
    obtain ⟨e0, he0⟩ : ∃ k, V.heap.size = k := ⟨_, rfl⟩
    obtain ⟨V4, hV4⟩ : ∃ U, V.alloc (.cells #[.string km, .string ks, .string ka, .string kp, .slice ky1 ky2 ky3, .string kb, .int .i64 krn, .slice kr1 kr2 kr3, .string krb, .int .i64 kst, .int .i64 kar] 119) = U := ⟨_, rfl⟩
    have b4 : Below V.heap.size V V4 := by rw [← hV4]; exact bel1 _ _
    have hRc4 := HR.out.1.below b4
    have he4 : V4.heap[e0]? = some (.cells #[.string km, .string ks, .string ka, .string kp, .slice ky1 ky2 ky3, .string kb, .int .i64 krn, .slice kr1 kr2 kr3, .string krb, .int .i64 kst, .int .i64 kar] 119 (0, 0)) := by rw [← hV4, ← he0, heap_al, if_pos rfl]
    have hr4 := (b4.block _ (heap_lt HRv.out.1)).trans HRv.out.1
    obtain ⟨b1, c1, w1, hrun1, bw1, key⟩ := drop_one (show In EV V4 (.slice (some ⟨Bj, off, none⟩) z2 z3) B from hRc4.row.isIn) i hiB (by have := HL.out; omega)
    try rw [hV4]
    try rw [he0]
    clear d0 d1 d2 d3 d4 d5 d6 d7 d8 d9 d10 c4 lb hV4
    rw [HZ.out] at key
    have p4 := hRc4.cells.2.2.2.2.1
    have q4 := (hRc4.below bw1).cells.2.2.2.2.1
    have lb := heap_lt hRc4.blk
    have lb1 := heap_lt (hRc4.below bw1).blk
    simp only [sv] at p4 q4
    obtain ⟨j, hj⟩ : ∃ j : Nat, i + 1 = j := ⟨_, rfl⟩
    have q1 : (i : Int) + 1 = (j : Int) := by omega
    rw [hj] at key
    obtain ⟨zd, hzd⟩ : ∃ q, z2 - j = q := ⟨_, rfl⟩
    obtain ⟨zc, hzc⟩ : ∃ q, z3 - j = q := ⟨_, rfl⟩
    obtain ⟨zm, hzm⟩ : ∃ q, z2 - 1 = q := ⟨_, rfl⟩
    rw [hzd, hzc, hzm] at key
    have a1 : (i : Int) ≤ (z2 : Int) := by omega
    have a2 : (j : Int) ≤ (z2 : Int) := by omega
    have a3 : (i : Int) ≤ (z3 : Int) := by omega
    have a4 : (j : Int) ≤ (z3 : Int) := by omega
    have a5 : (z2 : Int) ≤ (z3 : Int) := by omega
    have HFin : Hid (∀ b2 c2 w2, R EV w2 (.slice b2 zm c2) (B.eraseIdx i) → (∀ k, (Value.slice b2 zm c2).ownBlock = some k → V4.heap.size ≤ k) → Below V4.heap.size V4 w2 → w2.cell? ⟨b, 4, none⟩ = some (.slice (some ⟨Bj, off, none⟩) z2 z3) ∧ w2.frozen? ⟨b, 4, none⟩ = false ∧ b < w2.heap.size ∧ ∃ V8, w2.setCell ⟨b, 4, none⟩ (.slice b2 zm c2) = V8 ∧ V8.heap[e0]? = some (.cells #[.string km, .string ks, .string ka, .string kp, .slice ky1 ky2 ky3, .string kb, .int .i64 krn, .slice kr1 kr2 kr3, .string krb, .int .i64 kst, .int .i64 kar] 119 (0, 0)) ∧ V8.heap[r0]? = some (.cells #[.int .i64 0, .slice none 0 0, .string ⟨#[]⟩] 26 (0, 0)) ∧ ∃ E, ((V8.setCell ⟨r0, 0, none⟩ (.int .i64 krn)).setCell ⟨r0, 1, none⟩ (.slice kr1 kr2 kr3)).setCell ⟨r0, 2, none⟩ (.string krb) = E ∧ E.heap[e0]? = some (.cells #[.string km, .string ks, .string ka, .string kp, .slice ky1 ky2 ky3, .string kb, .int .i64 krn, .slice kr1 kr2 kr3, .string krb, .int .i64 kst, .int .i64 kar] 119 (0, 0)) ∧ E.heap[r0]? = some (.cells #[.int .i64 krn, .slice kr1 kr2 kr3, .string krb] 26 (0, 0)) ∧ Rc E b me mb lf pd (b2, zm, c2) (B.eraseIdx i) n1 ∧ Ks (fun k => k = b) W E ∧ (∀ k, (Value.slice b2 zm c2).ownBlock = some k → W.heap.size ≤ k) ∧ R EFd E (.slice kr1 kr2 kr3) kfr) := fun b2 c2 w2 hR2 hn2 hb2 => by
      have hRc2 := hRc4.below hb2
      have hcc := hRc2.cells
      have hW4 : W.heap.size ≤ V4.heap.size := Nat.le_trans HR.out.2.size b4.size
      have hset := hRc2.setL (z' := (b2, zm, c2)) rfl hR2 (fun k hk => hRc2.fl k (List.mem_of_mem_eraseIdx hk))
      have hKs8 : Ks (fun k => k = b) W (w2.setCell ⟨b, 4, none⟩ (.slice b2 zm c2)) := ((HR.out.2.bel b4).bel hb2).trans (Ks.setCell (fun k => k = b) w2 b 4 _ rfl) (fun i _ hi => hi) (fun i _ hi => hi)
      have he8 : (w2.setCell ⟨b, 4, none⟩ (.slice b2 zm c2)).heap[e0]? = some (.cells #[.string km, .string ks, .string ka, .string kp, .slice ky1 ky2 ky3, .string kb, .int .i64 krn, .slice kr1 kr2 kr3, .string krb, .int .i64 kst, .int .i64 kar] 119 (0, 0)) := (setCell_other _ _ _ _ _ (ty_ne ((hb2.block _ (heap_lt he4)).trans he4) hRc2.blk (by decide))).trans ((hb2.block _ (heap_lt he4)).trans he4)
      have hr8 : (w2.setCell ⟨b, 4, none⟩ (.slice b2 zm c2)).heap[r0]? = some (.cells #[.int .i64 0, .slice none 0 0, .string ⟨#[]⟩] 26 (0, 0)) := (setCell_other _ _ _ _ _ (ty_ne ((hb2.block _ (heap_lt hr4)).trans hr4) hRc2.blk (by decide))).trans ((hb2.block _ (heap_lt hr4)).trans hr4)
      obtain ⟨V8, hV8⟩ : ∃ U, w2.setCell ⟨b, 4, none⟩ (.slice b2 zm c2) = U := ⟨_, rfl⟩
      simp only [sv] at hset
      rw [hV8] at hset hKs8 he8 hr8
      have hfr : R EFd V8 (.slice kr1 kr2 kr3) kfr := by
        have h1 := (hRc2.fl _ (List.getElem_mem hiB)).2
        rw [HX.out] at h1
        have h2 : R EFd w2 (.slice kr1 kr2 kr3) kfr := h1
        rw [← hV8]
        exact h2.stays fun k hk _ => by
          obtain ⟨cc, hc⟩ := h2.ty k hk
          exact setCell_other _ _ _ _ _ (ty_ne hc hRc2.blk (show (51 : TypeId) ≠ 100 by decide))
      obtain ⟨E, hE⟩ : ∃ E, ((V8.setCell ⟨r0, 0, none⟩ (.int .i64 krn)).setCell ⟨r0, 1, none⟩ (.slice kr1 kr2 kr3)).setCell ⟨r0, 2, none⟩ (.string krb) = E := ⟨_, rfl⟩
      have hoth : ∀ k, k ≠ r0 → E.heap[k]? = V8.heap[k]? := fun k hk => by rw [← hE, setCell_other _ _ _ _ _ hk, setCell_other _ _ _ _ _ hk, setCell_other _ _ _ _ _ hk]
      refine ⟨hcc.2.2.2.2.1, hcc.2.2.2.2.2.2 4, heap_lt hRc2.blk, V8, hV8, he8, hr8, E, hE, (hoth e0 (ty_ne he8 hr8 (by decide))).trans he8, ?_, hset.keep fun k hk _ => hoth k fun e => ?_, ⟨by rw [← hE]; exact hKs8.os, by rw [← hE]; exact hKs8.tape, by rw [← hE]; exact hKs8.output, by rw [← hE]; simpa [World.setCell] using hKs8.size, fun k hk hn => (hoth k (by have := HRv.out.2; omega)).trans (hKs8.block k hk hn)⟩, fun k hk => Nat.le_trans hW4 (hn2 k hk), hfr.stays fun k hk _ => hoth k ?_⟩
      · rw [← hE, setCell_block _ _ _ _ _ _ _ (setCell_block _ _ _ _ _ _ _ (setCell_block _ _ _ _ _ _ _ hr8))]
        rfl
      · subst e
        rcases hk with hk | hk | ⟨x, hx, hk | hk⟩
        · exact ty_ne hr8 hset.blk (by decide) hk
        · obtain ⟨cc, hc⟩ := hset.row.ty _ hk; exact ty_ne hr8 hc (show (26 : TypeId) ≠ 119 by decide) rfl
        · obtain ⟨cc, hc⟩ := (hset.fl x hx).1.ty _ hk; exact ty_ne hr8 hc (show (26 : TypeId) ≠ 51 by decide) rfl
        · obtain ⟨cc, hc⟩ := (hset.fl x hx).2.ty _ hk; exact ty_ne hr8 hc (show (26 : TypeId) ≠ 51 by decide) rfl
      · obtain ⟨cc, hc⟩ := hfr.ty k hk
        exact ty_ne hc hr8 (show (51 : TypeId) ≠ 26 by decide)
    replace hrun1 : Hid _ := hrun1
    clear hRc4 he4 hr4 bw1 b4 he0
    have HiB : Hid (i < B.length) := hiB
    by_cases hcj : z3 = j
    · obtain ⟨b2, c2, w2, hrun2, hR2, hn2, hb2⟩ := key ⟨Bj, off, none⟩ (.inl (by omega))
      obtain ⟨w4, g4, lw2, V8, hV8, he8, hr8, E, hE, heE, hEb, hFinal⟩ := HFin.out b2 c2 w2 hR2 hn2 hb2
      replace hrun2 : Hid _ := hrun2
      have d0 : zc = 0 := by omega
      have m0 : zd = 0 := by omega
      have nj : z2 = z3 := by omega
      clear hzd hzc key HFin hR2 hn2 hb2
      subst d0 m0
      clear a1 a2 a3 a4 a5
      have HFinal : Hid (Rc E b me mb lf pd (b2, zm, c2) (B.eraseIdx i) n1 ∧ Ks (fun k => k = b) W E ∧ (∀ k, (Value.slice b2 zm c2).ownBlock = some k → W.heap.size ≤ k) ∧ R EFd E (.slice kr1 kr2 kr3) kfr) := hFinal
      have HEb : Hid (E.heap[r0]? = some (.cells #[.int .i64 krn, .slice kr1 kr2 kr3, .string krb] 26 (0, 0))) := hEb
      have x6 := cell_blk he8 6
      have x7 := cell_blk he8 7
      have x8 := cell_blk he8 8
      have x9 := cell_blk he8 9
      have x9E := cell_blk heE 9
      have y0 := cell_blk hr8 0
      have y1' := cell_blk hr8 1
      have y2' := cell_blk hr8 2
      have o0 := frozen_blk hr8 0
      have o1 := frozen_blk hr8 1
      have o2 := frozen_blk hr8 2
      simp only [List.getElem?_toArray, List.getElem?_cons_succ, List.getElem?_cons_zero] at x6 x7 x8 x9 x9E y0 y1' y2'
      have le8 := heap_lt he8
      have lr8 := heap_lt hr8
      have leE := heap_lt heE
      clear hFinal hEb he8 hr8 hzm hj hiB heE
      obtain rfl : j = z3 := hcj.symm
      obtain rfl : z2 = j := nj
      try clear nj
      try clear hcj
      have a1 : (i : Int) ≤ (z2 : Int) := by omega
      have a2 : (z2 : Int) ≤ (z2 : Int) := by omega
      go_upto_region 8 with first | (at_builtin; refine Lib.wpList_append_run _ rfl _ _ _ _ rfl _ _ rfl rfl _ _ hrun1.out ?_) | (at_builtin; refine Lib.wpList_append_run _ rfl _ _ _ _ rfl _ _ rfl rfl _ _ hrun2.out ?_)
      try rw [hV8]
      clear hV8 w4 g4 p4 q4
      go_region
      all_goals
        go_wp2_with fail
        try rw [hE]
        refine bodyPost_ret (results_ctt (p := 6) (ty := 26) (r := 7) (q := 8) rfl _ _ r0 26 _ (0, 0) _ rfl HEb.out Tryd.underlying26 rfl (by kernel_rfl)) rfl ?_
        refine ⟨HiB.out, ?_, (b2, zm, c2), HFinal.out.1.below (Below.refl _ _).drew, HFinal.out.2.1.bel (Below.refl _ _).drew, HFinal.out.2.2.1, ?_⟩
        · rw [HX.out HiB.out]; rfl
        · rw [HX.out HiB.out]; exact HFinal.out.2.2.2.below (Below.refl _ _).drew
    · obtain ⟨b2, c2, w2, hrun2, hR2, hn2, hb2⟩ := key ⟨Bj, off + j * 11, none⟩ (.inr rfl)
      obtain ⟨w4, g4, lw2, V8, hV8, he8, hr8, E, hE, heE, hEb, hFinal⟩ := HFin.out b2 c2 w2 hR2 hn2 hb2
      replace hrun2 : Hid _ := hrun2
      have hd0 : ¬ zc = 0 := by omega
      clear key HFin hR2 hn2 hb2
      have HFinal : Hid (Rc E b me mb lf pd (b2, zm, c2) (B.eraseIdx i) n1 ∧ Ks (fun k => k = b) W E ∧ (∀ k, (Value.slice b2 zm c2).ownBlock = some k → W.heap.size ≤ k) ∧ R EFd E (.slice kr1 kr2 kr3) kfr) := hFinal
      have HEb : Hid (E.heap[r0]? = some (.cells #[.int .i64 krn, .slice kr1 kr2 kr3, .string krb] 26 (0, 0))) := hEb
      have x6 := cell_blk he8 6
      have x7 := cell_blk he8 7
      have x8 := cell_blk he8 8
      have x9 := cell_blk he8 9
      have x9E := cell_blk heE 9
      have y0 := cell_blk hr8 0
      have y1' := cell_blk hr8 1
      have y2' := cell_blk hr8 2
      have o0 := frozen_blk hr8 0
      have o1 := frozen_blk hr8 1
      have o2 := frozen_blk hr8 2
      simp only [List.getElem?_toArray, List.getElem?_cons_succ, List.getElem?_cons_zero] at x6 x7 x8 x9 x9E y0 y1' y2'
      have le8 := heap_lt he8
      have lr8 := heap_lt hr8
      have leE := heap_lt heE
      clear hFinal hEb he8 hr8 hzm hj hiB heE
      go_upto_region 8 with first | (at_builtin; refine Lib.wpList_append_run _ rfl _ _ _ _ rfl _ _ rfl rfl _ _ hrun1.out ?_) | (at_builtin; refine Lib.wpList_append_run _ rfl _ _ _ _ rfl _ _ rfl rfl _ _ hrun2.out ?_)
      try rw [hV8]
      clear hV8 w4 g4 p4 q4
      go_region
      all_goals
        go_wp2_with fail
        try rw [hE]
        refine bodyPost_ret (results_ctt (p := 6) (ty := 26) (r := 7) (q := 8) rfl _ _ r0 26 _ (0, 0) _ rfl HEb.out Tryd.underlying26 rfl (by kernel_rfl)) rfl ?_
        refine ⟨HiB.out, ?_, (b2, zm, c2), HFinal.out.1.below (Below.refl _ _).drew, HFinal.out.2.1.bel (Below.refl _ _).drew, HFinal.out.2.2.1, ?_⟩
        · rw [HX.out HiB.out]; rfl
        · rw [HX.out HiB.out]; exact HFinal.out.2.2.2.below (Below.refl _ _).drew
end Go.Proofs.YtfponcdhaefkdaaDoor
