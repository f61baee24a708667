/- FieldReads, walked. -/
import Derived.Test.YtcgfgjhhmbfmdaaDoorC5
import Derived.Test.YtcgfgjhhmbfmdaaDoorC7
import Derived.Test.YtcgfgjhhmbfmdaaDoorAg
namespace Go.Proofs.YtcgfgjhhmbfmdaaDoor
open Go.RowKit Go.Maps
set_option linter.unusedVariables false
set_option linter.unusedSimpArgs false

/-- what roomy made: its row, and its front -/
theorem room_front {w : World} {y : SV} {l : List Fd} (h : R EFd w (sv y) (l ++ [mark1, mark2])) : ∃ g cap, y = (some ⟨g, 0, none⟩, l.length + 2, cap) ∧ l.length + 2 ≤ cap ∧ cap ≤ 9223372036854775807 ∧ ∀ W, Below w.heap.size w W → In EFd W (.slice (some ⟨g, 0, none⟩) l.length cap) l := by
  obtain ⟨g, cap, e, h1, h2, h3, _⟩ := R.setc okFd h 0 0 (by simp) (by decide)
  obtain ⟨yb, yl, yc⟩ := y
  simp only [sv] at e h
  injection e with e1 e2 e3
  subst e1 e2 e3
  refine ⟨g, yc, by simp, by simpa using h1, h2, fun W hb => ?_⟩
  have := In.take (h.isIn.below hb) l.length (by simp)
  rw [List.take_left] at this
  exact this

/-- what ReadRequest tells, in short -/
def RqIn (l : List Fd) (m s a p : ByteArray) (y : SV) (W : World) : Prop :=
  (rqE l = 0 → vals l 4 reqNames = some [m, s, a, p] ∧ In EFd W (sv y) (l.drop 4)) ∧ (rqE l ≠ 0 → m = ⟨#[]⟩ ∧ s = ⟨#[]⟩ ∧ a = ⟨#[]⟩ ∧ p = ⟨#[]⟩ ∧ y = (none, 0, 0))
theorem RqPost.short {l : List Fd} {w w' : World} {e : Ending} (h : RqPost l w e w') : ∃ (m s a p : ByteArray) (y : SV), e = .returned (.tuple #[.agg (rqv m s a p (sv y) ⟨#[]⟩), .int .i64 (rqE l)]) ∧ Below w.heap.size w w' ∧ RqIn l m s a p y w' := by
  obtain ⟨m, s, a, p, y, h1, h2, h3, h4⟩ := h
  exact ⟨m, s, a, p, y, h1, h2, fun h => ⟨(h3 h).1, (h3 h).2.2.1.isIn⟩, h4⟩
theorem RqIn.below {l : List Fd} {m s a p : ByteArray} {y : SV} {W W' : World} (h : RqIn l m s a p y W) (hb : Below W.heap.size W W') : RqIn l m s a p y W' := ⟨fun e => ⟨(h.1 e).1, (h.1 e).2.below hb⟩, h.2⟩
theorem RqIn.pair {l : List Fd} {m s a p m' s' a' p' : ByteArray} {y z : SV} {W : World} (h1 : RqIn l m s a p y W) (h2 : RqIn l m' s' a' p' z W) : m' = m ∧ s' = s ∧ a' = a ∧ p' = p ∧ ∃ fs, In EFd W (sv y) fs ∧ In EFd W (sv z) fs := by
  by_cases h0 : rqE l = 0
  · obtain ⟨v1, r1⟩ := h1.1 h0
    obtain ⟨v2, r2⟩ := h2.1 h0
    rw [v1] at v2
    simp only [Option.some.injEq, List.cons.injEq, and_true] at v2
    obtain ⟨rfl, rfl, rfl, rfl⟩ := v2
    exact ⟨rfl, rfl, rfl, rfl, _, r1, r2⟩
  · obtain ⟨rfl, rfl, rfl, rfl, rfl⟩ := h1.2 h0
    obtain ⟨rfl, rfl, rfl, rfl, rfl⟩ := h2.2 h0
    exact ⟨rfl, rfl, rfl, rfl, [], .inl ⟨rfl, rfl⟩, .inl ⟨rfl, rfl⟩⟩
def RsIn (l : List Fd) (n : Int) (y : SV) (W : World) : Prop :=
  (rsE l = 0 → (∃ s, vals l 1 resNames = some [s] ∧ stB s = true ∧ n = numL s.data.toList) ∧ In EFd W (sv y) (l.drop 1)) ∧ (rsE l ≠ 0 → n = 0 ∧ y = (none, 0, 0))
theorem RsPost.short {l : List Fd} {w w' : World} {e : Ending} (h : RsPost l w e w') : ∃ (n : Int) (y : SV), e = .returned (.tuple #[.agg (rsv n (sv y) ⟨#[]⟩), .int .i64 (rsE l)]) ∧ Below w.heap.size w w' ∧ RsIn l n y w' := by
  obtain ⟨n, y, h1, h2, h3, h4⟩ := h
  exact ⟨n, y, h1, h2, fun h => ⟨(h3 h).1, (h3 h).2.1.isIn⟩, h4⟩
theorem RsIn.below {l : List Fd} {n : Int} {y : SV} {W W' : World} (h : RsIn l n y W) (hb : Below W.heap.size W W') : RsIn l n y W' := ⟨fun e => ⟨(h.1 e).1, (h.1 e).2.below hb⟩, h.2⟩
theorem RsIn.pair {l : List Fd} {n n' : Int} {y z : SV} {W : World} (h1 : RsIn l n y W) (h2 : RsIn l n' z W) : n' = n ∧ ∃ fs, In EFd W (sv y) fs ∧ In EFd W (sv z) fs := by
  by_cases h0 : rsE l = 0
  · obtain ⟨⟨s, v1, _, rfl⟩, r1⟩ := h1.1 h0
    obtain ⟨⟨s', v2, _, rfl⟩, r2⟩ := h2.1 h0
    rw [v1] at v2
    simp only [Option.some.injEq, List.cons.injEq, and_true] at v2
    subst v2
    exact ⟨rfl, _, r1, r2⟩
  · obtain ⟨rfl, rfl⟩ := h1.2 h0
    obtain ⟨rfl, rfl⟩ := h2.2 h0
    exact ⟨rfl, [], .inl ⟨rfl, rfl⟩, .inl ⟨rfl, rfl⟩⟩

set_option maxHeartbeats 20000000 in
set_option maxRecDepth 100000 in
theorem fieldReads_any (s : SV) (l : List Fd) (name : ByteArray) (w : World) (ht : Tab w) (hI : In EFd w (sv s) l) (hz : SzOk l) (hlen : (l.length + 2) * 40 ≤ 140737488355328) :
    Calls Tryd.prog 7 #[sv s, .string name] w fun e w' => e = .returned (.bool true) ∧ Below w.heap.size w w' := by
  have h9 : Hid (Calls Tryd.prog 9 #[] w fun e w' => e = .returned (.bool true) ∧ Below w.heap.size w w') := head_any w ht
  have h26 : Hid (∀ W, Below w.heap.size w W → Calls Tryd.prog 26 #[sv s] W fun e w' => FdPost (l ++ [mark1, mark2]) W e w') := fun W hb => roomy_any s l W (hI.below hb) hlen
  have h14 : Hid (∀ t W, In EFd W (sv t) l → Calls Tryd.prog 14 #[sv t] W fun e w' => RqPost l W e w') := fun t W hi => readRequest_any t l W hi fun f hf => (hz.1 f hf).1
  have h27 : Hid (∀ W, Below w.heap.size w W → Calls Tryd.prog 27 #[sv s] W fun e w' => RqPost l W e w') := fun W hb => rreadRequest_any s l W (hI.below hb) hz
  have h18 : Hid (∀ t W, In EFd W (sv t) l → Calls Tryd.prog 18 #[sv t] W fun e w' => RsPost l W e w') := fun t W hi => readResponse_any t l W hi fun f hf => (hz.1 f hf).1
  have h29 : Hid (∀ W, Below w.heap.size w W → Calls Tryd.prog 29 #[sv s] W fun e w' => RsPost l W e w') := fun W hb => rreadResponse_any s l W (hI.below hb) hz
  have h31 : Hid (∀ t W, In EFd W (sv t) l → Calls Tryd.prog 31 #[sv t] W fun e w' => e = .returned (.int .i64 (szW l)) ∧ Below W.heap.size W w') := fun t W hi => size_any t l W hi hz.1
  have h32 : Hid (∀ W, Below w.heap.size w W → Calls Tryd.prog 32 #[sv s] W fun e w' => e = .returned (.int .i64 (szW l)) ∧ Below W.heap.size W w') := fun W hb => rsize_any s l W (hI.below hb) hz.1
  have h25 : Hid (∀ t W, In EFd W (sv t) l → Calls Tryd.prog 25 #[sv t, .string name] W fun e w' => VsPost (vsL l name) W e w') := fun t W hi => values_any t l name W hi hz.2
  have h33 : Hid (∀ W, Below w.heap.size w W → Calls Tryd.prog 33 #[sv s, .string name] W fun e w' => VsPost (vsL l name) W e w') := fun W hb => rvalues_any s l name W (hI.below hb) hz.2
  obtain ⟨sb, sl, sc⟩ := s
  obtain ⟨es, hcap1, hcap2⟩ := slice_len hI
  subst es
  simp only [sv] at h26 h14 h27 h18 h29 h31 h32 h25 h33 ⊢
  clear hI hz ht
  go_enter Tryd.func7, Tryd.ntmps7
  go_wp2_with fail
  go_at_call 9
  refine h9.out.mono ?_
  rintro e w1 ⟨rfl, b1⟩
  replace b1 : Hid (Below w.heap.size w w1) := b1
  clear h9
  go_wp2_with fail
  go_at_call 26
  refine (h26.out _ b1.out).mono ?_
  rintro e w2 ⟨y, rfl, b2, r2, o2⟩
  have B2 : Hid (Below w.heap.size w w2) := b1.out.trans (b2.mono b1.out.size)
  obtain ⟨g, cap, rfl, c1, c2, hF⟩ := room_front r2
  replace hF : Hid (∀ W, Below w2.heap.size w2 W → In EFd W (.slice (some ⟨g, 0, none⟩) l.length cap) l) := hF
  replace r2 : Hid (R EFd w2 (.slice (some ⟨g, 0, none⟩) (l.length + 2) cap) (l ++ [mark1, mark2])) := r2
  have q1 : (l.length : Int) ≤ (cap : Int) := by omega
  clear b2 o2 b1
  simp only [sv]
  go_wp2_with fail
  go_at_call 14
  refine (h14.out (some ⟨g, 0, none⟩, l.length, cap) _ (hF.out _ (Below.refl _ _))).mono ?_
  intro e3 w3 P3
  obtain ⟨m3, s3, a3, p3, ⟨yb, yl, yc⟩, rfl, b3, P3⟩ := P3.short
  have D3 : Hid (Below w2.heap.size w2 w3) := b3
  replace P3 : Hid (RqIn l m3 s3 a3 p3 (yb, yl, yc) w3) := P3
  have k3 : Hid (Below w3.heap.size w3 (w3.alloc (.cells #[.string m3, .string s3, .string a3, .string p3, .slice yb yl yc, .string ⟨#[]⟩] 26))) := bel1 w3 _
  have k3' : Hid ((w3.alloc (.cells #[.string m3, .string s3, .string a3, .string p3, .slice yb yl yc, .string ⟨#[]⟩] 26)).heap[w3.heap.size]? = some (.cells #[.string m3, .string s3, .string a3, .string p3, .slice yb yl yc, .string ⟨#[]⟩] 26)) := by show _ = _; rw [heap_al, if_pos rfl]
  clear b3
  simp only [sv, rqv]
  go_wp2_with fail
  go_at_call 27
  have D3a : Hid (Below w2.heap.size w2 (w3.alloc (.cells #[.string m3, .string s3, .string a3, .string p3, .slice yb yl yc, .string ⟨#[]⟩] 26))) := D3.out.trans (k3.out.mono D3.out.size)
  refine (h27.out _ (B2.out.trans (D3a.out.mono B2.out.size))).mono ?_
  intro e4 w4 P4
  obtain ⟨m4, s4, a4, p4, ⟨zb, zl, zc⟩, rfl, b4, P4⟩ := P4.short
  have D4 : Hid (Below w2.heap.size w2 w4) := D3a.out.trans (b4.mono D3a.out.size)
  have P3' : RqIn l m3 s3 a3 p3 (yb, yl, yc) w4 := (P3.out.below k3.out).below b4
  obtain ⟨rfl, rfl, rfl, rfl, fs, hi1, hi2⟩ := P3'.pair P4
  replace hi1 : Hid (In EFd w4 (.slice yb yl yc) fs) := hi1
  replace hi2 : Hid (In EFd w4 (.slice zb zl zc) fs) := hi2
  have blk3 : w4.heap[w3.heap.size]? = some (.cells #[.string m4, .string s4, .string a4, .string p4, .slice yb yl yc, .string ⟨#[]⟩] 26) := (b4.block _ (heap_lt k3'.out)).trans k3'.out
  have hlt3 : w3.heap.size < w4.heap.size := heap_lt blk3
  obtain ⟨z0, z1, z2, z3, z4, z5⟩ : w4.cell? ⟨w3.heap.size, 0, none⟩ = some (.string m4) ∧ w4.cell? ⟨w3.heap.size, 1, none⟩ = some (.string s4) ∧ w4.cell? ⟨w3.heap.size, 2, none⟩ = some (.string a4) ∧ w4.cell? ⟨w3.heap.size, 3, none⟩ = some (.string p4) ∧ w4.cell? ⟨w3.heap.size, 4, none⟩ = some (.slice yb yl yc) ∧ w4.cell? ⟨w3.heap.size, 5, none⟩ = some (.string ⟨#[]⟩) := ⟨cell_blk blk3 0, cell_blk blk3 1, cell_blk blk3 2, cell_blk blk3 3, cell_blk blk3 4, cell_blk blk3 5⟩
  have h28 : Hid (∀ W, Below w4.heap.size w4 W → Calls Tryd.prog 28 #[.agg #[.string m4, .string s4, .string a4, .string p4, .slice yb yl yc, .string ⟨#[]⟩], .agg #[.string m4, .string s4, .string a4, .string p4, .slice zb zl zc, .string ⟨#[]⟩]] W fun e w' => e = .returned (.bool true) ∧ Hid (Below w4.heap.size w4 w')) := fun W hb => by
    refine (rsameRq m4 s4 a4 p4 ⟨#[]⟩ (yb, yl, yc) (zb, zl, zc) fs W (hi1.out.below hb) (hi2.out.below hb)).mono ?_
    rintro e w' ⟨rfl, h⟩
    exact ⟨rfl, hb.trans (h.mono hb.size)⟩
  obtain ⟨E, hE⟩ : ∃ E, rqE l = E := ⟨_, rfl⟩
  rw [hE]
  have k4 : Hid (Below w4.heap.size w4 (w4.alloc (.cells #[.string m4, .string s4, .string a4, .string p4, .slice zb zl zc, .string ⟨#[]⟩] 26))) := bel1 w4 _
  clear b4 P3' P4 P3 hE h27 h14 hi1 hi2 k3 k3' D3 D3a blk3
  simp only [sv, rqv]
  go_wp2_with fail
  go_at_call 28
  refine (h28.out _ k4.out).mono ?_
  rintro e w5 ⟨rfl, b5⟩
  have D5 : Hid (Below w2.heap.size w2 w5) := D4.out.trans (b5.out.mono D4.out.size)
  clear z0 z1 z2 z3 z4 z5 h28 b5 k4 D4 hlt3
  go_wp2_with fail
  go_at_call 18
  refine (h18.out (some ⟨g, 0, none⟩, l.length, cap) _ (hF.out _ D5.out)).mono ?_
  intro e6 w6 P6
  obtain ⟨n6, ⟨ub, ul, uc⟩, rfl, b6, P6⟩ := P6.short
  have D6 : Hid (Below w2.heap.size w2 w6) := D5.out.trans (b6.mono D5.out.size)
  replace P6 : Hid (RsIn l n6 (ub, ul, uc) w6) := P6
  have k6 : Hid (Below w6.heap.size w6 (w6.alloc (.cells #[.int .i64 n6, .slice ub ul uc, .string ⟨#[]⟩] 37))) := bel1 w6 _
  have k6' : Hid ((w6.alloc (.cells #[.int .i64 n6, .slice ub ul uc, .string ⟨#[]⟩] 37)).heap[w6.heap.size]? = some (.cells #[.int .i64 n6, .slice ub ul uc, .string ⟨#[]⟩] 37)) := by show _ = _; rw [heap_al, if_pos rfl]
  clear b6
  simp only [sv, rsv]
  go_wp2_with fail
  go_at_call 29
  have D6a : Hid (Below w2.heap.size w2 (w6.alloc (.cells #[.int .i64 n6, .slice ub ul uc, .string ⟨#[]⟩] 37))) := D6.out.trans (k6.out.mono D6.out.size)
  refine (h29.out _ (B2.out.trans (D6a.out.mono B2.out.size))).mono ?_
  intro e7 w7 P7
  obtain ⟨n7, ⟨tb, tl, tc⟩, rfl, b7, P7⟩ := P7.short
  have D7 : Hid (Below w2.heap.size w2 w7) := D6a.out.trans (b7.mono D6a.out.size)
  have P6' : RsIn l n6 (ub, ul, uc) w7 := (P6.out.below k6.out).below b7
  obtain ⟨rfl, fs', hi1, hi2⟩ := P6'.pair P7
  replace hi1 : Hid (In EFd w7 (.slice ub ul uc) fs') := hi1
  replace hi2 : Hid (In EFd w7 (.slice tb tl tc) fs') := hi2
  have blk6 : w7.heap[w6.heap.size]? = some (.cells #[.int .i64 n7, .slice ub ul uc, .string ⟨#[]⟩] 37) := (b7.block _ (heap_lt k6'.out)).trans k6'.out
  have hlt6 : w6.heap.size < w7.heap.size := heap_lt blk6
  obtain ⟨z0, z1, z2⟩ : w7.cell? ⟨w6.heap.size, 0, none⟩ = some (.int .i64 n7) ∧ w7.cell? ⟨w6.heap.size, 1, none⟩ = some (.slice ub ul uc) ∧ w7.cell? ⟨w6.heap.size, 2, none⟩ = some (.string ⟨#[]⟩) := ⟨cell_blk blk6 0, cell_blk blk6 1, cell_blk blk6 2⟩
  have h30 : Hid (∀ W, Below w7.heap.size w7 W → Calls Tryd.prog 30 #[.agg #[.int .i64 n7, .slice ub ul uc, .string ⟨#[]⟩], .agg #[.int .i64 n7, .slice tb tl tc, .string ⟨#[]⟩]] W fun e w' => e = .returned (.bool true) ∧ Hid (Below w7.heap.size w7 w')) := fun W hb => by
    refine (rsameRs n7 ⟨#[]⟩ (ub, ul, uc) (tb, tl, tc) fs' W (hi1.out.below hb) (hi2.out.below hb)).mono ?_
    rintro e w' ⟨rfl, h⟩
    exact ⟨rfl, hb.trans (h.mono hb.size)⟩
  obtain ⟨E', hE'⟩ : ∃ E, rsE l = E := ⟨_, rfl⟩
  rw [hE']
  have k7 : Hid (Below w7.heap.size w7 (w7.alloc (.cells #[.int .i64 n7, .slice tb tl tc, .string ⟨#[]⟩] 37))) := bel1 w7 _
  clear b7 P6' P7 P6 hE' h29 h18 hi1 hi2 k6 k6' D6 D6a blk6 D5
  simp only [sv, rsv]
  go_wp2_with fail
  go_at_call 30
  refine (h30.out _ k7.out).mono ?_
  rintro e w8 ⟨rfl, b8⟩
  have D8 : Hid (Below w2.heap.size w2 w8) := D7.out.trans (b8.out.mono D7.out.size)
  clear z0 z1 z2 h30 b8 k7 D7 hlt6
  obtain ⟨Z, hZ⟩ : ∃ Z, szW l = Z := ⟨_, rfl⟩
  rw [hZ] at h31 h32
  clear hZ
  go_wp2_with fail
  go_at_call 31
  refine (h31.out (some ⟨g, 0, none⟩, l.length, cap) _ (hF.out _ D8.out)).mono ?_
  rintro e w9 ⟨rfl, b9⟩
  have D9 : Hid (Below w2.heap.size w2 w9) := D8.out.trans (b9.mono D8.out.size)
  clear b9 D8
  go_wp2_with fail
  go_at_call 32
  refine (h32.out _ (B2.out.trans (D9.out.mono B2.out.size))).mono ?_
  rintro e wa ⟨rfl, ba⟩
  have Da : Hid (Below w2.heap.size w2 wa) := D9.out.trans (ba.mono D9.out.size)
  clear ba D9 h31 h32
  go_wp2_with fail
  go_at_call 25
  refine (h25.out (some ⟨g, 0, none⟩, l.length, cap) _ (hF.out _ Da.out)).mono ?_
  rintro e wb ⟨⟨vb, vl, vc⟩, rfl, bb, rb, ob⟩
  have Db : Hid (Below w2.heap.size w2 wb) := Da.out.trans (bb.mono Da.out.size)
  replace rb : Hid (In ES wb (.slice vb vl vc) (vsL l name)) := R.isIn rb
  clear bb ob Da
  simp only [sv]
  go_wp2_with fail
  go_at_call 33
  refine (h33.out _ (B2.out.trans (Db.out.mono B2.out.size))).mono ?_
  rintro e wc ⟨⟨xb, xl, xc⟩, rfl, bc, rc, oc⟩
  have Dc : Hid (Below w2.heap.size w2 wc) := Db.out.trans (bc.mono Db.out.size)
  have rb' : Hid (In ES wc (.slice vb vl vc) (vsL l name)) := rb.out.below bc
  replace rc : Hid (In ES wc (.slice xb xl xc) (vsL l name)) := R.isIn rc
  obtain ⟨ev, qv1, qv2⟩ := slice_len rb'.out
  obtain ⟨ex, qx1, qx2⟩ := slice_len rc.out
  obtain ⟨V, hV⟩ : ∃ V, vsL l name = V := ⟨_, rfl⟩
  rw [hV] at rb' rc ev ex qv1 qx1
  subst ev ex
  clear bc oc Db rb h25 h33 hV
  simp only [sv]
  go_wp2_with fail
  go_loopw [15] (fun iv wr => ∃ k : Nat, iv = .int .i64 (k : Int) ∧ k ≤ V.length ∧ Hid (Below wc.heap.size wc wr)) (fun iv _ => V.length - (intOf iv).toNat)
  case atStart => exact ⟨0, rfl, by omega, Below.refl _ _⟩
  case round =>
    obtain ⟨k, rfl, hk, hb⟩ := hrel
    by_cases hlt : k < V.length
    · obtain ⟨Bk, off, cp, e, _, hc⟩ := (rb'.out.below hb.out).get okS k hlt
      injection e with e1 e2 e3
      subst e1
      clear e2 e3
      obtain ⟨Bj, off', cp', e, _, hc'⟩ := (rc.out.below hb.out).get okS k hlt
      injection e with e1 e2 e3
      subst e1
      clear e2 e3
      obtain ⟨x, hx⟩ : ∃ x, V[k] = x := ⟨_, rfl⟩
      rw [hx] at hc hc'
      have c0 : wr.cell? ⟨Bk, off + k, none⟩ = some (.string x) := by have := hc 0 (.string x) rfl; simpa [ES] using this
      have d0 : wr.cell? ⟨Bj, off' + k, none⟩ = some (.string x) := by have := hc' 0 (.string x) rfl; simpa [ES] using this
      have hlt' : (k : Int) < (V.length : Int) := by omega
      clear hx hc hc'
      go_wp2_with fail
      go_quiet (fail)
      go_wp2_with fail
      go_roundw
      case rel => exact ⟨k + 1, by simp, by omega, below_drewN hb.out _⟩
      case measure => simp [intOf]; omega
    · obtain rfl : k = V.length := by omega
      have hlt' : ¬ (V.length : Int) < (V.length : Int) := by omega
      have Dr : Hid (Below w2.heap.size w2 wr) := Dc.out.trans (hb.out.mono Dc.out.size)
      clear hb hlt rb' rc Dc
      go_wp2_with fail
      go_at_call 26
      refine (h26.out _ (B2.out.trans (Dr.out.mono B2.out.size))).mono ?_
      rintro e wd ⟨⟨fb, fl, fc⟩, rfl, bd, rd, od⟩
      have Dd : Hid (Below w2.heap.size w2 wd) := Dr.out.trans (bd.mono Dr.out.size)
      have h34 : Hid (Calls Tryd.prog 34 #[.slice (some ⟨g, 0, none⟩) (l.length + 2) cap, .slice fb fl fc] wd fun e w' => e = .returned (.bool true) ∧ Below wd.heap.size wd w') := rsame_eq (some ⟨g, 0, none⟩, l.length + 2, cap) (fb, fl, fc) _ wd (R.isIn (R.below r2.out Dd.out)) rd.isIn
      clear bd rd od
      simp only [sv]
      go_wp2_with fail
      go_at_call 34
      refine h34.out.mono ?_
      rintro e we ⟨rfl, be⟩
      have De : Hid (Below w.heap.size w we) := B2.out.trans ((Dd.out.trans (be.mono Dd.out.size)).mono B2.out.size)
      clear be
      go_wp2_with fail
      go_ret
      exact ⟨rfl, De.out⟩
end Go.Proofs.YtcgfgjhhmbfmdaaDoor
