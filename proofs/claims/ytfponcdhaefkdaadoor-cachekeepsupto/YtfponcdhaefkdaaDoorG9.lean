/- CacheKeeps. -/
import Derived.Test.YtfponcdhaefkdaaDoorG6
import Derived.Test.YtfponcdhaefkdaaDoorG7
import Derived.Test.YtfponcdhaefkdaaDoorG8
import Derived.Deep.CutBlock
namespace Go.Proofs.YtfponcdhaefkdaaDoor
open Go.RowKit
set_option linter.unusedVariables false
set_option linter.unusedSimpArgs false
theorem cfB_of {me mb lf : Int} (h1 : 0 ≤ me ∧ me ≤ 63) (h2 : 0 ≤ mb ∧ mb ≤ 4095) (h3 : 0 ≤ lf ∧ lf ≤ 31) : cfB me mb lf 0 = true := by
  unfold cfB nbB
  simp only [List.any_cons, List.any_nil, Bool.or_false]
  rw [decide_eq_false (by omega), decide_eq_false (by omega), decide_eq_false (by omega), decide_eq_false (by omega), decide_eq_false (by omega), decide_eq_false (by omega), decide_eq_false (by omega)]
  rfl
theorem Kp.start {w0 W : World} {b g : Nat} {me mb lf : Int} (h1 : 0 ≤ me ∧ me ≤ 63) (h2 : 0 ≤ mb ∧ mb ≤ 4095) (h3 : 0 ≤ lf ∧ lf ≤ 31) (hg : W.heap[g]? = some (.cells #[.int .i64 me, .int .i64 mb, .int .i64 lf, .int .i64 0, .slice none 0 0] 83 (0, 0))) (hb : W.heap[b]? = some (.cells #[.pointer (some ⟨g, 0, none⟩), .int .i64 me, .int .i64 mb, .int .i64 lf, .int .i64 0, .slice none 0 0, .int .i64 0] 58 (0, 0))) (hbel : Below w0.heap.size w0 W) (n1 : w0.heap.size ≤ g) (n2 : w0.heap.size ≤ b) : Kp w0 W b g me mb lf ⟨me, mb, lf, 0⟩ (none, 0, 0) [] (none, 0, 0) [] 0 :=
  ⟨⟨Cx.new hg ⟨by omega, by omega⟩ ⟨by omega, by omega⟩ ⟨by omega, by omega⟩, ⟨hb, R.nil EK _, fun k hk => (by simp at hk)⟩, Rl.nil, hbel, n2, fun k hk => (by rcases hk with rfl | hk; exact n1; simp [sv, Value.ownBlock] at hk), fun k hk => (by simp [sv, Value.ownBlock] at hk)⟩, ⟨rfl, rfl, rfl⟩, fun x hx => (by simp at hx), List.Pairwise.nil⟩
set_option maxHeartbeats 40000000 in
set_option maxRecDepth 100000 in
theorem cacheKeeps_any (ca cb cc cd : Int) (sx : SV) (os : List Os) (w : World) (hI : In EO w (sv sx) os) (ho : ∀ o ∈ os, Oi w o) (hl : os.length ≤ 1099511627776) :
    Calls Tryd.prog 5 #[.agg #[.int .i64 ca, .int .i64 cb, .int .i64 cc, .int .i64 cd], sv sx] w fun e w' => e = .returned (.bool true) ∧ Below w.heap.size w w' := by
  obtain ⟨s1, s2, s3⟩ := sx
  obtain ⟨e1, e2, e3⟩ := slice_len hI
  have HI : Hid (In EO w (.slice s1 s2 s3) os) := hI
  have HN : Hid (os.length = s2) := e1.symm
  rw [← e1] at e2 hl
  have HO : Hid (∀ o ∈ os, Oi w o) := ho
  obtain ⟨me, hme⟩ : ∃ n, ca % 64 = n := ⟨_, rfl⟩
  obtain ⟨mb, hmb⟩ : ∃ n, cb % 4096 = n := ⟨_, rfl⟩
  obtain ⟨lf, hlf⟩ : ∃ n, cc % 32 = n := ⟨_, rfl⟩
  have HM : Hid ((0 ≤ me ∧ me ≤ 63) ∧ (0 ≤ mb ∧ mb ≤ 4095) ∧ (0 ≤ lf ∧ lf ≤ 31)) := ⟨by omega, by omega, by omega⟩
  obtain ⟨W0, hW0⟩ : ∃ V, w.alloc (.cells #[.int .i64 ca, .int .i64 cb, .int .i64 cc, .int .i64 cd] 36) = V := ⟨_, rfl⟩
  obtain ⟨c0, hc0⟩ : ∃ k, w.heap.size = k := ⟨_, rfl⟩
  have hb0 : Below w.heap.size w W0 := by rw [← hW0]; exact bel1 _ _
  have HB0 : Hid (Below w.heap.size w W0) := hb0
  have hC0 : W0.heap[c0]? = some (.cells #[.int .i64 ca, .int .i64 cb, .int .i64 cc, .int .i64 cd] 36 (0, 0)) := by rw [← hW0, ← hc0, heap_al, if_pos rfl]
  have p0 := cell_blk hC0 0
  have p1 := cell_blk hC0 1
  have p2 := cell_blk hC0 2
  have p3 := cell_blk hC0 3
  simp only [List.getElem?_toArray, List.getElem?_cons_succ, List.getElem?_cons_zero] at p0 p1 p2 p3
  have HCf : Hid (Calls Tryd.prog 18 #[.agg #[.int .i64 ca, .int .i64 cb, .int .i64 cc, .int .i64 cd]] W0 fun e w' => e = .returned (.agg #[.int .i64 me, .int .i64 mb, .int .i64 lf, .int .i64 0]) ∧ Below W0.heap.size W0 w') := by
    have := conf_any ca cb cc cd W0
    rw [hme, hmb, hlf] at this
    exact this
  simp only [sv]
  clear hI ho e1 hme hmb hlf hb0 hC0
  go_enter Tryd.func5, Tryd.ntmps5
  go_wp2_with fail
  try rw [hW0]
  try rw [hc0]
  clear hW0 hc0
  go_at_call 18
  refine HCf.out.mono ?_
  rintro e V1 ⟨rfl, b1⟩
  go_upto_region 2 with fail
  obtain ⟨k0, hk0⟩ : ∃ k, V1.heap.size = k := ⟨_, rfl⟩
  obtain ⟨V2, hV2⟩ : ∃ V, V1.alloc (.cells #[.int .i64 me, .int .i64 mb, .int .i64 lf, .int .i64 0] 36) = V := ⟨_, rfl⟩
  have b2 : Below V1.heap.size V1 V2 := by rw [← hV2]; exact bel1 _ _
  have HB2 : Hid (Below w.heap.size w V2) := (HB0.out.trans (b1.mono HB0.out.size)).trans (b2.mono (Nat.le_trans HB0.out.size b1.size))
  have HK0 : Hid (V2.heap[k0]? = some (.cells #[.int .i64 me, .int .i64 mb, .int .i64 lf, .int .i64 0] 36 (0, 0))) := by show _ = _; rw [← hV2, ← hk0, heap_al, if_pos rfl]
  clear b1 b2 HCf p0 p1 p2 p3 HB0
  try rw [hV2]
  try rw [hk0]
  clear hV2 hk0
  have p0 := cell_blk HK0.out 0
  have p1 := cell_blk HK0.out 1
  have p2 := cell_blk HK0.out 2
  have p3 := cell_blk HK0.out 3
  simp only [List.getElem?_toArray, List.getElem?_cons_succ, List.getElem?_cons_zero] at p0 p1 p2 p3
  have HNw : Hid (Calls Tryd.prog 8 #[.agg #[.int .i64 me, .int .i64 mb, .int .i64 lf, .int .i64 0]] V2 fun e w' => Below V2.heap.size V2 w' ∧ ∃ g, V2.heap.size ≤ g ∧ e = .returned (.tuple #[.pointer (some ⟨g, 0, none⟩), .int .i64 0]) ∧ w'.heap[g]? = some (.cells #[.int .i64 me, .int .i64 mb, .int .i64 lf, .int .i64 0, .slice none 0 0] 83 (0, 0))) := by
    refine (new_any me mb lf 0 V2).mono ?_
    rw [cfB_of HM.out.1 HM.out.2.1 HM.out.2.2]
    rintro e w' ⟨hb, ⟨h1, _⟩ | ⟨_, g, h1, h2, h3⟩⟩
    · cases h1
    · exact ⟨hb, g, h1, h2, h3⟩
  go_wp2_with fail
  go_at_call 8
  refine HNw.out.mono ?_
  rintro e V3 ⟨b3, g, hg, rfl, hgb⟩
  have HG3 : Hid (Below V2.heap.size V2 V3 ∧ V3.heap[g]? = some (.cells #[.int .i64 me, .int .i64 mb, .int .i64 lf, .int .i64 0, .slice none 0 0] 83 (0, 0)) ∧ V2.heap.size ≤ g) := ⟨b3, hgb, hg⟩
  clear b3 hg hgb HNw p0 p1 p2 p3
  go_wp2_with fail
  go_at_call 9
  refine (first_any _).mono ?_
  rintro e V4 ⟨rfl, b4⟩
  have HG4 : Hid (Below V2.heap.size V2 V4 ∧ V4.heap[g]? = some (.cells #[.int .i64 me, .int .i64 mb, .int .i64 lf, .int .i64 0, .slice none 0 0] 83 (0, 0)) ∧ V2.heap.size ≤ g) := ⟨HG3.out.1.trans (b4.mono HG3.out.1.size), (b4.block _ (heap_lt HG3.out.2.1)).trans HG3.out.2.1, HG3.out.2.2⟩
  clear b4 HG3
  have hk4 := (HG4.out.1.block _ (heap_lt HK0.out)).trans HK0.out
  have p0 := cell_blk hk4 0
  have p1 := cell_blk hk4 1
  have p2 := cell_blk hk4 2
  have p3 := cell_blk hk4 3
  simp only [List.getElem?_toArray, List.getElem?_cons_succ, List.getElem?_cons_zero] at p0 p1 p2 p3
  obtain ⟨b, hb⟩ : ∃ k, V4.heap.size = k := ⟨_, rfl⟩
  obtain ⟨V5, hV5⟩ : ∃ V, V4.alloc (.cells #[.pointer (some ⟨g, 0, none⟩), .int .i64 me, .int .i64 mb, .int .i64 lf, .int .i64 0, .slice none 0 0, .int .i64 0] 58) = V := ⟨_, rfl⟩
  have b5 : Below V4.heap.size V4 V5 := by rw [← hV5]; exact bel1 _ _
  have HKp : Hid (Kp V2 V5 b g me mb lf ⟨me, mb, lf, 0⟩ (none, 0, 0) [] (none, 0, 0) [] 0) := Kp.start HM.out.1 HM.out.2.1 HM.out.2.2 ((b5.block _ (heap_lt HG4.out.2.1)).trans HG4.out.2.1) (by rw [← hV5, ← hb, heap_al, if_pos rfl]) (HG4.out.1.trans (b5.mono HG4.out.1.size)) HG4.out.2.2 (by rw [← hb]; exact HG4.out.1.size)
  clear b5 hk4
  go_upto_region 6 with fail
  try rw [hV5]
  try rw [hb]
  clear hV5 hb p0 p1 p2 p3 HG4
  go_upto_region 7 with fail
  go_loopw [9, 10] (fun iv _ wr => ∃ i : Nat, iv = .int .i64 (i : Int) ∧ i ≤ s2 ∧ Hid (KpE V2 wr b g me mb lf i)) (fun iv _ _ => s2 - (intOf iv).toNat)
  case atStart => exact ⟨0, rfl, by omega, _, _, _, _, _, HKp.out⟩
  case round =>
    clear HKp
    obtain ⟨i, rfl, hi, hJ⟩ := hrel
    by_cases hlt : i < s2
    · have l1 : (i : Int) < (s2 : Int) := by omega
      have hio : i < os.length := by rw [HN.out]; exact hlt
      obtain ⟨c, y, L, z, B, hK⟩ := hJ.out
      obtain ⟨Bj, off, cap, e, hc⟩ := HI.out.op i hio
      injection e with e1 e2 e3
      clear e2
      subst e1 e3
      obtain ⟨o, hox⟩ : ∃ o, os[i] = o := ⟨_, rfl⟩
      rw [hox] at hc
      obtain ⟨d0, d1, d2, d3, d4, d5, d6, d7, d8, d9, d10, d11, d12⟩ := hc wr (HB2.out.trans (hK.ci.bel.mono HB2.out.size))
      have hOi : Oi V2 o := by
        have := HO.out o (by rw [← hox]; exact List.getElem_mem _)
        exact ⟨this.iq.below HB2.out, this.ir.below HB2.out, this.az, this.tk⟩
      have HOi : Hid (Oi V2 o) := hOi
      have HK : Hid (Kp V2 wr b g me mb lf c y L z B i) := hK
      clear hc hox hJ hK hOi hio
      obtain ⟨kd, tw, ⟨m, s, a, p, ⟨y1, y2, y3⟩, qb⟩, rn, ⟨r1, r2, r3⟩, rb, st, tk, Q, fr⟩ := o
      simp only [sv] at d0 d1 d2 d3 d4 d5 d6 d7 d8 d9 d10 d11 d12
      obtain ⟨o1, ho1⟩ : ∃ k, wr.heap.size = k := ⟨_, rfl⟩
      obtain ⟨W9, hW9⟩ : ∃ V, wr.alloc (.cells #[.int .i64 kd, .bool tw, .string m, .string s, .string a, .string p, .slice y1 y2 y3, .string qb, .int .i64 rn, .slice r1 r2 r3, .string rb, .int .i64 st, .int .i64 tk] 60) = V := ⟨_, rfl⟩
      have b9 : Below wr.heap.size wr W9 := by rw [← hW9]; exact bel1 _ _
      have HK9 : Hid (Kp V2 W9 b g me mb lf c y L z B i) := HK.out.below b9
      have HO9 : Hid (W9.heap[o1]? = some (.cells (opv (⟨kd, tw, ⟨m, s, a, p, (y1, y2, y3), qb⟩, rn, (r1, r2, r3), rb, st, tk, Q, fr⟩ : Os)) 60 (0, 0))) := by show _ = _; rw [← hW9, ← ho1, heap_al, if_pos rfl]; rfl
      clear b9 HK
      go_upto_region 10 with fail
      try rw [hW9]
      try rw [ho1]
      clear hW9 ho1 d0 d1 d2 d3 d4 d5 d6 d7 d8 d9 d10 d11 d12
      obtain ⟨d0, d1, d2, d3, d4, d5, d6, d7, d8, d9, d10, d11, d12⟩ := cells60 HO9.out
      simp only [sv] at d6 d9
      have lb := heap_lt HK9.out.ci.bk.blk
      go_upto_block 2 with fail
      go_cut [] from 32 to 106 (fun wx => Hid (∃ c y L z B, Kp V2 wx b g me mb lf c y L z B (i + 1)))
      case first =>
        by_cases h1 : kd = 1
        · have HSt : Hid (Calls Tryd.prog 19 #[.pointer (some ⟨b, 0, none⟩), .agg #[.int .i64 kd, .bool tw, .string m, .string s, .string a, .string p, .slice y1 y2 y3, .string qb, .int .i64 rn, .slice r1 r2 r3, .string rb, .int .i64 st, .int .i64 tk], .int .i64 (i : Int)] W9 fun e W' => e = .returned (.bool true) ∧ ∃ (y' : SV) (L' : List En) (z' : SV) (B' : List Kn), Ci V2 W' b g (hr c tk) y' L' z' B' (hr c tk).ck ∧ (∀ x ∈ B', x.st ≤ (i : Int)) ∧ B'.Pairwise fun a b => a.st < b.st) := stores_any V2 W9 b g c y L z B HK9.out.ci (⟨kd, tw, ⟨m, s, a, p, (y1, y2, y3), qb⟩, rn, (r1, r2, r3), rb, st, tk, Q, fr⟩ : Os) HOi.out (i : Int) HK9.out.st HK9.out.pw ⟨by have := HK9.out.cc.1; have := HM.out.1; omega, by have := HK9.out.cc.2.1; have := HM.out.2.1; omega⟩
          have HCc := HK9.out.cc
          replace HCc : Hid (c.me = me ∧ c.mb = mb ∧ c.lf = lf) := HCc
          subst h1
          go_wp2_with fail
          go_at_call 19
          refine HSt.out.mono ?_
          rintro e V12 ⟨rfl, y', L', z', B', hCi, hst, hpw⟩
          have HE : Hid (∃ c y L z B, Kp V2 V12 b g me mb lf c y L z B (i + 1)) := ⟨_, y', L', z', B', hCi, hr_cc HCc.out tk, fun x hx => by have := hst x hx; omega, hpw⟩
          clear hCi hst hpw HSt
          go_wp2_with fail
          go_meet
          case rel => exact HE.out
        · by_cases h23 : kd = 2 ∨ kd = 3
          · have HCl : Hid (Calls Tryd.prog 20 #[.pointer (some ⟨b, 0, none⟩), .agg #[.int .i64 kd, .bool tw, .string m, .string s, .string a, .string p, .slice y1 y2 y3, .string qb, .int .i64 rn, .slice r1 r2 r3, .string rb, .int .i64 st, .int .i64 tk]] W9 fun e W' => e = .returned (.bool true) ∧ ∃ (y' : SV) (L' : List En) (z' : SV) (B' : List Kn), Ci V2 W' b g (hr c tk) y' L' z' B' (hr c tk).ck ∧ (∀ x ∈ B', x ∈ B) ∧ B'.Sublist B) := claims_any V2 W9 b g c y L z B HK9.out.ci (⟨kd, tw, ⟨m, s, a, p, (y1, y2, y3), qb⟩, rn, (r1, r2, r3), rb, st, tk, Q, fr⟩ : Os) HOi.out
            have HCc : Hid (c.me = me ∧ c.mb = mb ∧ c.lf = lf) := HK9.out.cc
            have HPs : Hid ((∀ x ∈ B, x.st < (i : Int)) ∧ B.Pairwise fun a b => a.st < b.st) := ⟨HK9.out.st, HK9.out.pw⟩
            rcases h23 with h2 | h2
            · subst h2
              go_wp2_with fail
              go_at_call 20
              refine HCl.out.mono ?_
              rintro e V12 ⟨rfl, y', L', z', B', hCi, hsub, hsl⟩
              have HE : Hid (∃ c y L z B, Kp V2 V12 b g me mb lf c y L z B (i + 1)) := ⟨_, y', L', z', B', hCi, hr_cc HCc.out tk, fun x hx => by have := HPs.out.1 x (hsub x hx); omega, HPs.out.2.sublist hsl⟩
              clear hCi hsub hsl HCl
              go_wp2_with fail
              go_meet
              case rel => exact HE.out
            · subst h2
              go_wp2_with fail
              go_at_call 20
              refine HCl.out.mono ?_
              rintro e V12 ⟨rfl, y', L', z', B', hCi, hsub, hsl⟩
              have HE : Hid (∃ c y L z B, Kp V2 V12 b g me mb lf c y L z B (i + 1)) := ⟨_, y', L', z', B', hCi, hr_cc HCc.out tk, fun x hx => by have := HPs.out.1 x (hsub x hx); omega, HPs.out.2.sublist hsl⟩
              clear hCi hsub hsl HCl
              go_wp2_with fail
              go_meet
              case rel => exact HE.out
          · by_cases h4 : kd = 4
            · subst h4
              have HC9 : Hid (Cl V2 W9 b g c y L z B c.ck o1 (⟨4, tw, ⟨m, s, a, p, (y1, y2, y3), qb⟩, rn, (r1, r2, r3), rb, st, tk, Q, fr⟩ : Os)) := ⟨HK9.out.ci, ⟨HO9.out, by decide⟩⟩
              have HCc : Hid (c.me = me ∧ c.mb = mb ∧ c.lf = lf) := HK9.out.cc
              have HPs : Hid ((∀ x ∈ B, x.st < (i : Int)) ∧ B.Pairwise fun a b => a.st < b.st) := ⟨HK9.out.st, HK9.out.pw⟩
              have HTk : Hid (tk ≤ 9223372036854775807) := HOi.out.tk
              have e6 : W9.cell? ⟨b, 6, none⟩ = some (.int .i64 c.ck) := HK9.out.ci.bk.cells.2.2.2.2.2.2.1
              have f6 : W9.frozen? ⟨b, 6, none⟩ = false := HK9.out.ci.bk.cells.2.2.2.2.2.2.2 6
              obtain ⟨n1, hn1⟩ : ∃ n, max c.ck tk = n := ⟨_, rfl⟩
              have HN1 : Hid ((hr c tk).ck = n1 ∧ n1 ≤ 9223372036854775807) := ⟨hn1, by have := HK9.out.ci.cx.ok.ck; have := HTk.out; omega⟩
              have HAr : Hid (∀ k ∈ B, 0 ≤ k.ar ∧ k.ar ≤ n1) := fun k hk => by
                have h1 := HK9.out.ci.rl.ar HK9.out.ci.cx.ok k hk
                exact ⟨h1.1, by omega⟩
              have HB64 : Hid (B.length ≤ 64) := by have := HK9.out.ci.cx.ok.len; have := HK9.out.ci.cx.ok.me; have := HK9.out.ci.rl.len; show _ ≤ _; omega
              go_upto_region 19 with fail
              go_region
              all_goals
                go_upto_region 20 with fail
                obtain ⟨W2, hW2⟩ : ∃ V, (W9.setCell ⟨b, 6, none⟩ (.int .i64 n1)).drew = V := ⟨_, rfl⟩
                have HC3 : Hid (Cl V2 W2 b g c y L z B n1 o1 (⟨4, tw, ⟨m, s, a, p, (y1, y2, y3), qb⟩, rn, (r1, r2, r3), rb, st, tk, Q, fr⟩ : Os)) := by rw [← hW2]; exact (HC9.out.setNow n1).below (Below.refl _ _).drew
                try rw [hW2]
                clear hW2 HC9 e6 f6 d0 d1 d2 d3 d4 d5 d6 d7 d8 d9 d10 d11 d12 lb hn1 HK9 HO9
                obtain ⟨d0, d1, d2, d3, d4, d5, d6, d7, d8, d9, d10, d11, d12⟩ := cells60 HC3.out.bx.blk
                have HTi : Hid (Calls Tryd.prog 10 #[.pointer (some ⟨g, 0, none⟩), .int .i64 tk] W2 fun r w' => tiP V2 w' b g (hr c tk) L z B n1 o1 (⟨4, tw, ⟨m, s, a, p, (y1, y2, y3), qb⟩, rn, (r1, r2, r3), rb, st, tk, Q, fr⟩ : Os) r) := HC3.out.tick tk HTk.out
                have HRl : Hid (Rl L B) := HC3.out.ci.rl
                clear d0 d1 d2 d3 d4 d5 d6 d7 d8 d9 d10 d11
                go_wp2_with fail
                go_at_call 10
                refine HTi.out.mono ?_
                rintro e V10 ⟨⟨g1, g2, g3⟩, n, D, y', rfl, hCj, hgs, hSp⟩
                have HCj : Hid (Cj V2 V10 b g (hr c tk) y' (L.drop n) z B n1 o1 (⟨4, tw, ⟨m, s, a, p, (y1, y2, y3), qb⟩, rn, (r1, r2, r3), rb, st, tk, Q, fr⟩ : Os)) := hCj
                have HWn : Hid (Calls Tryd.prog 21 #[.pointer (some ⟨b, 0, none⟩), .slice g1 g2 g3, .bool false] V10 fun e W' => e = .returned (.bool true) ∧ ∃ z', Wn V10 W' b g (hr c tk).me (hr c tk).mb (hr c tk).lf z z' (B.drop n) n1 (g1, g2, g3) D) :=
                  went_any V10 b g _ _ _ z B n1 hCj.bk (g1, g2, g3) n hSp.nl D hSp.Ds hgs false (by have := HB64.out; omega) HAr.out HN1.out.2 (fun k hk => by have := hSp.late k hk; rw [HN1.out.1] at this; exact this) (fun k hk => by have := hSp.rest k hk; rw [HN1.out.1] at this; exact this)
                simp only [sv]
                clear hCj hgs hSp HTi HC3 d12
                go_wp2_with fail
                go_at_call 21
                refine HWn.out.mono ?_
                rintro e V11 ⟨rfl, z', hWn⟩
                have HE : Hid (∃ c y L z B, Kp V2 V11 b g me mb lf c y L z B (i + 1)) := ⟨_, y', L.drop n, z', B.drop n, by rw [HN1.out.1]; exact HCj.out.went hWn (HRl.out.drop n), hr_cc HCc.out tk, fun x hx => by have := HPs.out.1 x ((List.drop_sublist _ _).subset hx); omega, HPs.out.2.sublist (List.drop_sublist _ _)⟩
                clear hWn HWn HCj
                go_wp2_with fail
                go_meet
                case rel => exact HE.out
            · have h1b : (kd == 1) = false := beq_eq_false_iff_ne.2 h1
              have h2b : (kd == 2) = false := beq_eq_false_iff_ne.2 (fun e => h23 (.inl e))
              have h3b : (kd == 3) = false := beq_eq_false_iff_ne.2 (fun e => h23 (.inr e))
              have h4b : (kd == 4) = false := beq_eq_false_iff_ne.2 h4
              have HE : Hid (∃ c y L z B, Kp V2 W9 b g me mb lf c y L z B (i + 1)) := ⟨c, y, L, z, B, HK9.out.ci, HK9.out.cc, fun x hx => by have := HK9.out.st x hx; omega, HK9.out.pw⟩
              clear HK9
              go_wp2_with fail
              go_meet
              case rel => exact HE.out
      case rest =>
        clear HK9 HO9 d0 d1 d2 d3 d4 d5 d6 d7 d8 d9 d10 d11 d12 lb
        obtain ⟨c, y, L, ⟨z1, z2, z3⟩, B, hKc⟩ := hcut.out
        have hLl : L.length = z2 := by
          have h1 := slice_len (show In EK wc (.slice z1 z2 z3) B from hKc.ci.bk.row.isIn)
          rw [h1.1]
          exact hKc.ci.rl.len
        obtain ⟨T, hT⟩ : ∃ T, totL L = T := ⟨_, rfl⟩
        have hTK : totK B = T := by rw [← hT]; exact hKc.ci.rl.tot.symm
        have hme2 : ¬ me < (z2 : Int) := by have h1 := hKc.ci.cx.ok.len; have := hKc.cc.1; rw [hLl] at h1; omega
        have hmb2 : ¬ mb < (T : Int) := by have h1 := hKc.ci.cx.ok.tot; have := hKc.cc.2.1; rw [hT] at h1; omega
        have hT60 : T ≤ 4096 := by have := HM.out.2.1; omega
        have HLn : Hid (∀ V, Below wc.heap.size wc V → Calls Tryd.prog 12 #[.pointer (some ⟨g, 0, none⟩)] V fun e w' => e = .returned (.int .i64 (z2 : Int)) ∧ w' = V) := fun V hV => by
          have := len_any V g c y L (hKc.below hV).ci.cx
          rw [hLl] at this
          exact this
        have HBy : Hid (∀ V, Below wc.heap.size wc V → Calls Tryd.prog 22 #[.pointer (some ⟨g, 0, none⟩)] V fun e w' => e = .returned (.int .i64 (T : Int)) ∧ Below V.heap.size V w') := fun V hV => by
          have := bytes_any V g c y L (hKc.below hV).ci.cx
          rw [hT] at this
          exact this
        have HBk : Hid (∀ V, Below wc.heap.size wc V → Calls Tryd.prog 23 #[.pointer (some ⟨b, 0, none⟩)] V fun e w' => e = .returned (.int .i64 (T : Int)) ∧ Below V.heap.size V w') := fun V hV => by
          have := bytesK_any V b g _ _ _ _ B _ (hKc.below hV).ci.bk (by omega)
          rw [hTK] at this
          exact this
        have hS22 : Hid (∀ V, Below wc.heap.size wc V → V.cell? ⟨b, 5, none⟩ = some (.slice z1 z2 z3) ∧ V.cell? ⟨k0, 0, none⟩ = some (.int .i64 me) ∧ V.cell? ⟨k0, 1, none⟩ = some (.int .i64 mb)) := fun V hV => by
          have h1 := (hKc.below hV).ci.bk.cells
          have h2 := ((hKc.below hV).ci.bel.block _ (heap_lt HK0.out)).trans HK0.out
          exact ⟨h1.2.2.2.2.2.1, cell_blk h2 0, cell_blk h2 1⟩
        have hme3 : decide (me < (z2 : Int)) = false := decide_eq_false hme2
        have hmb3 : decide (mb < (T : Int)) = false := decide_eq_false hmb2
        have hne1 : ((z2 : Int) != (z2 : Int)) = false := by simp
        have hne2 : ((T : Int) != (T : Int)) = false := by simp
        have lb := heap_lt hKc.ci.bk.blk
        replace hKc : Hid (Kp V2 wc b g me mb lf c y L (z1, z2, z3) B (i + 1)) := hKc
        clear hLl hT hTK hcut
        go_upto_region 22 with fail
        have hIW : Below wc.heap.size wc wc.drew := (Below.refl _ _).drew
        refine wp_region_held_drew (S := (fun V => V.cell? ⟨b, 5, none⟩ = some (.slice z1 z2 z3) ∧ V.cell? ⟨k0, 0, none⟩ = some (.int .i64 me) ∧ V.cell? ⟨k0, 1, none⟩ = some (.int .i64 mb))) (by kernel_rfl) (hS22.out _ hIW) (fun hHeld => ?_)
        generalize hWg : World.drew _ = W22 at hIW hHeld ⊢
        clear hWg
        refine wpAnyH_take (i := 0) (oi := { dst := some 77, op := Op.move (Operand.tmp 6), type := 30, pos := "outright.go:176", after := #[], guard := none }) (v := ?vv1) rfl (by kernel_rfl) (by kernel_rfl) (by kernel_rfl) (fun _ _ _ h => h) (Or.inl ⟨by rfl, ?hy1⟩) (by assumption) ?_
        case hy1 => (intro w hSw; (try dsimp only at hSw); go_simp; all_goals with_reducible rfl)
        try simp only [Act.put, List.setIfInBounds_toArray, List.set_cons_zero, List.set_cons_succ]
        refine wpAnyH_take (i := 2) (oi := { dst := some 79, op := Op.move (Operand.tmp 8), type := 55, pos := "outright.go:176", after := #[], guard := none }) (v := ?vv2) rfl (by kernel_rfl) (by kernel_rfl) (by kernel_rfl) (fun _ _ _ h => h) (Or.inl ⟨by rfl, ?hy2⟩) (by assumption) ?_
        case hy2 => (intro w hSw; (try dsimp only at hSw); go_simp; all_goals with_reducible rfl)
        try simp only [Act.put, List.setIfInBounds_toArray, List.set_cons_zero, List.set_cons_succ]
        refine wpAnyH_take (i := 3) (oi := { dst := some 80, op := Op.nilCheck (Operand.tmp 79), type := 0, pos := "outright.go:176", after := #[{ on := 2, ground := Ground.data }], guard := none }) (v := ?vv3) rfl (by kernel_rfl) (by kernel_rfl) (by kernel_rfl) (fun _ _ _ h => h) (Or.inl ⟨by rfl, ?hy3⟩) (by assumption) ?_
        case hy3 => (intro w hSw; (try dsimp only at hSw); go_simp; all_goals with_reducible rfl)
        try simp only [Act.put, List.setIfInBounds_toArray, List.set_cons_zero, List.set_cons_succ]
        refine wpAnyH_take (i := 4) (oi := { dst := some 81, op := Op.fieldAddr 58 (Operand.tmp 80) 2, type := 0, pos := "outright.go:176", after := #[{ on := 3, ground := Ground.data }], guard := none }) (v := ?vv4) rfl (by kernel_rfl) (by kernel_rfl) (by kernel_rfl) (fun _ _ _ h => h) (Or.inl ⟨by rfl, ?hy4⟩) (by assumption) ?_
        case hy4 => (intro w hSw; (try dsimp only at hSw); go_simp; all_goals with_reducible rfl)
        try simp only [Act.put, List.setIfInBounds_toArray, List.set_cons_zero, List.set_cons_succ]
        refine wpAnyH_take (i := 5) (oi := { dst := some 82, op := Op.load 56 (Operand.tmp 81), type := 56, pos := "outright.go:176", after := #[{ on := 4, ground := Ground.data }], guard := none }) (v := ?vv5) rfl (by kernel_rfl) (by kernel_rfl) (by kernel_rfl) (fun _ _ _ h => h) (Or.inl ⟨by rfl, ?hy5⟩) (by assumption) ?_
        case hy5 => (intro w hSw; (try dsimp only at hSw); go_simp; all_goals with_reducible rfl)
        try simp only [Act.put, List.setIfInBounds_toArray, List.set_cons_zero, List.set_cons_succ]
        refine wpAnyH_take (i := 6) (oi := { dst := some 83, op := Op.call { callee := Callee.builtin Builtin.len, args := #[Operand.tmp 82], argTypes := #[56] }, type := 3, pos := "outright.go:176", after := #[{ on := 5, ground := Ground.data }], guard := none }) (v := ?vv6) rfl (by kernel_rfl) (by kernel_rfl) (by kernel_rfl) (fun _ _ _ h => h) (Or.inl ⟨by rfl, ?hy6⟩) (by assumption) ?_
        case hy6 => (intro w hSw; (try dsimp only at hSw); go_simp; all_goals with_reducible rfl)
        try simp only [Act.put, List.setIfInBounds_toArray, List.set_cons_zero, List.set_cons_succ]
        refine wpAnyH_ready (rs := [1]) (by kernel_rfl) (by simp) ?_
        refine AllReadyH.cons (o := { dst := some 78, op := Op.call { callee := Callee.value (Operand.func 12), args := #[Operand.tmp 77], argTypes := #[30] }, type := 3, pos := "outright.go:176", after := #[{ on := 0, ground := Ground.data }], guard := none }) rfl (fun K hK => ?_) AllReadyH.nil
        go_simp
        refine (HLn.out _ hIW).mono ?_
        rintro e' W22x ⟨rfl, rfl⟩
        have hW22x := hIW
        go_wp2_with fail
        refine hK.out _ _ (hS22.out _ hW22x) (fun hHeld => ?_)
        clear hK K
        try simp only [Act.put, List.setIfInBounds_toArray, List.set_cons_zero, List.set_cons_succ]
        refine wpAnyH_take (i := 7) (oi := { dst := some 84, op := Op.binOp BinOp.neq 3 (Operand.tmp 78) (Operand.tmp 83) 3, type := 4, pos := "outright.go:176", after := #[{ on := 1, ground := Ground.data }, { on := 6, ground := Ground.data }], guard := none }) (v := ?vv7) rfl (by kernel_rfl) (by kernel_rfl) (by kernel_rfl) (fun _ _ _ h => h) (Or.inl ⟨by rfl, ?hy7⟩) (by assumption) ?_
        case hy7 => (intro w hSw; (try dsimp only at hSw); go_simp; all_goals with_reducible rfl)
        try simp only [Act.put, List.setIfInBounds_toArray, List.set_cons_zero, List.set_cons_succ]
        refine wpAnyH_take (i := 8) (oi := { dst := some 85, op := Op.move (Operand.tmp 84), type := 4, pos := "outright.go:176", after := #[{ on := 7, ground := Ground.data }, { on := 1, ground := Ground.chain }], guard := none }) (v := ?vv8) rfl (by kernel_rfl) (by kernel_rfl) (by kernel_rfl) (fun _ _ _ h => h) (Or.inl ⟨by rfl, ?hy8⟩) (by assumption) ?_
        case hy8 => (intro w hSw; (try dsimp only at hSw); go_simp; all_goals with_reducible rfl)
        try simp only [Act.put, List.setIfInBounds_toArray, List.set_cons_zero, List.set_cons_succ]
        refine wpAnyH_take (i := 9) (oi := { dst := some 86, op := Op.move (Operand.tmp 6), type := 30, pos := "outright.go:176", after := #[{ on := 8, ground := Ground.guard }], guard := some (8, false) }) (v := ?vv9) rfl (by kernel_rfl) (by kernel_rfl) (by kernel_rfl) (fun _ _ _ h => h) (Or.inl ⟨by rfl, ?hy9⟩) (by assumption) ?_
        case hy9 => (intro w hSw; (try dsimp only at hSw); go_simp; all_goals with_reducible rfl)
        try simp only [Act.put, List.setIfInBounds_toArray, List.set_cons_zero, List.set_cons_succ]
        refine wpAnyH_take (i := 11) (oi := { dst := some 88, op := Op.move (Operand.tmp 8), type := 55, pos := "outright.go:176", after := #[{ on := 8, ground := Ground.guard }], guard := some (8, false) }) (v := ?vv10) rfl (by kernel_rfl) (by kernel_rfl) (by kernel_rfl) (fun _ _ _ h => h) (Or.inl ⟨by rfl, ?hy10⟩) (by assumption) ?_
        case hy10 => (intro w hSw; (try dsimp only at hSw); go_simp; all_goals with_reducible rfl)
        try simp only [Act.put, List.setIfInBounds_toArray, List.set_cons_zero, List.set_cons_succ]
        refine wpAnyH_ready (rs := [10]) (by kernel_rfl) (by simp) ?_
        refine AllReadyH.cons (o := { dst := some 87, op := Op.call { callee := Callee.value (Operand.func 22), args := #[Operand.tmp 86], argTypes := #[30] }, type := 2, pos := "outright.go:176", after := #[{ on := 9, ground := Ground.data }, { on := 8, ground := Ground.chain }, { on := 8, ground := Ground.guard }], guard := some (8, false) }) rfl (fun K hK => ?_) AllReadyH.nil
        refine ite_take (by rfl) ?_
        go_simp
        refine (HBy.out _ hW22x).mono ?_
        rintro e' W22xx ⟨rfl, bX⟩
        have hW22xx : Below wc.heap.size wc W22xx := hW22x.trans (bX.mono hW22x.size)
        clear bX
        go_wp2_with fail
        refine hK.out _ _ (hS22.out _ hW22xx) (fun hHeld => ?_)
        clear hK K
        try simp only [Act.put, List.setIfInBounds_toArray, List.set_cons_zero, List.set_cons_succ]
        refine wpAnyH_ready (rs := [12]) (by kernel_rfl) (by simp) ?_
        refine AllReadyH.cons (o := { dst := some 89, op := Op.call { callee := Callee.value (Operand.func 23), args := #[Operand.tmp 88], argTypes := #[55] }, type := 2, pos := "outright.go:176", after := #[{ on := 11, ground := Ground.data }, { on := 10, ground := Ground.chain }, { on := 8, ground := Ground.guard }], guard := some (8, false) }) rfl (fun K hK => ?_) AllReadyH.nil
        refine ite_take (by rfl) ?_
        go_simp
        refine (HBk.out _ hW22xx).mono ?_
        rintro e' W22xxx ⟨rfl, bX⟩
        have hW22xxx : Below wc.heap.size wc W22xxx := hW22xx.trans (bX.mono hW22xx.size)
        clear bX
        go_wp2_with fail
        refine hK.out _ _ (hS22.out _ hW22xxx) (fun hHeld => ?_)
        clear hK K
        try simp only [Act.put, List.setIfInBounds_toArray, List.set_cons_zero, List.set_cons_succ]
        refine wpAnyH_take (i := 13) (oi := { dst := some 90, op := Op.binOp BinOp.neq 2 (Operand.tmp 87) (Operand.tmp 89) 2, type := 4, pos := "outright.go:176", after := #[{ on := 10, ground := Ground.data }, { on := 12, ground := Ground.data }, { on := 8, ground := Ground.guard }], guard := some (8, false) }) (v := ?vv11) rfl (by kernel_rfl) (by kernel_rfl) (by kernel_rfl) (fun _ _ _ h => h) (Or.inl ⟨by rfl, ?hy11⟩) (by assumption) ?_
        case hy11 => (intro w hSw; (try dsimp only at hSw); go_simp; all_goals with_reducible rfl)
        try simp only [Act.put, List.setIfInBounds_toArray, List.set_cons_zero, List.set_cons_succ]
        refine wpAnyH_take (i := 14) (oi := { dst := some 91, op := Op.pick (Operand.tmp 85) (Operand.const (Value.bool true)) (Operand.tmp 90), type := 4, pos := "outright.go:176", after := #[{ on := 8, ground := Ground.data }, { on := 13, ground := Ground.data }], guard := none }) (v := ?vv12) rfl (by kernel_rfl) (by kernel_rfl) (by kernel_rfl) (fun _ _ _ h => h) (Or.inl ⟨by rfl, ?hy12⟩) (by assumption) ?_
        case hy12 => (intro w hSw; (try dsimp only at hSw); go_simp; all_goals with_reducible rfl)
        try simp only [Act.put, List.setIfInBounds_toArray, List.set_cons_zero, List.set_cons_succ]
        refine wpAnyH_take (i := 15) (oi := { dst := some 92, op := Op.move (Operand.tmp 91), type := 4, pos := "outright.go:176", after := #[{ on := 14, ground := Ground.data }, { on := 12, ground := Ground.chain }], guard := none }) (v := ?vv13) rfl (by kernel_rfl) (by kernel_rfl) (by kernel_rfl) (fun _ _ _ h => h) (Or.inl ⟨by rfl, ?hy13⟩) (by assumption) ?_
        case hy13 => (intro w hSw; (try dsimp only at hSw); go_simp; all_goals with_reducible rfl)
        try simp only [Act.put, List.setIfInBounds_toArray, List.set_cons_zero, List.set_cons_succ]
        refine wpAnyH_take (i := 16) (oi := { dst := some 93, op := Op.move (Operand.tmp 6), type := 30, pos := "outright.go:176", after := #[{ on := 15, ground := Ground.guard }], guard := some (15, false) }) (v := ?vv14) rfl (by kernel_rfl) (by kernel_rfl) (by kernel_rfl) (fun _ _ _ h => h) (Or.inl ⟨by rfl, ?hy14⟩) (by assumption) ?_
        case hy14 => (intro w hSw; (try dsimp only at hSw); go_simp; all_goals with_reducible rfl)
        try simp only [Act.put, List.setIfInBounds_toArray, List.set_cons_zero, List.set_cons_succ]
        refine wpAnyH_take (i := 18) (oi := { dst := some 95, op := Op.fieldAddr 36 (Operand.tmp 5) 0, type := 0, pos := "outright.go:176", after := #[{ on := 15, ground := Ground.guard }], guard := some (15, false) }) (v := ?vv15) rfl (by kernel_rfl) (by kernel_rfl) (by kernel_rfl) (fun _ _ _ h => h) (Or.inl ⟨by rfl, ?hy15⟩) (by assumption) ?_
        case hy15 => (intro w hSw; (try dsimp only at hSw); go_simp; all_goals with_reducible rfl)
        try simp only [Act.put, List.setIfInBounds_toArray, List.set_cons_zero, List.set_cons_succ]
        refine wpAnyH_take (i := 19) (oi := { dst := some 96, op := Op.load 2 (Operand.tmp 95), type := 2, pos := "outright.go:176", after := #[{ on := 18, ground := Ground.data }, { on := 15, ground := Ground.guard }], guard := some (15, false) }) (v := ?vv16) rfl (by kernel_rfl) (by kernel_rfl) (by kernel_rfl) (fun _ _ _ h => h) (Or.inl ⟨by rfl, ?hy16⟩) (by assumption) ?_
        case hy16 => (intro w hSw; (try dsimp only at hSw); go_simp; all_goals with_reducible rfl)
        try simp only [Act.put, List.setIfInBounds_toArray, List.set_cons_zero, List.set_cons_succ]
        refine wpAnyH_ready (rs := [17]) (by kernel_rfl) (by simp) ?_
        refine AllReadyH.cons (o := { dst := some 94, op := Op.call { callee := Callee.value (Operand.func 12), args := #[Operand.tmp 93], argTypes := #[30] }, type := 3, pos := "outright.go:176", after := #[{ on := 16, ground := Ground.data }, { on := 15, ground := Ground.chain }, { on := 15, ground := Ground.guard }], guard := some (15, false) }) rfl (fun K hK => ?_) AllReadyH.nil
        refine ite_take (by rfl) ?_
        go_simp
        refine (HLn.out _ hW22xxx).mono ?_
        rintro e' W22xxxx ⟨rfl, rfl⟩
        have hW22xxxx := hW22xxx
        go_wp2_with fail
        refine hK.out _ _ (hS22.out _ hW22xxxx) (fun hHeld => ?_)
        clear hK K
        try simp only [Act.put, List.setIfInBounds_toArray, List.set_cons_zero, List.set_cons_succ]
        refine wpAnyH_take (i := 20) (oi := { dst := some 97, op := Op.binOp BinOp.gtr 2 (Operand.tmp 94) (Operand.tmp 96) 2, type := 4, pos := "outright.go:176", after := #[{ on := 17, ground := Ground.data }, { on := 19, ground := Ground.data }, { on := 15, ground := Ground.guard }], guard := some (15, false) }) (v := ?vv17) rfl (by kernel_rfl) (by kernel_rfl) (by kernel_rfl) (fun _ _ _ h => h) (Or.inl ⟨by rfl, ?hy17⟩) (by assumption) ?_
        case hy17 => (intro w hSw; (try dsimp only at hSw); go_simp; all_goals with_reducible rfl)
        try simp only [Act.put, List.setIfInBounds_toArray, List.set_cons_zero, List.set_cons_succ]
        refine wpAnyH_take (i := 21) (oi := { dst := some 98, op := Op.pick (Operand.tmp 92) (Operand.const (Value.bool true)) (Operand.tmp 97), type := 4, pos := "outright.go:176", after := #[{ on := 15, ground := Ground.data }, { on := 20, ground := Ground.data }], guard := none }) (v := ?vv18) rfl (by kernel_rfl) (by kernel_rfl) (by kernel_rfl) (fun _ _ _ h => h) (Or.inl ⟨by rfl, ?hy18⟩) (by assumption) ?_
        case hy18 => (intro w hSw; (try dsimp only at hSw); go_simp; all_goals with_reducible rfl)
        try simp only [Act.put, List.setIfInBounds_toArray, List.set_cons_zero, List.set_cons_succ]
        refine wpAnyH_take (i := 22) (oi := { dst := some 99, op := Op.move (Operand.tmp 98), type := 4, pos := "outright.go:176", after := #[{ on := 21, ground := Ground.data }, { on := 17, ground := Ground.chain }], guard := none }) (v := ?vv19) rfl (by kernel_rfl) (by kernel_rfl) (by kernel_rfl) (fun _ _ _ h => h) (Or.inl ⟨by rfl, ?hy19⟩) (by assumption) ?_
        case hy19 => (intro w hSw; (try dsimp only at hSw); go_simp; all_goals with_reducible rfl)
        try simp only [Act.put, List.setIfInBounds_toArray, List.set_cons_zero, List.set_cons_succ]
        refine wpAnyH_take (i := 23) (oi := { dst := some 100, op := Op.move (Operand.tmp 6), type := 30, pos := "outright.go:176", after := #[{ on := 22, ground := Ground.guard }], guard := some (22, false) }) (v := ?vv20) rfl (by kernel_rfl) (by kernel_rfl) (by kernel_rfl) (fun _ _ _ h => h) (Or.inl ⟨by rfl, ?hy20⟩) (by assumption) ?_
        case hy20 => (intro w hSw; (try dsimp only at hSw); go_simp; all_goals with_reducible rfl)
        try simp only [Act.put, List.setIfInBounds_toArray, List.set_cons_zero, List.set_cons_succ]
        refine wpAnyH_take (i := 25) (oi := { dst := some 102, op := Op.fieldAddr 36 (Operand.tmp 5) 1, type := 0, pos := "outright.go:176", after := #[{ on := 22, ground := Ground.guard }], guard := some (22, false) }) (v := ?vv21) rfl (by kernel_rfl) (by kernel_rfl) (by kernel_rfl) (fun _ _ _ h => h) (Or.inl ⟨by rfl, ?hy21⟩) (by assumption) ?_
        case hy21 => (intro w hSw; (try dsimp only at hSw); go_simp; all_goals with_reducible rfl)
        try simp only [Act.put, List.setIfInBounds_toArray, List.set_cons_zero, List.set_cons_succ]
        refine wpAnyH_take (i := 26) (oi := { dst := some 103, op := Op.load 2 (Operand.tmp 102), type := 2, pos := "outright.go:176", after := #[{ on := 25, ground := Ground.data }, { on := 22, ground := Ground.guard }], guard := some (22, false) }) (v := ?vv22) rfl (by kernel_rfl) (by kernel_rfl) (by kernel_rfl) (fun _ _ _ h => h) (Or.inl ⟨by rfl, ?hy22⟩) (by assumption) ?_
        case hy22 => (intro w hSw; (try dsimp only at hSw); go_simp; all_goals with_reducible rfl)
        try simp only [Act.put, List.setIfInBounds_toArray, List.set_cons_zero, List.set_cons_succ]
        refine wpAnyH_ready (rs := [24]) (by kernel_rfl) (by simp) ?_
        refine AllReadyH.cons (o := { dst := some 101, op := Op.call { callee := Callee.value (Operand.func 22), args := #[Operand.tmp 100], argTypes := #[30] }, type := 2, pos := "outright.go:176", after := #[{ on := 23, ground := Ground.data }, { on := 22, ground := Ground.chain }, { on := 22, ground := Ground.guard }], guard := some (22, false) }) rfl (fun K hK => ?_) AllReadyH.nil
        refine ite_take (by rfl) ?_
        go_simp
        refine (HBy.out _ hW22xxxx).mono ?_
        rintro e' W22xxxxx ⟨rfl, bX⟩
        have hW22xxxxx : Below wc.heap.size wc W22xxxxx := hW22xxxx.trans (bX.mono hW22xxxx.size)
        clear bX
        go_wp2_with fail
        refine hK.out _ _ (hS22.out _ hW22xxxxx) (fun hHeld => ?_)
        clear hK K
        try simp only [Act.put, List.setIfInBounds_toArray, List.set_cons_zero, List.set_cons_succ]
        refine wpAnyH_take (i := 27) (oi := { dst := some 104, op := Op.binOp BinOp.gtr 2 (Operand.tmp 101) (Operand.tmp 103) 2, type := 4, pos := "outright.go:176", after := #[{ on := 24, ground := Ground.data }, { on := 26, ground := Ground.data }, { on := 22, ground := Ground.guard }], guard := some (22, false) }) (v := ?vv23) rfl (by kernel_rfl) (by kernel_rfl) (by kernel_rfl) (fun _ _ _ h => h) (Or.inl ⟨by rfl, ?hy23⟩) (by assumption) ?_
        case hy23 => (intro w hSw; (try dsimp only at hSw); go_simp; all_goals with_reducible rfl)
        try simp only [Act.put, List.setIfInBounds_toArray, List.set_cons_zero, List.set_cons_succ]
        refine wpAnyH_take (i := 28) (oi := { dst := some 105, op := Op.pick (Operand.tmp 99) (Operand.const (Value.bool true)) (Operand.tmp 104), type := 4, pos := "outright.go:176", after := #[{ on := 22, ground := Ground.data }, { on := 27, ground := Ground.data }], guard := none }) (v := ?vv24) rfl (by kernel_rfl) (by kernel_rfl) (by kernel_rfl) (fun _ _ _ h => h) (Or.inl ⟨by rfl, ?hy24⟩) (by assumption) ?_
        case hy24 => (intro w hSw; (try dsimp only at hSw); go_simp; all_goals with_reducible rfl)
        try simp only [Act.put, List.setIfInBounds_toArray, List.set_cons_zero, List.set_cons_succ]
        refine wpAnyH_done (by kernel_rfl) ?_ _
        have HE : Hid (KpE V2 W22xxxxx b g me mb lf (i + 1)) := ⟨c, y, L, (z1, z2, z3), B, hKc.out.below hW22xxxxx⟩
        clear hS22 hHeld hKc
        go_wp2_with fail
        go_roundw
        case rel => exact ⟨i + 1, by simp, by omega, HE.out⟩
        case measure => simp [intOf]; omega
    · have l1 : ¬ (i : Int) < (s2 : Int) := by omega
      obtain ⟨c, y, L, z, B, hK⟩ := hJ.out
      have HE : Hid (Below w.heap.size w wr) := HB2.out.trans (hK.ci.bel.mono HB2.out.size)
      clear hJ hK
      go_wp2_with fail
      go_ret
      exact ⟨rfl, HE.out⟩
end Go.Proofs.YtfponcdhaefkdaaDoor
