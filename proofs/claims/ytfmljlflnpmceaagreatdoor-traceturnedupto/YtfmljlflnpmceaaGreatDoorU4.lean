/- TraceTurned, walked. -/
import Derived.Test.YtfmljlflnpmceaaGreatDoorVzn
import Derived.Test.YtfmljlflnpmceaaGreatDoorU3
namespace Go.Proofs.YtfmljlflnpmceaaGreatDoor
open Go.RowKit
set_option linter.unusedVariables false
set_option linter.unusedSimpArgs false
theorem El.cs_set {α : Type} {E : El α} (ok : E.Ok) (l : List α) (j i : Nat) (hj : j < l.length) (hi : i < E.sz) (u : Value) (x : α) (hx : E.enc x = (E.enc l[j]).set i u) : E.cs (l.set j x) = (E.cs l).set (j * E.sz + i) u := by
  induction l generalizing j with
  | nil => exact absurd hj (by simp)
  | cons a r ih =>
    cases j with
    | zero =>
      simp only [El.cs, List.set_cons_zero, List.flatMap_cons, Nat.zero_mul, Nat.zero_add]
      rw [hx, List.set_append_left _ _ (by rw [ok.len]; exact hi)]
      rfl
    | succ j =>
      have := ih j (by simpa using hj) hx
      simp only [El.cs, List.set_cons_succ, List.flatMap_cons] at this ⊢
      rw [this, List.set_append_right _ _ (by rw [ok.len, Nat.succ_mul]; omega), ok.len, show (j + 1) * E.sz + i - E.sz = j * E.sz + i by rw [Nat.succ_mul]; omega]
theorem R.setc {α : Type} {E : El α} (ok : E.Ok) {w : World} {v : Value} {l : List α} (h : R E w v l) (j i : Nat) (hj : j < l.length) (hi : i < E.sz) : ∃ g cap, v = .slice (some ⟨g, 0, none⟩) l.length cap ∧ l.length ≤ cap ∧ cap ≤ 9223372036854775807 ∧ g < w.heap.size ∧ v.ownBlock = some g ∧
    (∀ i' u', (E.enc l[j])[i']? = some u' → w.cell? ⟨g, j * E.sz + i', none⟩ = some u') ∧ (∀ o, w.frozen? ⟨g, o, none⟩ = false) ∧
    (∀ u x, E.enc x = (E.enc l[j]).set i u → R E (w.setCell ⟨g, j * E.sz + i, none⟩ u) v (l.set j x)) := by
  obtain ⟨B, off, cap, e, hB, d⟩ := h.isIn.get ok j hj
  obtain ⟨h3, h4⟩ := h
  rcases h4 with ⟨hv, h0⟩ | ⟨g', cap', cur, hv, hb, hg, hn, hm, hs, ht⟩
  · omega
  · rw [hv] at e
    injection e with e1 e2 e3
    injection e1 with e1
    injection e1 with e1 e4
    subst e1
    subst e3
    subst e4
    subst hv
    refine ⟨g', cap', rfl, hn, by unfold maxLen at hm; omega, (Array.getElem?_eq_some_iff.1 hg).1, rfl, fun i' u' hu => by have := d i' u' hu; rw [Nat.zero_add] at this; exact this, fun o => by simp [World.frozen?, hg], fun u x hx => ⟨by rw [ok.length], .inr ⟨g', cap', cur.setIfInBounds (j * E.sz + i) u, by rw [List.length_set], hb, setCell_block _ _ _ _ _ _ _ hg, by rw [List.length_set]; exact hn, hm, by simp [hs], ?_⟩⟩⟩
    rw [List.length_set, El.cs_set ok l j i hj hi u x hx, ← ht]
    simp only [Array.toList_setIfInBounds, List.take_set]
def Ec.flip (x : Ec) : Ec := { x with e := x.e.flip }
theorem EOk.flip {w : World} {e : Et} {p : Value} (h : EOk w e p) : EOk w e.flip p := ⟨h.st, h.la, h.dz, h.pin, h.inn, h.sz, h.fn⟩
/-- j entries are turned about -/
def Tl (j : Nat) (zs : List Ec) : List Ec := (zs.take j).map Ec.flip ++ zs.drop j
theorem Tl.len (j : Nat) (zs : List Ec) : (Tl j zs).length = zs.length := by
  unfold Tl
  simp
  omega
theorem Tl.get {j : Nat} {zs : List Ec} (h : j < zs.length) : (Tl j zs)[j]'(by rw [Tl.len]; exact h) = zs[j] := by
  unfold Tl
  rw [List.getElem_append_right (by simp; omega)]
  simp
  congr 1
  omega
theorem Tl.set {j : Nat} {zs : List Ec} (h : j < zs.length) : (Tl j zs).set j zs[j].flip = Tl (j + 1) zs := by
  unfold Tl
  rw [List.set_append_right _ _ (by simp; omega), List.drop_eq_getElem_cons h]
  have : j - ((zs.take j).map Ec.flip).length = 0 := by simp; omega
  rw [this, List.set_cons_zero, List.take_succ_eq_append_getElem h, List.map_append, List.append_assoc]
  rfl
theorem Tl.all (zs : List Ec) : Tl zs.length zs = zs.map Ec.flip := by unfold Tl; simp
theorem flip_map (zs : List Ec) : (zs.map Ec.flip).map (·.e) = (zs.map (·.e)).map Et.flip := by simp [Ec.flip, Function.comp_def]
/-- within the loop -/
def Fj (w wr : World) (v : Value) (zs : List Ec) (j : Nat) : Prop := R EE wr v (Tl j zs) ∧ (∀ z ∈ zs, R EP wr z.p z.e.ps) ∧ (∀ k, v.ownBlock = some k → w.heap.size ≤ k) ∧ Below w.heap.size w wr
theorem Fj.step {w wr : World} {b : Option Addr} {n c : Nat} {zs : List Ec} {j : Nat} (h : Fj w wr (.slice b n c) zs j) (hj : j < zs.length) : ∃ g, b = some ⟨g, 0, none⟩ ∧ wr.cell? ⟨g, j * 12, none⟩ = some (.bool zs[j].e.s) ∧ wr.frozen? ⟨g, j * 12, none⟩ = false ∧ g < wr.heap.size ∧ Fj w (wr.setCell ⟨g, j * 12, none⟩ (.bool (!zs[j].e.s))) (.slice b n c) zs (j + 1) := by
  obtain ⟨h1, h2, h3, h4⟩ := h
  obtain ⟨g, cap, a1, a2, a3, a4, a5, a6, a7, a8⟩ := R.setc okEE h1 j 0 (by rw [Tl.len]; exact hj) (by decide)
  rw [Tl.get hj] at a6 a8
  obtain ⟨cc, hg⟩ := h1.ty g a5
  injection a1 with b1 b2 b3
  have r := a8 (.bool (!zs[j].e.s)) zs[j].flip rfl
  rw [Tl.set hj] at r
  refine ⟨g, b1, a6 0 _ rfl, a7 _, a4, r, fun z hz => (h2 z hz).stays fun k hk hl => setCell_other _ _ _ _ _ fun e => ?_, h3, h4.trans ((Ks.setCell (fun i => i = g) wr g (j * 12) _ rfl).below h4.size (fun i hi e => ?_))⟩
  · subst e
    obtain ⟨c', hc'⟩ := (h2 z hz).ty k hk
    exact ty_ne hg hc' (by decide) rfl
  · have := h3 g a5
    omega
set_option maxRecDepth 100000 in
set_option maxHeartbeats 40000000 in
theorem turned_any (xs : List Ec) (v : Value) (c : Bool) (w : World) (hx : Lg w v xs) (h0 : Std w) (hK : Fm.Kinds w) (hw2 : 2 ≤ w.heap.size) (hl : xs.length ≤ 268435456) :
    Calls Tryz.prog 4 #[v, .bool c] w fun r w' => r = .returned (.bool true) ∧ Below w.heap.size w w' := by
  have HX : Hid (Lg w v xs) := hx
  have HF : Hid (∀ V, Below w.heap.size w V → Calls Tryz.prog 11 #[] V fun r w' => r = .returned (.bool true) ∧ Below V.heap.size V w') := fun V hV => first_any V (h0.below hV) (hK.of_eq (hV.block 1 (by omega))) (Nat.le_trans hw2 hV.size)
  have HOw : Hid (∀ (zs : List Ec) (z : Value) (V : World), Below w.heap.size w V → In EE V z zs → (∀ x ∈ zs, In EP w x.p x.e.ps) → (∀ x ∈ zs, Eo x.e) → zs.length ≤ 1073741824 → Calls Tryz.prog 10 #[z] V fun r w' => ∃ v' ys, r = .returned v' ∧ OwJ V w' v' ys zs zs.length) := fun zs z V hV hI hp he hn => own_any zs z V hI (fun x hx => ⟨(hp x hx).below hV, (he x hx).pl⟩) hn
  have HCk : Hid (∀ (c : Bool) (ys : List Ec) (z : Value) (V : World) (q : Int × Int), Below w.heap.size w V → In EE V z ys → (∀ y ∈ ys, EOk V y.e y.p) → ys.length ≤ 1073741824 → checkS (ys.map (·.e)) c = q → Calls Tryz.prog 9 #[z, .bool c] V fun r w' => r = .returned (.tuple #[.int .i64 q.1, .int .i64 q.2]) ∧ Below V.heap.size V w') := fun c ys z V q hV hI hE hn hq => by
    have := check_any ys z c V hI hE (h0.below hV) (hK.of_eq (hV.block 1 (by omega))) (Nat.le_trans hw2 hV.size) (by omega)
    rw [hq] at this
    exact this
  obtain ⟨vb, vc, hvs, hc1, hc2⟩ := hx.1.slice
  obtain ⟨n, hn⟩ : ∃ n, xs.length = n := ⟨_, rfl⟩
  rw [hn] at hvs hc1 hl
  subst hvs
  have HN : Hid (xs.length = n) := hn
  obtain ⟨⟨at', cd⟩, hq⟩ : ∃ q, checkS (xs.map (·.e)) c = q := ⟨_, rfl⟩
  have HQ : Hid (checkS (xs.map (·.e)) c = (at', cd)) := hq
  have hcase := checkS_at (xs.map (·.e)) c
  rw [hq, List.length_map, hn] at hcase
  have HOO := hid (HOw.out xs _ w (Below.refl _ _) hx.1 hx.2.1 hx.2.2 (by omega))
  clear hx h0 hK hw2 hq hn
  go_enter Tryz.func4, Tryz.ntmps4
  go_wp2_with fail
  go_at_call 10
  refine HOO.out.mono ?_
  rintro e V1 ⟨v1, ys, rfl, hc0⟩
  have hc := hc0.check HX.out.2.2
  have HC1 := hid (HCk.out c ys v1 V1 (at', cd) hc.2.2.2.2 hc.1 hc.2.1 (by rw [hc.2.2.2.1]; have := HN.out; omega) (by rw [hc.2.2.1]; exact HQ.out))
  have HB1 := hid hc.2.2.2.2
  clear hc hc0 HOO
  go_wp2_with fail
  go_at_call 9
  refine HC1.out.mono ?_
  rintro e V2 ⟨rfl, h2⟩
  have HB2 := hid (belT h2 HB1.out)
  clear h2 HC1 HB1
  go_wp2_with fail
  go_at_call 11
  refine (HF.out _ HB2.out).mono ?_
  rintro e V3 ⟨rfl, h3⟩
  have HB := hid (belT h3 HB2.out)
  clear h3 HB2
  rcases hcase with hcs | ⟨a, ha, hat, hcd⟩
  · injection hcs with e1 e2
    subst e1 e2
    have HTQ : Hid (checkS ((xs.map (·.e)).take n) c = (-1, 0)) := checkS_take (.inl HQ.out)
    clear HQ

    have hsl0 : (0 : Int) ≤ (n : Int) := by omega
    have hsl : (n : Int) ≤ (vc : Int) := by omega
    have HO5 := hid (HOw.out (xs.take n) (.slice vb n vc) V3 HB.out ((HX.out.1.below HB.out).cut n (by omega)) (fun x hx => HX.out.2.1 x (List.mem_of_mem_take hx)) (fun x hx => HX.out.2.2 x (List.mem_of_mem_take hx)) (by rw [List.length_take]; have := HN.out; omega))
    go_wp2_with fail
    go_at_call 10
    refine HO5.out.mono ?_
    rintro e V5 ⟨v5, zs, rfl, hc5⟩
    have hz5 : zs.map (·.e) = (xs.take n).map (·.e) := by
      have := hc5.2.1
      rwa [List.take_length] at this
    have hzl : zs.length = n := by
      have := congrArg List.length hz5
      simp only [List.length_map, List.length_take] at this
      have := HN.out
      omega
    have HB5 := hid (belT hc5.2.2.2.2 HB.out)
    have HL5 := hid (late_any zs v5 V5 hc5.1.isIn (by omega))
    obtain ⟨b5, c5, rfl, hk1, hk2⟩ := hc5.1.slice
    rw [hzl] at HL5 hk1 hc5 ⊢
    have HF5 : Hid (Fj w V5 (.slice b5 n c5) zs 0) := ⟨by simpa [Tl] using hc5.1, fun z hz => (hc5.2.2.1 z hz).1, fun k hk => Nat.le_trans HB.out.size (hc5.2.2.2.1 k hk), HB5.out⟩
    have HE5 : Hid (∀ z ∈ zs, Eo z.e) := fun z hz => by
      have hm : z.e ∈ (xs.take n).map (·.e) := by rw [← hz5]; exact List.mem_map_of_mem hz
      obtain ⟨x, hx, e⟩ := List.mem_map.1 hm
      rw [← e]
      exact HX.out.2.2 x (List.mem_of_mem_take hx)
    have HZ : Hid (zs.map (·.e) = (xs.take n).map (·.e) ∧ zs.length = n) := ⟨hz5, hzl⟩
    obtain ⟨lb, hlb⟩ : ∃ b, lateL [] (zs.map (·.e)) = b := ⟨_, rfl⟩
    rw [hlb] at HL5
    have HLB := hid hlb
    clear hc5 hz5 hzl hlb HO5
    go_wp2_with fail
    go_at_call 12
    refine HL5.out.mono ?_
    rintro e V6 ⟨rfl, h6⟩
    have HB6 := hid (belT h6 HB5.out)
    have HF6 : Hid (Fj w V6 (.slice b5 n c5) zs 0) := ⟨HF5.out.1.below h6, fun z hz => (HF5.out.2.1 z hz).below h6, HF5.out.2.2.1, HB6.out⟩
    clear h6 HL5 HF5 HB5
    cases lb
    · have HTU : Hid (checkS ((zs.map (·.e)).map Et.flip) (!c) = (-1, 0)) := checkS_turned _ c (fun e he => by
        obtain ⟨z, hz, rfl⟩ := List.mem_map.1 he
        exact ew_of (HE5.out z hz).fn) HLB.out (by rw [HZ.out.1, List.map_take]; exact HTQ.out)
      have HEND : Hid (∀ V, Fj w V (.slice b5 n c5) zs n → Calls Tryz.prog 9 #[.slice b5 n c5, .bool (!c)] V fun r w' => r = .returned (.tuple #[.int .i64 (-1), .int .i64 0]) ∧ Below V.heap.size V w') := fun V hV => by
        have hz := HZ.out.2
        have hI := hV.1.isIn
        have hall := Tl.all zs
        rw [hz] at hall
        rw [hall] at hI
        exact HCk.out (!c) (zs.map Ec.flip) (.slice b5 n c5) V (-1, 0) hV.2.2.2 hI (fun y hy => by
          obtain ⟨z, hz, rfl⟩ := List.mem_map.1 hy
          exact ((HE5.out z hz).ok (hV.2.1 z hz).isIn).flip) (by rw [List.length_map, hz]; omega) (by rw [flip_map]; exact HTU.out)
      clear HTU HLB HE5
      go_wp2_with fail
      go_loopw [9] (fun i wr => ∃ j : Nat, j ≤ n ∧ i = .int .i64 (j : Int) ∧ Hid (Fj w wr (.slice b5 n c5) zs j)) (fun i _ => n - (intOf i).toNat)
      case atStart => exact ⟨0, Nat.zero_le _, rfl, HF6.out⟩
      case round =>
        obtain ⟨j, hj, rfl, HI⟩ := hrel
        by_cases hlt : j < n
        · obtain ⟨g, hbg, s0, s1, s2, hst⟩ := HI.out.step (by rw [HZ.out.2]; exact hlt)
          obtain ⟨sb, hsb⟩ : ∃ b, (zs[j]'(by rw [HZ.out.2]; exact hlt)).e.s = b := ⟨_, rfl⟩
          rw [hsb] at s0 hst
          have HST := hid hst
          clear hst hsb HI
          subst hbg
          have hlti : (j : Int) < (n : Int) := by omega
          have hjw : wrap64 ((j : Int) + 1) = ((j + 1 : Nat) : Int) := by unfold wrap64; omega
          go_wp2_with fail
          go_roundw
          case rel => exact ⟨j + 1, by omega, by first | rfl | (rw [hjw]) | simp, HST.out⟩
          case measure => simp [intOf]; omega
        · have hnlt : ¬ (j : Int) < (n : Int) := by omega
          obtain rfl : j = n := by omega
          have HC9 := hid (HEND.out wr HI.out)
          have HBI := hid HI.out.2.2.2
          clear HEND
          go_wp2_with fail
          go_at_call 9
          refine HC9.out.mono ?_
          rintro e V9 ⟨rfl, h9⟩
          have HB9 := hid (belT h9 HBI.out)
          clear h9 HC9
          go_wp2_with fail
          go_ret
          exact ⟨rfl, HB9.out⟩
    · go_wp2_with fail
      go_ret
      exact ⟨rfl, HB6.out⟩

  · try simp only at hat hcd
    subst hat
    have HTQ : Hid (checkS ((xs.map (·.e)).take a) c = (-1, 0)) := checkS_take (.inr (by rw [HQ.out]; simp only; omega))
    have hage : (a : Int) ≥ 0 := by omega
    have hage' : (0 : Int) ≤ (a : Int) := by omega
    have halt : (a : Int) < (n : Int) := by omega
    clear HQ

    have hsl0 : (0 : Int) ≤ (a : Int) := by omega
    have hsl : (a : Int) ≤ (vc : Int) := by omega
    have HO5 := hid (HOw.out (xs.take a) (.slice vb a vc) V3 HB.out ((HX.out.1.below HB.out).cut a (by omega)) (fun x hx => HX.out.2.1 x (List.mem_of_mem_take hx)) (fun x hx => HX.out.2.2 x (List.mem_of_mem_take hx)) (by rw [List.length_take]; have := HN.out; omega))
    go_wp2_with fail
    go_at_call 10
    refine HO5.out.mono ?_
    rintro e V5 ⟨v5, zs, rfl, hc5⟩
    have hz5 : zs.map (·.e) = (xs.take a).map (·.e) := by
      have := hc5.2.1
      rwa [List.take_length] at this
    have hzl : zs.length = a := by
      have := congrArg List.length hz5
      simp only [List.length_map, List.length_take] at this
      have := HN.out
      omega
    have HB5 := hid (belT hc5.2.2.2.2 HB.out)
    have HL5 := hid (late_any zs v5 V5 hc5.1.isIn (by omega))
    obtain ⟨b5, c5, rfl, hk1, hk2⟩ := hc5.1.slice
    rw [hzl] at HL5 hk1 hc5 ⊢
    have HF5 : Hid (Fj w V5 (.slice b5 a c5) zs 0) := ⟨by simpa [Tl] using hc5.1, fun z hz => (hc5.2.2.1 z hz).1, fun k hk => Nat.le_trans HB.out.size (hc5.2.2.2.1 k hk), HB5.out⟩
    have HE5 : Hid (∀ z ∈ zs, Eo z.e) := fun z hz => by
      have hm : z.e ∈ (xs.take a).map (·.e) := by rw [← hz5]; exact List.mem_map_of_mem hz
      obtain ⟨x, hx, e⟩ := List.mem_map.1 hm
      rw [← e]
      exact HX.out.2.2 x (List.mem_of_mem_take hx)
    have HZ : Hid (zs.map (·.e) = (xs.take a).map (·.e) ∧ zs.length = a) := ⟨hz5, hzl⟩
    obtain ⟨lb, hlb⟩ : ∃ b, lateL [] (zs.map (·.e)) = b := ⟨_, rfl⟩
    rw [hlb] at HL5
    have HLB := hid hlb
    clear hc5 hz5 hzl hlb HO5
    go_wp2_with fail
    go_at_call 12
    refine HL5.out.mono ?_
    rintro e V6 ⟨rfl, h6⟩
    have HB6 := hid (belT h6 HB5.out)
    have HF6 : Hid (Fj w V6 (.slice b5 a c5) zs 0) := ⟨HF5.out.1.below h6, fun z hz => (HF5.out.2.1 z hz).below h6, HF5.out.2.2.1, HB6.out⟩
    clear h6 HL5 HF5 HB5
    cases lb
    · have HTU : Hid (checkS ((zs.map (·.e)).map Et.flip) (!c) = (-1, 0)) := checkS_turned _ c (fun e he => by
        obtain ⟨z, hz, rfl⟩ := List.mem_map.1 he
        exact ew_of (HE5.out z hz).fn) HLB.out (by rw [HZ.out.1, List.map_take]; exact HTQ.out)
      have HEND : Hid (∀ V, Fj w V (.slice b5 a c5) zs a → Calls Tryz.prog 9 #[.slice b5 a c5, .bool (!c)] V fun r w' => r = .returned (.tuple #[.int .i64 (-1), .int .i64 0]) ∧ Below V.heap.size V w') := fun V hV => by
        have hz := HZ.out.2
        have hI := hV.1.isIn
        have hall := Tl.all zs
        rw [hz] at hall
        rw [hall] at hI
        exact HCk.out (!c) (zs.map Ec.flip) (.slice b5 a c5) V (-1, 0) hV.2.2.2 hI (fun y hy => by
          obtain ⟨z, hz, rfl⟩ := List.mem_map.1 hy
          exact ((HE5.out z hz).ok (hV.2.1 z hz).isIn).flip) (by rw [List.length_map, hz]; omega) (by rw [flip_map]; exact HTU.out)
      clear HTU HLB HE5
      go_wp2_with fail
      go_loopw [9] (fun i wr => ∃ j : Nat, j ≤ a ∧ i = .int .i64 (j : Int) ∧ Hid (Fj w wr (.slice b5 a c5) zs j)) (fun i _ => a - (intOf i).toNat)
      case atStart => exact ⟨0, Nat.zero_le _, rfl, HF6.out⟩
      case round =>
        obtain ⟨j, hj, rfl, HI⟩ := hrel
        by_cases hlt : j < a
        · obtain ⟨g, hbg, s0, s1, s2, hst⟩ := HI.out.step (by rw [HZ.out.2]; exact hlt)
          obtain ⟨sb, hsb⟩ : ∃ b, (zs[j]'(by rw [HZ.out.2]; exact hlt)).e.s = b := ⟨_, rfl⟩
          rw [hsb] at s0 hst
          have HST := hid hst
          clear hst hsb HI
          subst hbg
          have hlti : (j : Int) < (a : Int) := by omega
          have hjw : wrap64 ((j : Int) + 1) = ((j + 1 : Nat) : Int) := by unfold wrap64; omega
          go_wp2_with fail
          go_roundw
          case rel => exact ⟨j + 1, by omega, by first | rfl | (rw [hjw]) | simp, HST.out⟩
          case measure => simp [intOf]; omega
        · have hnlt : ¬ (j : Int) < (a : Int) := by omega
          obtain rfl : j = a := by omega
          have HC9 := hid (HEND.out wr HI.out)
          have HBI := hid HI.out.2.2.2
          clear HEND
          go_wp2_with fail
          go_at_call 9
          refine HC9.out.mono ?_
          rintro e V9 ⟨rfl, h9⟩
          have HB9 := hid (belT h9 HBI.out)
          clear h9 HC9
          go_wp2_with fail
          go_ret
          exact ⟨rfl, HB9.out⟩
    · go_wp2_with fail
      go_ret
      exact ⟨rfl, HB6.out⟩
end Go.Proofs.YtfmljlflnpmceaaGreatDoor
