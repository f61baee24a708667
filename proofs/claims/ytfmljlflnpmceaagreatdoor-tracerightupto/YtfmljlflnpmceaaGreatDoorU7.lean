/- TraceRight, walked. -/
import Derived.Test.YtfmljlflnpmceaaGreatDoorVa
import Derived.Test.YtfmljlflnpmceaaGreatDoorVzn
import Derived.Test.YtfmljlflnpmceaaGreatDoorVu2
import Derived.Deep.Cut
import Derived.Deep.CutRange
namespace Go.Proofs.YtfmljlflnpmceaaGreatDoor
open Go.RowKit
set_option linter.unusedVariables false
set_option linter.unusedSimpArgs false
theorem Rm.dr {w W : World} {gl gs n : Nat} {sv : Bool → Value} {v : Value} {pl : List Pl} {g : Rg} (h : Rm w W gl gs sv v pl g n) : Rm w W.drew gl gs sv v pl g n := h.below (Below.refl _ _).drew
/-- between two entries -/
def RJ (w wr : World) (gl gs : Nat) (c : Bool) (L : List Et) (j : Nat) (wb : Option Addr) (wl wc : Nat) (p la : Int) : Prop :=
  ∃ sv pl g k, Rm w wr gl gs sv (.slice wb wl wc) pl g j ∧ Iv c k g ∧ chk k (L.drop j) j = (-1, 0) ∧ g.push = p ∧ g.last = la ∧ pl.length = wl
theorem RJ.bel {w wr : World} {gl gs : Nat} {c : Bool} {L : List Et} {j : Nat} {wb : Option Addr} {wl wc : Nat} {p la : Int} (h : RJ w wr gl gs c L j wb wl wc p la) : Below w.heap.size w wr := by
  obtain ⟨_, _, _, _, h, _⟩ := h
  exact h.bel
theorem rm_new {w V : World} (hB : Below w.heap.size w V) {q r : Nat} (hl : V.heap[q]? = some (.cells #[.int .i64 65535, .int .i64 65535] 35 (0, 0))) (hs : V.heap[r]? = some (.cells #[.slice none 0 0, .slice none 0 0] 37 (0, 0))) (hq : w.heap.size ≤ q) (hr : w.heap.size ≤ r) (c : Bool) (L : List Et) (hL : checkS L c = (-1, 0)) : RJ w V q r c L 0 none 0 0 1 0 :=
  ⟨fun _ => .slice none 0 0, [], Rg.new, Lk.new c, ⟨hl, hs, fun s => R.nil _ _, fun s => Nat.le_refl _, fun k hk => by simp [Value.ownBlock] at hk, fun s k hk => by simp [Value.ownBlock] at hk, .inl ⟨rfl, rfl⟩, fun k hk => by simp [Value.ownBlock] at hk, Nat.le_refl _, trivial, hq, hr, hB⟩, Iv.new c, hL, rfl, rfl, rfl⟩
theorem Rg.step_a {c : Bool} {g g' : Rg} {e : Et} (h : g.step c e = some g') : ((g.sh e.s).contains e.f.st && !(e.f.st == 0) && decide (e.f.ty ≤ 9) && !(e.f.ty == 2)) = false := by
  unfold Rg.step at h
  split at h
  · cases h
  · rename_i h1
    simpa using h1
theorem Rg.step_b {c : Bool} {g g' : Rg} {e : Et} (h : g.step c e = some g') : (if e.f.ty = 0 then (if g.left e.s - e.size < 0 then none else some { g with left := fun t => if t = e.s then g.left t - e.size else g.left t })
  else if e.f.ty = 3 then some { g with sh := fun t => if t = e.s then g.sh t ++ [e.f.st] else g.sh t }
  else if e.f.ty = 4 then
    (if e.has 1 = true then
      (if (e.s == c) = true then some g else match g.wait with | [] => none | w :: W => some { g with push := pushOf g.push w, wait := W })
     else if (e.s == c) = true then some { g with wait := g.wait ++ [e.ps] } else some g)
  else if e.f.ty = 5 then (if (e.s == c) = true ∨ e.f.last ≤ g.last ∨ e.f.last.tmod 2 ≠ 0 ∨ g.push ≠ 1 then none else some { g with last := e.f.last })
  else if e.f.ty = 8 then (if e.f.st = 0 then some { g with left := fun t => if t = !e.s then g.left t + e.f.last else g.left t } else some g)
  else some g) = some g' := by
  have h0 := Rg.step_a h
  unfold Rg.step at h
  rw [h0, if_neg (by decide)] at h
  exact h
theorem Rg.step_0 {c : Bool} {g g' : Rg} {e : Et} (h : g.step c e = some g') (t : e.f.ty = 0) : ¬ g.left e.s - e.size < 0 ∧ g' = { g with left := fun u => if u = e.s then g.left e.s - e.size else g.left u } := by
  have h := Rg.step_b h
  rw [if_pos t] at h
  split at h
  · cases h
  · rename_i h1
    injection h with h
    refine ⟨h1, h.symm.trans ?_⟩
    congr 1
    funext u
    split
    · rename_i hu; rw [hu]
    · rfl
theorem Rg.step_3 {c : Bool} {g g' : Rg} {e : Et} (h : g.step c e = some g') (t : e.f.ty = 3) : g' = { g with sh := fun u => if u = e.s then g.sh u ++ [e.f.st] else g.sh u } := by
  have h := Rg.step_b h
  rw [if_neg (by omega), if_pos t] at h
  injection h with h
  exact h.symm
theorem Rg.step_4 {c : Bool} {g g' : Rg} {e : Et} (h : g.step c e = some g') (t : e.f.ty = 4) :
    (e.has 1 = true → (e.s == c) = true → g' = g) ∧ (e.has 1 = true → (e.s == c) = false → ∃ w W, g.wait = w :: W ∧ g' = { g with push := pushOf g.push w, wait := W }) ∧
    (e.has 1 = false → (e.s == c) = true → g' = { g with wait := g.wait ++ [e.ps] }) ∧ (e.has 1 = false → (e.s == c) = false → g' = g) := by
  have h := Rg.step_b h
  rw [if_neg (by omega), if_neg (by omega), if_pos t] at h
  refine ⟨fun h1 h2 => ?_, fun h1 h2 => ?_, fun h1 h2 => ?_, fun h1 h2 => ?_⟩
  · rw [if_pos h1, if_pos h2] at h
    injection h with h
    exact h.symm
  · rw [if_pos h1, if_neg (by rw [h2]; decide)] at h
    cases hw : g.wait with
    | nil => rw [hw] at h; cases h
    | cons w W =>
      rw [hw] at h
      injection h with h
      exact ⟨w, W, rfl, h.symm⟩
  · rw [if_neg (by rw [h1]; decide), if_pos h2] at h
    injection h with h
    exact h.symm
  · rw [if_neg (by rw [h1]; decide), if_neg (by rw [h2]; decide)] at h
    injection h with h
    exact h.symm
theorem Rg.step_5 {c : Bool} {g g' : Rg} {e : Et} (h : g.step c e = some g') (t : e.f.ty = 5) : (e.s == c) = false ∧ ¬ e.f.last ≤ g.last ∧ e.f.last.tmod 2 = 0 ∧ g.push = 1 ∧ g' = { g with last := e.f.last } := by
  have h := Rg.step_b h
  rw [if_neg (by omega), if_neg (by omega), if_neg (by omega), if_pos t] at h
  split at h
  · cases h
  · rename_i h1
    simp only [not_or, Decidable.not_not] at h1
    injection h with h
    exact ⟨by simpa using h1.1, h1.2.1, h1.2.2.1, h1.2.2.2, h.symm⟩
theorem Rg.step_8 {c : Bool} {g g' : Rg} {e : Et} (h : g.step c e = some g') (t : e.f.ty = 8) : (e.f.st = 0 → g' = { g with left := fun u => if u = !e.s then g.left (!e.s) + e.f.last else g.left u }) ∧ (e.f.st ≠ 0 → g' = g) := by
  have h := Rg.step_b h
  rw [if_neg (by omega), if_neg (by omega), if_neg (by omega), if_neg (by omega), if_pos t] at h
  refine ⟨fun h1 => ?_, fun h1 => ?_⟩
  · rw [if_pos h1] at h
    injection h with h
    refine h.symm.trans ?_
    congr 1
    funext u
    split
    · rename_i hu; rw [hu]
    · rfl
  · rw [if_neg h1] at h
    injection h with h
    exact h.symm
theorem Rg.step_x {c : Bool} {g g' : Rg} {e : Et} (h : g.step c e = some g') (t : e.f.ty ≠ 0 ∧ e.f.ty ≠ 3 ∧ e.f.ty ≠ 4 ∧ e.f.ty ≠ 5 ∧ e.f.ty ≠ 8) : g' = g := by
  have h := Rg.step_b h
  rw [if_neg t.1, if_neg t.2.1, if_neg t.2.2.1, if_neg t.2.2.2.1, if_neg t.2.2.2.2] at h
  injection h with h
  exact h.symm
theorem pushOf_take (p : Int) {l : List (Int × Int)} {j : Nat} (hj : j < l.length) : pushOf p (l.take (j + 1)) = if l[j].1 = 2 then l[j].2 else pushOf p (l.take j) := by
  unfold pushOf
  rw [List.take_succ_eq_append_getElem hj, List.foldl_append]
  rfl
theorem wrap_s {i m : Nat} (h : i < m) (hm : m ≤ 1099511627776) : wrap64 ((i : Int) + 1) = ((i + 1 : Nat) : Int) := by unfold wrap64; omega
theorem meas_s {i m : Nat} (h : wrap64 ((i : Int) + 1) = ((i + 1 : Nat) : Int)) (hi : i < m) : m - (intOf (.int .i64 (wrap64 ((i : Int) + 1)))).toNat < m - (intOf (.int .i64 (i : Int))).toNat := by
  rw [h]
  show m - (((i + 1 : Nat) : Int)).toNat < m - ((i : Int)).toNat
  simp only [Int.toNat_natCast]
  omega
theorem Rm.leftw {w W : World} {gl gs n : Nat} {sv : Bool → Value} {v : Value} {pl : List Pl} {g : Rg} (h : Rm w W gl gs sv v pl g n) (s : Bool) {k : Nat} (hk : wi s = k) (x : Int) : (W.cell? ⟨gl, k, none⟩ = some (.int .i64 (g.left s)) ∧ W.frozen? ⟨gl, k, none⟩ = false ∧ gl < W.heap.size) ∧ Rm w (W.setCell ⟨gl, k, none⟩ (.int .i64 x)) gl gs sv v pl { g with left := fun t => if t = s then x else g.left t } n := by
  subst hk
  exact h.left s x
theorem Rm.leftc {w W : World} {gl gs n : Nat} {sv : Bool → Value} {v : Value} {pl : List Pl} {g : Rg} {s : Bool} {x : Int} (h : Rm w W gl gs sv v pl { g with left := fun t => if t = s then x else g.left t } n) {k : Nat} (hk : wi s = k) : W.cell? ⟨gl, k, none⟩ = some (.int .i64 x) := by
  have := (h.leftw s hk 0).1.1
  simpa using this
theorem Rm.shcw {w W : World} {gl gs n : Nat} {sv : Bool → Value} {v : Value} {pl : List Pl} {g : Rg} (h : Rm w W gl gs sv v pl g n) (s : Bool) {k : Nat} (hk : wi s = k) : W.cell? ⟨gs, k, none⟩ = some (sv s) ∧ W.frozen? ⟨gs, k, none⟩ = false ∧ gs < W.heap.size := by
  subst hk
  exact h.shc s
theorem Rm.shutw {w W V : World} {gl gs n : Nat} {sv : Bool → Value} {v : Value} {pl : List Pl} {g : Rg} (h : Rm w W gl gs sv v pl g n) (s : Bool) {k : Nat} (hk : wi s = k) (x : Int) {u : Value} (hG : Gr W V (sv s) u) (hR : R EI V u (g.sh s ++ [x])) : V.frozen? ⟨gs, k, none⟩ = false ∧ Rm w (V.setCell ⟨gs, k, none⟩ u) gl gs (fun t => if t = s then u else sv t) v pl { g with sh := fun t => if t = s then g.sh t ++ [x] else g.sh t } (n + 1) := by
  subst hk
  exact h.shut s x hG hR
theorem size_nn {e : Et} (h : e.has 8 = true → 0 ≤ e.f.pad ∧ e.f.pad < 256) : 0 ≤ e.size := by
  unfold Et.size
  split
  · rename_i h8
    have := h h8
    omega
  · omega
/-- a round's end -/
theorem RJ.mk {w W : World} {gl gs : Nat} {c : Bool} {L : List Et} {j : Nat} {sv : Bool → Value} {pl : List Pl} {g : Rg} {k : Lk} {wb : Option Addr} {wl wk : Nat} (hI : Iv c k g) (hL : chk k (L.drop j) j = (-1, 0)) (h : Rm w W gl gs sv (.slice wb wl wk) pl g j) (hl : pl.length = wl) : RJ w W gl gs c L j wb wl wk g.push g.last := ⟨sv, pl, g, k, h, hI, hL, rfl, rfl, hl⟩
set_option maxRecDepth 100000 in
set_option maxHeartbeats 40000000 in
theorem right_any (xs : List Ec) (v : Value) (c : Bool) (w : World) (hx : Lg w v xs) (h0 : Std w) (hK : Fm.Kinds w) (hw2 : 2 ≤ w.heap.size) (hl : xs.length ≤ 268435456) :
    Calls Tryz.prog 5 #[v, .bool c] w fun r w' => r = .returned (.bool true) ∧ Below w.heap.size w w' := by
  have HX : Hid (Lg w v xs) := hx
  have HF : Hid (∀ V, Below w.heap.size w V → Calls Tryz.prog 11 #[] V fun r w' => r = .returned (.bool true) ∧ Below V.heap.size V w') := fun V hV => first_any V (h0.below hV) (hK.of_eq (hV.block 1 (by omega))) (Nat.le_trans hw2 hV.size)
  obtain ⟨vb, vc, hvs, hc1, hc2⟩ := hx.1.slice
  obtain ⟨n, hn⟩ : ∃ n, xs.length = n := ⟨_, rfl⟩
  rw [hn] at hvs hc1 hl
  subst hvs
  have HN : Hid (xs.length = n) := hn
  obtain ⟨⟨at', cd⟩, hq⟩ : ∃ q, checkS (xs.map (·.e)) c = q := ⟨_, rfl⟩
  have HQ : Hid (checkS (xs.map (·.e)) c = (at', cd)) := hq
  have hcase := checkS_at (xs.map (·.e)) c
  rw [hq, List.length_map, hn] at hcase
  have HOO := hid (own_any xs _ w hx.1 (fun x hm => ⟨hx.2.1 x hm, (hx.2.2 x hm).pl⟩) (by omega))
  have HCk : Hid (∀ (ys : List Ec) (z : Value) (V : World), Below w.heap.size w V → In EE V z ys → (∀ y ∈ ys, EOk V y.e y.p) → ys.length ≤ 1073741824 → ys.map (·.e) = xs.map (·.e) → Calls Tryz.prog 9 #[z, .bool c] V fun r w' => r = .returned (.tuple #[.int .i64 at', .int .i64 cd]) ∧ Below V.heap.size V w') := fun ys z V hV hI hE hn he => by
    have := check_any ys z c V hI hE (h0.below hV) (hK.of_eq (hV.block 1 (by omega))) (Nat.le_trans hw2 hV.size) (by omega)
    rw [he, HQ.out] at this
    exact this
  obtain ⟨t, htn, HT, htc⟩ : ∃ t : Nat, t ≤ n ∧ Hid (checkS ((xs.map (·.e)).take t) c = (-1, 0)) ∧ ((at' = -1 ∧ t = n) ∨ (at' = (t : Int) ∧ t < n)) := by
    rcases hcase with hcs | ⟨a, ha, hat, hcd⟩
    · injection hcs with e1 e2
      exact ⟨n, Nat.le_refl _, checkS_take (.inl (by rw [HQ.out, e1, e2])), .inl ⟨e1, rfl⟩⟩
    · simp only at hat
      exact ⟨a, by omega, checkS_take (.inr (by rw [HQ.out]; simp only; omega)), .inr ⟨hat, ha⟩⟩
  clear hx h0 hK hw2 hq hn hcase
  go_enter Tryz.func5, Tryz.ntmps5
  go_wp2_with fail
  go_at_call 10
  refine HOO.out.mono ?_
  rintro e V1 ⟨v1, ys, rfl, hc0⟩
  have hc := hc0.check HX.out.2.2
  have HC1 := hid (HCk.out ys v1 V1 hc.2.2.2.2 hc.1 hc.2.1 (by rw [hc.2.2.2.1]; have := HN.out; omega) hc.2.2.1)
  have HB1 := hid hc.2.2.2.2
  clear hc hc0 HOO HCk
  go_wp2_with fail
  go_at_call 9
  refine HC1.out.mono ?_
  rintro e V2 ⟨rfl, h2⟩
  have HB2 := hid (belT h2 HB1.out)
  clear h2 HC1 HB1
  go_wp2_with fail
  go_at_call 11
  refine (HF.out _ HB2.out).mono ?_
  rintro e V3 ⟨rfl, h3⟩
  have HB := hid (belT h3 HB2.out)
  clear h3 HB2 HF HQ
  obtain ⟨B4, hB4⟩ : ∃ b : Bool, (b = true ∧ at' = -1 ∧ t = n) ∨ (b = false ∧ at' = (t : Int) ∧ t < n) := by
    rcases htc with ⟨e1, e2⟩ | ⟨e1, e2⟩
    · exact ⟨true, .inl ⟨rfl, e1, e2⟩⟩
    · exact ⟨false, .inr ⟨rfl, e1, e2⟩⟩
  clear htc
  go_upto_region 4 with fail
  go_cut [33] from 26 (fun b wx => b = .bool B4 ∧ wx = V3)
  case first =>
    rcases hB4 with ⟨rfl, rfl, rfl⟩ | ⟨rfl, rfl, hlt⟩
    · go_wp2_with fail
      go_meet
      case rel => exact ⟨rfl, rfl⟩
    · have a1 : ¬ (t : Int) < 0 := by omega
      have a2 : ¬ (t : Int) > (n : Int) := by omega
      have a2' : ¬ (n : Int) < (t : Int) := by omega
      go_wp2_with fail
      go_meet
      case rel => exact ⟨rfl, rfl⟩
  case rest =>
  obtain ⟨rfl, rfl⟩ := hcut
  go_upto_if 33 with fail
  go_cut [5] from 26 (fun a wx => a = .int .i64 (t : Int) ∧ wx = wc)
  case first =>
    rcases hB4 with ⟨rfl, rfl, rfl⟩ | ⟨rfl, rfl, hlt⟩
    · go_wp2_with fail
      go_meet
      case rel => exact ⟨rfl, rfl⟩
    · go_wp2_with fail
      go_meet
      case rel => exact ⟨rfl, rfl⟩
  case rest =>
    obtain ⟨rfl, rfl⟩ := hcut
    clear hB4
    obtain ⟨L, hL⟩ : ∃ L, (xs.map (·.e)).take t = L := ⟨_, rfl⟩
    rw [hL] at HT
    have HL := hid hL
    clear hL
    obtain ⟨gl, hgl⟩ : ∃ q, wc.heap.size = q := ⟨_, rfl⟩
    obtain ⟨W0, hW0⟩ : ∃ V, (wc.alloc (.cells #[.int .i64 65535, .int .i64 65535] 35)).alloc (.cells #[.slice none 0 0, .slice none 0 0] 37) = V := ⟨_, rfl⟩
    have HR0 : Hid (RJ w W0 gl (gl + 1) c L 0 none 0 0 1 0) := by
      have hb : Below wc.heap.size wc W0 := by rw [← hW0]; exact bel2 _ _ _
      refine rm_new (belT hb HB.out) ?_ ?_ ?_ ?_ c L HT.out
      · rw [← hW0, heap_al, if_neg (by simp; omega), heap_al, if_pos (by omega)]
      · rw [← hW0, heap_al, if_pos (by simp; omega)]
      · have := HB.out.size
        omega
      · have := HB.out.size
        omega
    go_upto_region 10 with fail
    try rw [hW0]
    try rw [hgl]
    clear hW0 hgl HB HT
    go_wp2_with fail
    go_loopw [9, 10, 11, 12] (fun vw pv lv i wr => ∃ (j : Nat) (p la : Int) (wb : Option Addr) (wl wk : Nat), j ≤ t ∧ i = .int .i64 (j : Int) ∧ pv = .int .i64 p ∧ lv = .int .i64 la ∧ vw = .slice wb wl wk ∧ Hid (RJ w wr gl (gl + 1) c L j wb wl wk p la)) (fun _ _ _ i _ => t - (intOf i).toNat)
    case atStart => exact ⟨0, 1, 0, none, 0, 0, Nat.zero_le _, rfl, rfl, rfl, rfl, HR0.out⟩
    case round =>
      obtain ⟨j, p, la, wb, wl, wk, hj, rfl, rfl, rfl, rfl, HI⟩ := hrel
      clear HR0
      by_cases hlt : j < t
      · have hlenx := HN.out
        obtain ⟨sv, pl, g, k, hRm, hIv, hchk, hp, hla, hwl⟩ := HI.out
        obtain ⟨B, off, cap, hvb, hBl, hcells⟩ := (HX.out.1.below hRm.bel).ent j (by omega)
        injection hvb with e1 e2 e3
        subst e1
        clear e2 e3
        have hdrop : L.drop j = (xs[j]'(by omega)).e :: L.drop (j + 1) := by
          have hLl : L.length = t := by rw [← HL.out]; simp; omega
          rw [List.drop_eq_getElem_cons (by omega)]
          congr 1
          simp only [← HL.out]
          simp
        rw [hdrop, chk_cons1] at hchk
        have hmem : (xs[j]'(by omega)) ∈ xs := List.getElem_mem _
        have hEo := HX.out.2.2 _ hmem
        have hIp := HX.out.2.1 _ hmem
        obtain ⟨x, hx⟩ : ∃ x, xs[j]'(by omega) = x := ⟨_, rfl⟩
        rw [hx] at hcells hchk hEo hIp
        have h0 : (k.take x.e).2 = 0 := by
          by_cases h0 : (k.take x.e).2 = 0
          · exact h0
          · rw [if_neg h0] at hchk
            exact absurd (congrArg Prod.snd hchk) h0
        rw [if_pos h0] at hchk
        have hEw := ew_of hEo.fn
        have hn0 := form_n (take_ok h0).2.1
        obtain ⟨g', hst, hIv', h8⟩ := hIv.take x.e hEw h0
        obtain ⟨⟨es, ⟨ey, el, et, ed, ep, ee, eX, ew, ec, eL⟩, eps, en⟩, pb, pn, pc⟩ := x
        simp only [env, Ec.p] at hcells hIp
        obtain ⟨W1, hW1⟩ : ∃ V, wr.alloc (.cells #[.int .i64 ey, .int .i64 el, .int .i64 et, .string ed, .int .i64 ep, .int .i64 ee, .bool eX, .int .i64 ew, .int .i64 ec, .int .i64 eL, .slice pb pn pc] 31) = V := ⟨_, rfl⟩
        obtain ⟨q, hq⟩ : ∃ q, wr.heap.size = q := ⟨_, rfl⟩
        have b1 : Below wr.heap.size wr W1 := by rw [← hW1]; exact bel1 _ _
        have g1 : W1.heap[q]? = some (.cells #[.int .i64 ey, .int .i64 el, .int .i64 et, .string ed, .int .i64 ep, .int .i64 ee, .bool eX, .int .i64 ew, .int .i64 ec, .int .i64 eL, .slice pb pn pc] 31 (0, 0)) := by rw [← hW1, ← hq, heap_al, if_pos rfl]
        have HJ : Hid (Rm w W1 gl (gl + 1) sv (.slice wb wl wk) pl g j ∧ W1.heap[q]? = some (.cells #[.int .i64 ey, .int .i64 el, .int .i64 et, .string ed, .int .i64 ep, .int .i64 ee, .bool eX, .int .i64 ew, .int .i64 ec, .int .i64 eL, .slice pb pn pc] 31 (0, 0))) := ⟨hRm.below b1, g1⟩
        have HFIN : Hid (∀ (W' : World) (wb' : Option Addr) (wl' wk' : Nat) (sv' : Bool → Value) (pl' : List Pl), Rm w W' gl (gl + 1) sv' (.slice wb' wl' wk') pl' g' (j + 1) → pl'.length = wl' → RJ w W' gl (gl + 1) c L (j + 1) wb' wl' wk' g'.push g'.last) := fun W' wb' wl' wk' sv' pl' h hl => RJ.mk hIv' hchk h hl
        have HST : Hid (g.step c ⟨es, ⟨ey, el, et, ed, ep, ee, eX, ew, ec, eL⟩, eps, en⟩ = some g') := hst
        have HPD : Hid (ey = 0 → (⟨es, ⟨ey, el, et, ed, ep, ee, eX, ew, ec, eL⟩, eps, en⟩ : Et).has 8 = true → 0 ≤ ep ∧ ep < 256) := fun ht h => hEw.pad hn0 h ht
        have HH8 : Hid (ey = 8 → et = 0 → 1 ≤ eL ∧ g.left (!es) + eL ≤ 2147483647) := h8
        have HLF : Hid (∀ s, 0 ≤ g.left s ∧ g.left s ≤ 2147483647) := fun s => by have := hIv.lf s; omega
        have HEO : Hid (ed.size ≤ 140737488355328 ∧ I64 et ∧ I64 eL) := ⟨hEo.dz, hEo.st, hEo.la⟩
        have HIP : Hid (In EP w (.slice pb pn pc) eps ∧ eps.length ≤ 1099511627776) := ⟨hIp, hEo.pl⟩
        have HG : Hid (g.push = p ∧ g.last = la ∧ pl.length = wl) := ⟨hp, hla, hwl⟩
        have HA : Hid (((g.sh es).contains et && !(et == 0) && decide (ey ≤ 9) && !(ey == 2)) = false) := Rg.step_a hst
        have HIN : Hid (∀ V, Rm w V gl (gl + 1) sv (.slice wb wl wk) pl g j → Calls Tryz.prog 13 #[sv es, .int .i64 et] V fun r w' => r = .returned (.bool ((g.sh es).contains et)) ∧ w' = V) := fun V hV => in_any _ _ et V (hV.row es).isIn (by have := hV.len es; omega)
        obtain ⟨h1, hh1⟩ : ∃ b, (⟨es, ⟨ey, el, et, ed, ep, ee, eX, ew, ec, eL⟩, eps, en⟩ : Et).has 1 = b := ⟨_, rfl⟩
        have HH1 := hid hh1
        obtain ⟨fc, hfc⟩ : ∃ b, (es == c) = b := ⟨_, rfl⟩
        have HFC := hid hfc
        have d0 := hcells 0 _ rfl
        have d1 := hcells 1 _ rfl
        have d2 := hcells 2 _ rfl
        have d3 := hcells 3 _ rfl
        have d4 := hcells 4 _ rfl
        have d5 := hcells 5 _ rfl
        have d6 := hcells 6 _ rfl
        have d7 := hcells 7 _ rfl
        have d8 := hcells 8 _ rfl
        have d9 := hcells 9 _ rfl
        have d10 := hcells 10 _ rfl
        have d11 := hcells 11 _ rfl
        simp only [Nat.add_zero] at d0
        have f0 : W1.cell? ⟨B, off + j * 12, none⟩ = some (.bool es) := (b1.cell hBl).trans d0
        have hlti : (j : Int) < (t : Int) := by omega
        have hltn : (j : Int) < (n : Int) := by omega
        have hjw : wrap64 ((j : Int) + 1) = ((j + 1 : Nat) : Int) := by unfold wrap64; omega
        have hjl : j + 1 ≤ t := hlt
        clear hcells hlenx hRm hIv hchk hp hla hwl hdrop hmem hEo hIp hx h0 hEw hn0 hst hIv' h8 b1 g1 hh1 HI
        go_upto_region 17 with fail
        try rw [hW1]
        try rw [hq]
        clear hW1 hq d0 d1 d2 d3 d4 d5 d6 d7 d8 d9 d10 d11
        obtain ⟨wn, hwn⟩ : ∃ k, wi es = k := ⟨_, rfl⟩
        obtain ⟨wm, hwm⟩ : ∃ k, wi (!es) = k := ⟨_, rfl⟩
        have HW : Hid (wi es = wn ∧ wi (!es) = wm) := ⟨hwn, hwm⟩
        have hwn2 : (wn : Int) < 2 := by rw [← hwn]; cases es <;> decide
        have hwm2 : (wm : Int) < 2 := by rw [← hwm]; cases es <;> decide
        have hw1 : IntKind.i64.wrap (1 - (wn : Int)) = (wm : Int) := by rw [← hwn, ← hwm]; cases es <;> decide
        clear hwn hwm
        go_upto_if 52 with fail
        go_cut [14] from 38 to 193 (fun k wx => k = .int .i64 (wn : Int) ∧ wx = W1)
        case first =>
          have hw := HW.out.1
          cases es
          · have hw' : wn = 0 := hw.symm
            clear hw HW
            subst hw'
            go_wp2_with fail
            go_meet
            case rel => exact ⟨rfl, rfl⟩
          · have hw' : wn = 1 := hw.symm
            clear hw HW
            subst hw'
            go_wp2_with fail
            go_meet
            case rel => exact ⟨rfl, rfl⟩
        case rest =>
        obtain ⟨rfl, rfl⟩ := hcut
        have hS21 : Hid (∀ V, Rm w V gl (gl + 1) sv (.slice wb wl wk) pl g j ∧ V.heap[q]? = some (.cells #[.int .i64 ey, .int .i64 el, .int .i64 et, .string ed, .int .i64 ep, .int .i64 ee, .bool eX, .int .i64 ew, .int .i64 ec, .int .i64 eL, .slice pb pn pc] 31 (0, 0)) → V.cell? ⟨gl + 1, wn, none⟩ = some (sv es) ∧ V.cell? ⟨q, 0, none⟩ = some (.int .i64 ey) ∧ V.cell? ⟨q, 2, none⟩ = some (.int .i64 et)) := fun V hV => ⟨(hV.1.shcw es HW.out.1).1, cell_blk hV.2 0, cell_blk hV.2 2⟩
        go_upto_region 21 with fail
        go_cut [80] from 38 to 193 (fun b wx => b = .bool false ∧ (Rm w wx gl (gl + 1) sv (.slice wb wl wk) pl g j ∧ wx.heap[q]? = some (.cells #[.int .i64 ey, .int .i64 el, .int .i64 et, .string ed, .int .i64 ep, .int .i64 ee, .bool eX, .int .i64 ew, .int .i64 ec, .int .i64 eL, .slice pb pn pc] 31 (0, 0))))
        case first =>
          as_aux_lemma =>
            have HA1 := HA.out
            cases hct : (g.sh es).contains et
            · clear HA1
              have hIW : Rm w wc.drew gl (gl + 1) sv (.slice wb wl wk) pl g j ∧ wc.drew.heap[q]? = some (.cells #[.int .i64 ey, .int .i64 el, .int .i64 et, .string ed, .int .i64 ep, .int .i64 ee, .bool eX, .int .i64 ew, .int .i64 ec, .int .i64 eL, .slice pb pn pc] 31 (0, 0)) := ⟨HJ.out.1.dr, HJ.out.2⟩
              refine wp_region_held_drew (S := (fun V => V.cell? ⟨gl + 1, wn, none⟩ = some (sv es) ∧ V.cell? ⟨q, 0, none⟩ = some (.int .i64 ey) ∧ V.cell? ⟨q, 2, none⟩ = some (.int .i64 et))) (by kernel_rfl) (hS21.out _ hIW) (fun hHeld => ?_)
              generalize hWg : World.drew _ = W2 at hIW hHeld ⊢
              clear hWg
              refine tkA (i := 0) (oi := ⟨some 60, .move (.tmp 14), 3, "outright.go:114", #[], none⟩) ?_
              try simp only [Act.put, lA, l0, lS]
              refine tkA (i := 1) (oi := ⟨some 61, .indexAddr 37 (.tmp 8) (.tmp 60), 0, "outright.go:114", #[⟨0, .data⟩], none⟩) ?_
              try simp only [Act.put, lA, l0, lS]
              refine tkA (i := 2) (oi := ⟨some 62, .load 36 (.tmp 61), 36, "outright.go:114", #[⟨1, .data⟩], none⟩) ?_
              try simp only [Act.put, lA, l0, lS]
              refine tkA (i := 3) (oi := ⟨some 63, .fieldAddr 31 (.tmp 13) 2, 0, "outright.go:114", #[], none⟩) ?_
              try simp only [Act.put, lA, l0, lS]
              refine tkA (i := 4) (oi := ⟨some 64, .load 2 (.tmp 63), 2, "outright.go:114", #[⟨3, .data⟩], none⟩) ?_
              try simp only [Act.put, lA, l0, lS]
              refine wpAnyH_ready (rs := [5]) (by kernel_rfl) (by simp) ?_
              refine AllReadyH.cons (o := ⟨some 65, .call { callee := Callee.value (.func 13), args := #[.tmp 62, .tmp 64], argTypes := #[36, 2] }, 4, "outright.go:114", #[⟨2, .data⟩, ⟨4, .data⟩], none⟩) rfl (fun K hK => ?_) AllReadyH.nil
              go_simp
              refine (HIN.out _ hIW.1).mono ?_
              rintro e' W2x ⟨rfl, rfl⟩
              try rw [hct]
              go_wp2_with fail
              refine hK.out _ _ (hS21.out _ hIW) (fun hHeld => ?_)
              clear hK K
              try simp only [Act.put, lA, l0, lS]
              refine tkA (i := 6) (oi := ⟨some 66, .move (.tmp 65), 4, "outright.go:114", #[⟨5, .data⟩, ⟨5, .chain⟩], none⟩) ?_
              try simp only [Act.put, lA, l0, lS]
              refine wpAnyH_take (i := 7) (oi := ⟨some 67, .fieldAddr 31 (.tmp 13) 2, 0, "outright.go:114", #[⟨6, .guard⟩], some (6, true)⟩) (v := undef) rfl (by kernel_rfl) (by kernel_rfl) (by kernel_rfl) (fun _ _ _ h => h) (Or.inr ⟨by rfl, rfl⟩) (by assumption) ?_
              try simp only [Act.put, lA, l0, lS]
              refine wpAnyH_take (i := 8) (oi := ⟨some 68, .load 2 (.tmp 67), 2, "outright.go:114", #[⟨7, .data⟩, ⟨6, .guard⟩], some (6, true)⟩) (v := undef) rfl (by kernel_rfl) (by kernel_rfl) (by kernel_rfl) (fun _ _ _ h => h) (Or.inr ⟨by rfl, rfl⟩) (by assumption) ?_
              try simp only [Act.put, lA, l0, lS]
              refine wpAnyH_take (i := 9) (oi := ⟨some 69, .binOp .neq 2 (.tmp 68) (.const (.int IntKind.i64 0)) 2, 4, "outright.go:114", #[⟨8, .data⟩, ⟨6, .guard⟩], some (6, true)⟩) (v := undef) rfl (by kernel_rfl) (by kernel_rfl) (by kernel_rfl) (fun _ _ _ h => h) (Or.inr ⟨by rfl, rfl⟩) (by assumption) ?_
              try simp only [Act.put, lA, l0, lS]
              refine tkA (i := 10) (oi := ⟨some 70, .pick (.tmp 66) (.tmp 69) (.const (.bool false)), 4, "outright.go:114", #[⟨6, .data⟩, ⟨9, .data⟩], none⟩) ?_
              try simp only [Act.put, lA, l0, lS]
              refine tkA (i := 11) (oi := ⟨some 71, .move (.tmp 70), 4, "outright.go:114", #[⟨10, .data⟩, ⟨6, .chain⟩], none⟩) ?_
              try simp only [Act.put, lA, l0, lS]
              refine wpAnyH_take (i := 12) (oi := ⟨some 72, .fieldAddr 31 (.tmp 13) 0, 0, "outright.go:114", #[⟨11, .guard⟩], some (11, true)⟩) (v := undef) rfl (by kernel_rfl) (by kernel_rfl) (by kernel_rfl) (fun _ _ _ h => h) (Or.inr ⟨by rfl, rfl⟩) (by assumption) ?_
              try simp only [Act.put, lA, l0, lS]
              refine wpAnyH_take (i := 13) (oi := ⟨some 73, .load 3 (.tmp 72), 3, "outright.go:114", #[⟨12, .data⟩, ⟨11, .guard⟩], some (11, true)⟩) (v := undef) rfl (by kernel_rfl) (by kernel_rfl) (by kernel_rfl) (fun _ _ _ h => h) (Or.inr ⟨by rfl, rfl⟩) (by assumption) ?_
              try simp only [Act.put, lA, l0, lS]
              refine wpAnyH_take (i := 14) (oi := ⟨some 74, .binOp .leq 3 (.tmp 73) (.const (.int IntKind.i64 9)) 3, 4, "outright.go:114", #[⟨13, .data⟩, ⟨11, .guard⟩], some (11, true)⟩) (v := undef) rfl (by kernel_rfl) (by kernel_rfl) (by kernel_rfl) (fun _ _ _ h => h) (Or.inr ⟨by rfl, rfl⟩) (by assumption) ?_
              try simp only [Act.put, lA, l0, lS]
              refine tkA (i := 15) (oi := ⟨some 75, .pick (.tmp 71) (.tmp 74) (.const (.bool false)), 4, "outright.go:114", #[⟨11, .data⟩, ⟨14, .data⟩], none⟩) ?_
              try simp only [Act.put, lA, l0, lS]
              refine tkA (i := 16) (oi := ⟨some 76, .move (.tmp 75), 4, "outright.go:114", #[⟨15, .data⟩, ⟨11, .chain⟩], none⟩) ?_
              try simp only [Act.put, lA, l0, lS]
              refine wpAnyH_take (i := 17) (oi := ⟨some 77, .fieldAddr 31 (.tmp 13) 0, 0, "outright.go:114", #[⟨16, .guard⟩], some (16, true)⟩) (v := undef) rfl (by kernel_rfl) (by kernel_rfl) (by kernel_rfl) (fun _ _ _ h => h) (Or.inr ⟨by rfl, rfl⟩) (by assumption) ?_
              try simp only [Act.put, lA, l0, lS]
              refine wpAnyH_take (i := 18) (oi := ⟨some 78, .load 3 (.tmp 77), 3, "outright.go:114", #[⟨17, .data⟩, ⟨16, .guard⟩], some (16, true)⟩) (v := undef) rfl (by kernel_rfl) (by kernel_rfl) (by kernel_rfl) (fun _ _ _ h => h) (Or.inr ⟨by rfl, rfl⟩) (by assumption) ?_
              try simp only [Act.put, lA, l0, lS]
              refine wpAnyH_take (i := 19) (oi := ⟨some 79, .binOp .neq 3 (.tmp 78) (.const (.int IntKind.i64 2)) 3, 4, "outright.go:114", #[⟨18, .data⟩, ⟨16, .guard⟩], some (16, true)⟩) (v := undef) rfl (by kernel_rfl) (by kernel_rfl) (by kernel_rfl) (fun _ _ _ h => h) (Or.inr ⟨by rfl, rfl⟩) (by assumption) ?_
              try simp only [Act.put, lA, l0, lS]
              refine tkA (i := 20) (oi := ⟨some 80, .pick (.tmp 76) (.tmp 79) (.const (.bool false)), 4, "outright.go:114", #[⟨16, .data⟩, ⟨19, .data⟩], none⟩) ?_
              try simp only [Act.put, lA, l0, lS]
              refine wpAnyH_done (by kernel_rfl) ?_ _
              have HE := hid hIW
              clear hHeld hIW
              go_wp2_with fail
              go_meet
              case rel => exact ⟨rfl, HE.out⟩
            · rw [hct] at HA1
              by_cases hz : et = 0
              · have hzb : (et != 0) = false := by simp [hz]
                clear HA1 hz
                have hIW : Rm w wc.drew gl (gl + 1) sv (.slice wb wl wk) pl g j ∧ wc.drew.heap[q]? = some (.cells #[.int .i64 ey, .int .i64 el, .int .i64 et, .string ed, .int .i64 ep, .int .i64 ee, .bool eX, .int .i64 ew, .int .i64 ec, .int .i64 eL, .slice pb pn pc] 31 (0, 0)) := ⟨HJ.out.1.dr, HJ.out.2⟩
                refine wp_region_held_drew (S := (fun V => V.cell? ⟨gl + 1, wn, none⟩ = some (sv es) ∧ V.cell? ⟨q, 0, none⟩ = some (.int .i64 ey) ∧ V.cell? ⟨q, 2, none⟩ = some (.int .i64 et))) (by kernel_rfl) (hS21.out _ hIW) (fun hHeld => ?_)
                generalize hWg : World.drew _ = W2 at hIW hHeld ⊢
                clear hWg
                refine tkA (i := 0) (oi := ⟨some 60, .move (.tmp 14), 3, "outright.go:114", #[], none⟩) ?_
                try simp only [Act.put, lA, l0, lS]
                refine tkA (i := 1) (oi := ⟨some 61, .indexAddr 37 (.tmp 8) (.tmp 60), 0, "outright.go:114", #[⟨0, .data⟩], none⟩) ?_
                try simp only [Act.put, lA, l0, lS]
                refine tkA (i := 2) (oi := ⟨some 62, .load 36 (.tmp 61), 36, "outright.go:114", #[⟨1, .data⟩], none⟩) ?_
                try simp only [Act.put, lA, l0, lS]
                refine tkA (i := 3) (oi := ⟨some 63, .fieldAddr 31 (.tmp 13) 2, 0, "outright.go:114", #[], none⟩) ?_
                try simp only [Act.put, lA, l0, lS]
                refine tkA (i := 4) (oi := ⟨some 64, .load 2 (.tmp 63), 2, "outright.go:114", #[⟨3, .data⟩], none⟩) ?_
                try simp only [Act.put, lA, l0, lS]
                refine wpAnyH_ready (rs := [5]) (by kernel_rfl) (by simp) ?_
                refine AllReadyH.cons (o := ⟨some 65, .call { callee := Callee.value (.func 13), args := #[.tmp 62, .tmp 64], argTypes := #[36, 2] }, 4, "outright.go:114", #[⟨2, .data⟩, ⟨4, .data⟩], none⟩) rfl (fun K hK => ?_) AllReadyH.nil
                go_simp
                refine (HIN.out _ hIW.1).mono ?_
                rintro e' W2x ⟨rfl, rfl⟩
                try rw [hct]
                go_wp2_with fail
                refine hK.out _ _ (hS21.out _ hIW) (fun hHeld => ?_)
                clear hK K
                try simp only [Act.put, lA, l0, lS]
                refine tkA (i := 6) (oi := ⟨some 66, .move (.tmp 65), 4, "outright.go:114", #[⟨5, .data⟩, ⟨5, .chain⟩], none⟩) ?_
                try simp only [Act.put, lA, l0, lS]
                refine tkA (i := 7) (oi := ⟨some 67, .fieldAddr 31 (.tmp 13) 2, 0, "outright.go:114", #[⟨6, .guard⟩], some (6, true)⟩) ?_
                try simp only [Act.put, lA, l0, lS]
                refine tkA (i := 8) (oi := ⟨some 68, .load 2 (.tmp 67), 2, "outright.go:114", #[⟨7, .data⟩, ⟨6, .guard⟩], some (6, true)⟩) ?_
                try simp only [Act.put, lA, l0, lS]
                refine tkA (i := 9) (oi := ⟨some 69, .binOp .neq 2 (.tmp 68) (.const (.int IntKind.i64 0)) 2, 4, "outright.go:114", #[⟨8, .data⟩, ⟨6, .guard⟩], some (6, true)⟩) ?_
                try simp only [Act.put, lA, l0, lS]
                refine tkA (i := 10) (oi := ⟨some 70, .pick (.tmp 66) (.tmp 69) (.const (.bool false)), 4, "outright.go:114", #[⟨6, .data⟩, ⟨9, .data⟩], none⟩) ?_
                try simp only [Act.put, lA, l0, lS]
                refine tkA (i := 11) (oi := ⟨some 71, .move (.tmp 70), 4, "outright.go:114", #[⟨10, .data⟩, ⟨6, .chain⟩], none⟩) ?_
                try simp only [Act.put, lA, l0, lS]
                refine wpAnyH_take (i := 12) (oi := ⟨some 72, .fieldAddr 31 (.tmp 13) 0, 0, "outright.go:114", #[⟨11, .guard⟩], some (11, true)⟩) (v := undef) rfl (by kernel_rfl) (by kernel_rfl) (by kernel_rfl) (fun _ _ _ h => h) (Or.inr ⟨by rfl, rfl⟩) (by assumption) ?_
                try simp only [Act.put, lA, l0, lS]
                refine wpAnyH_take (i := 13) (oi := ⟨some 73, .load 3 (.tmp 72), 3, "outright.go:114", #[⟨12, .data⟩, ⟨11, .guard⟩], some (11, true)⟩) (v := undef) rfl (by kernel_rfl) (by kernel_rfl) (by kernel_rfl) (fun _ _ _ h => h) (Or.inr ⟨by rfl, rfl⟩) (by assumption) ?_
                try simp only [Act.put, lA, l0, lS]
                refine wpAnyH_take (i := 14) (oi := ⟨some 74, .binOp .leq 3 (.tmp 73) (.const (.int IntKind.i64 9)) 3, 4, "outright.go:114", #[⟨13, .data⟩, ⟨11, .guard⟩], some (11, true)⟩) (v := undef) rfl (by kernel_rfl) (by kernel_rfl) (by kernel_rfl) (fun _ _ _ h => h) (Or.inr ⟨by rfl, rfl⟩) (by assumption) ?_
                try simp only [Act.put, lA, l0, lS]
                refine tkA (i := 15) (oi := ⟨some 75, .pick (.tmp 71) (.tmp 74) (.const (.bool false)), 4, "outright.go:114", #[⟨11, .data⟩, ⟨14, .data⟩], none⟩) ?_
                try simp only [Act.put, lA, l0, lS]
                refine tkA (i := 16) (oi := ⟨some 76, .move (.tmp 75), 4, "outright.go:114", #[⟨15, .data⟩, ⟨11, .chain⟩], none⟩) ?_
                try simp only [Act.put, lA, l0, lS]
                refine wpAnyH_take (i := 17) (oi := ⟨some 77, .fieldAddr 31 (.tmp 13) 0, 0, "outright.go:114", #[⟨16, .guard⟩], some (16, true)⟩) (v := undef) rfl (by kernel_rfl) (by kernel_rfl) (by kernel_rfl) (fun _ _ _ h => h) (Or.inr ⟨by rfl, rfl⟩) (by assumption) ?_
                try simp only [Act.put, lA, l0, lS]
                refine wpAnyH_take (i := 18) (oi := ⟨some 78, .load 3 (.tmp 77), 3, "outright.go:114", #[⟨17, .data⟩, ⟨16, .guard⟩], some (16, true)⟩) (v := undef) rfl (by kernel_rfl) (by kernel_rfl) (by kernel_rfl) (fun _ _ _ h => h) (Or.inr ⟨by rfl, rfl⟩) (by assumption) ?_
                try simp only [Act.put, lA, l0, lS]
                refine wpAnyH_take (i := 19) (oi := ⟨some 79, .binOp .neq 3 (.tmp 78) (.const (.int IntKind.i64 2)) 3, 4, "outright.go:114", #[⟨18, .data⟩, ⟨16, .guard⟩], some (16, true)⟩) (v := undef) rfl (by kernel_rfl) (by kernel_rfl) (by kernel_rfl) (fun _ _ _ h => h) (Or.inr ⟨by rfl, rfl⟩) (by assumption) ?_
                try simp only [Act.put, lA, l0, lS]
                refine tkA (i := 20) (oi := ⟨some 80, .pick (.tmp 76) (.tmp 79) (.const (.bool false)), 4, "outright.go:114", #[⟨16, .data⟩, ⟨19, .data⟩], none⟩) ?_
                try simp only [Act.put, lA, l0, lS]
                refine wpAnyH_done (by kernel_rfl) ?_ _
                have HE := hid hIW
                clear hHeld hIW
                go_wp2_with fail
                go_meet
                case rel => exact ⟨rfl, HE.out⟩
              · have hzb : (et != 0) = true := by simp [hz]
                by_cases h9 : ey ≤ 9
                · have h2 : (ey != 2) = false := by simpa [hz, h9] using HA1
                  have h9d : decide (ey ≤ 9) = true := decide_eq_true h9
                  clear HA1 hz
                  have hIW : Rm w wc.drew gl (gl + 1) sv (.slice wb wl wk) pl g j ∧ wc.drew.heap[q]? = some (.cells #[.int .i64 ey, .int .i64 el, .int .i64 et, .string ed, .int .i64 ep, .int .i64 ee, .bool eX, .int .i64 ew, .int .i64 ec, .int .i64 eL, .slice pb pn pc] 31 (0, 0)) := ⟨HJ.out.1.dr, HJ.out.2⟩
                  refine wp_region_held_drew (S := (fun V => V.cell? ⟨gl + 1, wn, none⟩ = some (sv es) ∧ V.cell? ⟨q, 0, none⟩ = some (.int .i64 ey) ∧ V.cell? ⟨q, 2, none⟩ = some (.int .i64 et))) (by kernel_rfl) (hS21.out _ hIW) (fun hHeld => ?_)
                  generalize hWg : World.drew _ = W2 at hIW hHeld ⊢
                  clear hWg
                  refine tkA (i := 0) (oi := ⟨some 60, .move (.tmp 14), 3, "outright.go:114", #[], none⟩) ?_
                  try simp only [Act.put, lA, l0, lS]
                  refine tkA (i := 1) (oi := ⟨some 61, .indexAddr 37 (.tmp 8) (.tmp 60), 0, "outright.go:114", #[⟨0, .data⟩], none⟩) ?_
                  try simp only [Act.put, lA, l0, lS]
                  refine tkA (i := 2) (oi := ⟨some 62, .load 36 (.tmp 61), 36, "outright.go:114", #[⟨1, .data⟩], none⟩) ?_
                  try simp only [Act.put, lA, l0, lS]
                  refine tkA (i := 3) (oi := ⟨some 63, .fieldAddr 31 (.tmp 13) 2, 0, "outright.go:114", #[], none⟩) ?_
                  try simp only [Act.put, lA, l0, lS]
                  refine tkA (i := 4) (oi := ⟨some 64, .load 2 (.tmp 63), 2, "outright.go:114", #[⟨3, .data⟩], none⟩) ?_
                  try simp only [Act.put, lA, l0, lS]
                  refine wpAnyH_ready (rs := [5]) (by kernel_rfl) (by simp) ?_
                  refine AllReadyH.cons (o := ⟨some 65, .call { callee := Callee.value (.func 13), args := #[.tmp 62, .tmp 64], argTypes := #[36, 2] }, 4, "outright.go:114", #[⟨2, .data⟩, ⟨4, .data⟩], none⟩) rfl (fun K hK => ?_) AllReadyH.nil
                  go_simp
                  refine (HIN.out _ hIW.1).mono ?_
                  rintro e' W2x ⟨rfl, rfl⟩
                  try rw [hct]
                  go_wp2_with fail
                  refine hK.out _ _ (hS21.out _ hIW) (fun hHeld => ?_)
                  clear hK K
                  try simp only [Act.put, lA, l0, lS]
                  refine tkA (i := 6) (oi := ⟨some 66, .move (.tmp 65), 4, "outright.go:114", #[⟨5, .data⟩, ⟨5, .chain⟩], none⟩) ?_
                  try simp only [Act.put, lA, l0, lS]
                  refine tkA (i := 7) (oi := ⟨some 67, .fieldAddr 31 (.tmp 13) 2, 0, "outright.go:114", #[⟨6, .guard⟩], some (6, true)⟩) ?_
                  try simp only [Act.put, lA, l0, lS]
                  refine tkA (i := 8) (oi := ⟨some 68, .load 2 (.tmp 67), 2, "outright.go:114", #[⟨7, .data⟩, ⟨6, .guard⟩], some (6, true)⟩) ?_
                  try simp only [Act.put, lA, l0, lS]
                  refine tkA (i := 9) (oi := ⟨some 69, .binOp .neq 2 (.tmp 68) (.const (.int IntKind.i64 0)) 2, 4, "outright.go:114", #[⟨8, .data⟩, ⟨6, .guard⟩], some (6, true)⟩) ?_
                  try simp only [Act.put, lA, l0, lS]
                  refine tkA (i := 10) (oi := ⟨some 70, .pick (.tmp 66) (.tmp 69) (.const (.bool false)), 4, "outright.go:114", #[⟨6, .data⟩, ⟨9, .data⟩], none⟩) ?_
                  try simp only [Act.put, lA, l0, lS]
                  refine tkA (i := 11) (oi := ⟨some 71, .move (.tmp 70), 4, "outright.go:114", #[⟨10, .data⟩, ⟨6, .chain⟩], none⟩) ?_
                  try simp only [Act.put, lA, l0, lS]
                  refine tkA (i := 12) (oi := ⟨some 72, .fieldAddr 31 (.tmp 13) 0, 0, "outright.go:114", #[⟨11, .guard⟩], some (11, true)⟩) ?_
                  try simp only [Act.put, lA, l0, lS]
                  refine tkA (i := 13) (oi := ⟨some 73, .load 3 (.tmp 72), 3, "outright.go:114", #[⟨12, .data⟩, ⟨11, .guard⟩], some (11, true)⟩) ?_
                  try simp only [Act.put, lA, l0, lS]
                  refine tkA (i := 14) (oi := ⟨some 74, .binOp .leq 3 (.tmp 73) (.const (.int IntKind.i64 9)) 3, 4, "outright.go:114", #[⟨13, .data⟩, ⟨11, .guard⟩], some (11, true)⟩) ?_
                  try simp only [Act.put, lA, l0, lS]
                  refine tkA (i := 15) (oi := ⟨some 75, .pick (.tmp 71) (.tmp 74) (.const (.bool false)), 4, "outright.go:114", #[⟨11, .data⟩, ⟨14, .data⟩], none⟩) ?_
                  try simp only [Act.put, lA, l0, lS]
                  refine tkA (i := 16) (oi := ⟨some 76, .move (.tmp 75), 4, "outright.go:114", #[⟨15, .data⟩, ⟨11, .chain⟩], none⟩) ?_
                  try simp only [Act.put, lA, l0, lS]
                  refine tkA (i := 17) (oi := ⟨some 77, .fieldAddr 31 (.tmp 13) 0, 0, "outright.go:114", #[⟨16, .guard⟩], some (16, true)⟩) ?_
                  try simp only [Act.put, lA, l0, lS]
                  refine tkA (i := 18) (oi := ⟨some 78, .load 3 (.tmp 77), 3, "outright.go:114", #[⟨17, .data⟩, ⟨16, .guard⟩], some (16, true)⟩) ?_
                  try simp only [Act.put, lA, l0, lS]
                  refine tkA (i := 19) (oi := ⟨some 79, .binOp .neq 3 (.tmp 78) (.const (.int IntKind.i64 2)) 3, 4, "outright.go:114", #[⟨18, .data⟩, ⟨16, .guard⟩], some (16, true)⟩) ?_
                  try simp only [Act.put, lA, l0, lS]
                  refine tkA (i := 20) (oi := ⟨some 80, .pick (.tmp 76) (.tmp 79) (.const (.bool false)), 4, "outright.go:114", #[⟨16, .data⟩, ⟨19, .data⟩], none⟩) ?_
                  try simp only [Act.put, lA, l0, lS]
                  refine wpAnyH_done (by kernel_rfl) ?_ _
                  have HE := hid hIW
                  clear hHeld hIW
                  go_wp2_with fail
                  go_meet
                  case rel => exact ⟨rfl, HE.out⟩
                · have h9d : decide (ey ≤ 9) = false := decide_eq_false h9
                  clear HA1 hz
                  have hIW : Rm w wc.drew gl (gl + 1) sv (.slice wb wl wk) pl g j ∧ wc.drew.heap[q]? = some (.cells #[.int .i64 ey, .int .i64 el, .int .i64 et, .string ed, .int .i64 ep, .int .i64 ee, .bool eX, .int .i64 ew, .int .i64 ec, .int .i64 eL, .slice pb pn pc] 31 (0, 0)) := ⟨HJ.out.1.dr, HJ.out.2⟩
                  refine wp_region_held_drew (S := (fun V => V.cell? ⟨gl + 1, wn, none⟩ = some (sv es) ∧ V.cell? ⟨q, 0, none⟩ = some (.int .i64 ey) ∧ V.cell? ⟨q, 2, none⟩ = some (.int .i64 et))) (by kernel_rfl) (hS21.out _ hIW) (fun hHeld => ?_)
                  generalize hWg : World.drew _ = W2 at hIW hHeld ⊢
                  clear hWg
                  refine tkA (i := 0) (oi := ⟨some 60, .move (.tmp 14), 3, "outright.go:114", #[], none⟩) ?_
                  try simp only [Act.put, lA, l0, lS]
                  refine tkA (i := 1) (oi := ⟨some 61, .indexAddr 37 (.tmp 8) (.tmp 60), 0, "outright.go:114", #[⟨0, .data⟩], none⟩) ?_
                  try simp only [Act.put, lA, l0, lS]
                  refine tkA (i := 2) (oi := ⟨some 62, .load 36 (.tmp 61), 36, "outright.go:114", #[⟨1, .data⟩], none⟩) ?_
                  try simp only [Act.put, lA, l0, lS]
                  refine tkA (i := 3) (oi := ⟨some 63, .fieldAddr 31 (.tmp 13) 2, 0, "outright.go:114", #[], none⟩) ?_
                  try simp only [Act.put, lA, l0, lS]
                  refine tkA (i := 4) (oi := ⟨some 64, .load 2 (.tmp 63), 2, "outright.go:114", #[⟨3, .data⟩], none⟩) ?_
                  try simp only [Act.put, lA, l0, lS]
                  refine wpAnyH_ready (rs := [5]) (by kernel_rfl) (by simp) ?_
                  refine AllReadyH.cons (o := ⟨some 65, .call { callee := Callee.value (.func 13), args := #[.tmp 62, .tmp 64], argTypes := #[36, 2] }, 4, "outright.go:114", #[⟨2, .data⟩, ⟨4, .data⟩], none⟩) rfl (fun K hK => ?_) AllReadyH.nil
                  go_simp
                  refine (HIN.out _ hIW.1).mono ?_
                  rintro e' W2x ⟨rfl, rfl⟩
                  try rw [hct]
                  go_wp2_with fail
                  refine hK.out _ _ (hS21.out _ hIW) (fun hHeld => ?_)
                  clear hK K
                  try simp only [Act.put, lA, l0, lS]
                  refine tkA (i := 6) (oi := ⟨some 66, .move (.tmp 65), 4, "outright.go:114", #[⟨5, .data⟩, ⟨5, .chain⟩], none⟩) ?_
                  try simp only [Act.put, lA, l0, lS]
                  refine tkA (i := 7) (oi := ⟨some 67, .fieldAddr 31 (.tmp 13) 2, 0, "outright.go:114", #[⟨6, .guard⟩], some (6, true)⟩) ?_
                  try simp only [Act.put, lA, l0, lS]
                  refine tkA (i := 8) (oi := ⟨some 68, .load 2 (.tmp 67), 2, "outright.go:114", #[⟨7, .data⟩, ⟨6, .guard⟩], some (6, true)⟩) ?_
                  try simp only [Act.put, lA, l0, lS]
                  refine tkA (i := 9) (oi := ⟨some 69, .binOp .neq 2 (.tmp 68) (.const (.int IntKind.i64 0)) 2, 4, "outright.go:114", #[⟨8, .data⟩, ⟨6, .guard⟩], some (6, true)⟩) ?_
                  try simp only [Act.put, lA, l0, lS]
                  refine tkA (i := 10) (oi := ⟨some 70, .pick (.tmp 66) (.tmp 69) (.const (.bool false)), 4, "outright.go:114", #[⟨6, .data⟩, ⟨9, .data⟩], none⟩) ?_
                  try simp only [Act.put, lA, l0, lS]
                  refine tkA (i := 11) (oi := ⟨some 71, .move (.tmp 70), 4, "outright.go:114", #[⟨10, .data⟩, ⟨6, .chain⟩], none⟩) ?_
                  try simp only [Act.put, lA, l0, lS]
                  refine tkA (i := 12) (oi := ⟨some 72, .fieldAddr 31 (.tmp 13) 0, 0, "outright.go:114", #[⟨11, .guard⟩], some (11, true)⟩) ?_
                  try simp only [Act.put, lA, l0, lS]
                  refine tkA (i := 13) (oi := ⟨some 73, .load 3 (.tmp 72), 3, "outright.go:114", #[⟨12, .data⟩, ⟨11, .guard⟩], some (11, true)⟩) ?_
                  try simp only [Act.put, lA, l0, lS]
                  refine tkA (i := 14) (oi := ⟨some 74, .binOp .leq 3 (.tmp 73) (.const (.int IntKind.i64 9)) 3, 4, "outright.go:114", #[⟨13, .data⟩, ⟨11, .guard⟩], some (11, true)⟩) ?_
                  try simp only [Act.put, lA, l0, lS]
                  refine tkA (i := 15) (oi := ⟨some 75, .pick (.tmp 71) (.tmp 74) (.const (.bool false)), 4, "outright.go:114", #[⟨11, .data⟩, ⟨14, .data⟩], none⟩) ?_
                  try simp only [Act.put, lA, l0, lS]
                  refine tkA (i := 16) (oi := ⟨some 76, .move (.tmp 75), 4, "outright.go:114", #[⟨15, .data⟩, ⟨11, .chain⟩], none⟩) ?_
                  try simp only [Act.put, lA, l0, lS]
                  refine wpAnyH_take (i := 17) (oi := ⟨some 77, .fieldAddr 31 (.tmp 13) 0, 0, "outright.go:114", #[⟨16, .guard⟩], some (16, true)⟩) (v := undef) rfl (by kernel_rfl) (by kernel_rfl) (by kernel_rfl) (fun _ _ _ h => h) (Or.inr ⟨by rfl, rfl⟩) (by assumption) ?_
                  try simp only [Act.put, lA, l0, lS]
                  refine wpAnyH_take (i := 18) (oi := ⟨some 78, .load 3 (.tmp 77), 3, "outright.go:114", #[⟨17, .data⟩, ⟨16, .guard⟩], some (16, true)⟩) (v := undef) rfl (by kernel_rfl) (by kernel_rfl) (by kernel_rfl) (fun _ _ _ h => h) (Or.inr ⟨by rfl, rfl⟩) (by assumption) ?_
                  try simp only [Act.put, lA, l0, lS]
                  refine wpAnyH_take (i := 19) (oi := ⟨some 79, .binOp .neq 3 (.tmp 78) (.const (.int IntKind.i64 2)) 3, 4, "outright.go:114", #[⟨18, .data⟩, ⟨16, .guard⟩], some (16, true)⟩) (v := undef) rfl (by kernel_rfl) (by kernel_rfl) (by kernel_rfl) (fun _ _ _ h => h) (Or.inr ⟨by rfl, rfl⟩) (by assumption) ?_
                  try simp only [Act.put, lA, l0, lS]
                  refine tkA (i := 20) (oi := ⟨some 80, .pick (.tmp 76) (.tmp 79) (.const (.bool false)), 4, "outright.go:114", #[⟨16, .data⟩, ⟨19, .data⟩], none⟩) ?_
                  try simp only [Act.put, lA, l0, lS]
                  refine wpAnyH_done (by kernel_rfl) ?_ _
                  have HE := hid hIW
                  clear hHeld hIW
                  go_wp2_with fail
                  go_meet
                  case rel => exact ⟨rfl, HE.out⟩
        case rest =>
          obtain ⟨rfl, hcu⟩ := hcut
          have HJ2 : Hid (Rm w wc gl (gl + 1) sv (.slice wb wl wk) pl g j ∧ wc.heap[q]? = some (.cells #[.int .i64 ey, .int .i64 el, .int .i64 et, .string ed, .int .i64 ep, .int .i64 ee, .bool eX, .int .i64 ew, .int .i64 ec, .int .i64 eL, .slice pb pn pc] 31 (0, 0))) := hcu
          clear hcu hS21 HIN HA HJ
          have k0 := cell_blk HJ2.out.2 0
          have k1 := cell_blk HJ2.out.2 1
          have k2 := cell_blk HJ2.out.2 2
          have k9 := cell_blk HJ2.out.2 9
          have k10 := cell_blk HJ2.out.2 10
          simp only [List.getElem?_toArray, List.getElem?_cons_succ, List.getElem?_cons_zero] at k0 k1 k2 k9 k10
          by_cases t0 : ey = 0
          · as_aux_lemma =>
              have b0 : (ey == 0) = true := by simp [t0]
              obtain ⟨s1, s2⟩ := Rg.step_0 HST.out t0
              subst s2
              simp only at s1
              obtain ⟨GL, hGL⟩ : ∃ z, g.left es = z := ⟨_, rfl⟩
              obtain ⟨SZ, hSZ⟩ : ∃ z, (⟨es, ⟨ey, el, et, ed, ep, ee, eX, ew, ec, eL⟩, eps, en⟩ : Et).size = z := ⟨_, rfl⟩
              rw [hGL, hSZ] at s1
              have hnn := size_nn (HPD.out t0)
              rw [hSZ] at hnn
              have hgl := HLF.out es
              rw [hGL] at hgl
              obtain ⟨LX, hLX⟩ : ∃ z, GL - SZ = z := ⟨_, rfl⟩
              have hwr : IntKind.i64.wrap (GL - SZ) = LX := by rw [hLX]; exact wraps_i64_63 _ (by omega) (by omega)
              have hnl : ¬ LX < 0 := by omega
              have hnld : decide (LX < 0) = false := decide_eq_false hnl
              have HGL := hid hGL
              have HSZ : Hid (∀ V, Calls Tryz.prog 14 #[.agg #[.int .i64 ey, .int .i64 el, .int .i64 et, .string ed, .int .i64 ep, .int .i64 ee, .bool eX, .int .i64 ew, .int .i64 ec, .int .i64 eL, .slice pb pn pc]] V fun r w' => r = .returned (.int .i64 SZ) ∧ Below V.heap.size V w') := fun V => by
                have := size_any ⟨es, ⟨ey, el, et, ed, ep, ee, eX, ew, ec, eL⟩, eps, en⟩ (.slice pb pn pc) V HEO.out.1 (HPD.out t0)
                rw [hSZ] at this
                exact this
              have HEND : Hid (∀ V, Rm w V gl (gl + 1) sv (.slice wb wl wk) pl { g with left := fun t => if t = es then LX else g.left t } j → RJ w V gl (gl + 1) c L (j + 1) wb wl wk p la) := fun V hV => by
                have h := HFIN.out V wb wl wk sv pl (by simp only [hGL, hSZ, hLX]; exact hV.more (by omega)) HG.out.2.2
                simp only [HG.out.1, HG.out.2.1] at h
                exact h
              have hS25 : Hid (∀ V : World, V.heap[q]? = some (.cells #[.int .i64 ey, .int .i64 el, .int .i64 et, .string ed, .int .i64 ep, .int .i64 ee, .bool eX, .int .i64 ew, .int .i64 ec, .int .i64 eL, .slice pb pn pc] 31 (0, 0)) → V.cell? ⟨q, 0, none⟩ = some (.int .i64 ey) ∧ V.cell? ⟨q, 1, none⟩ = some (.int .i64 el) ∧ V.cell? ⟨q, 2, none⟩ = some (.int .i64 et) ∧ V.cell? ⟨q, 3, none⟩ = some (.string ed) ∧ V.cell? ⟨q, 4, none⟩ = some (.int .i64 ep) ∧ V.cell? ⟨q, 5, none⟩ = some (.int .i64 ee) ∧ V.cell? ⟨q, 6, none⟩ = some (.bool eX) ∧ V.cell? ⟨q, 7, none⟩ = some (.int .i64 ew) ∧ V.cell? ⟨q, 8, none⟩ = some (.int .i64 ec) ∧ V.cell? ⟨q, 9, none⟩ = some (.int .i64 eL) ∧ V.cell? ⟨q, 10, none⟩ = some (.slice pb pn pc)) := fun V h1 => ⟨cell_blk h1 0, cell_blk h1 1, cell_blk h1 2, cell_blk h1 3, cell_blk h1 4, cell_blk h1 5, cell_blk h1 6, cell_blk h1 7, cell_blk h1 8, cell_blk h1 9, cell_blk h1 10⟩
              clear s1 hSZ hnn hgl hLX hGL HPD HFIN HST
              clear t0
              go_upto_region 25 with fail
              have hIW : Rm w wc.drew gl (gl + 1) sv (.slice wb wl wk) pl g j ∧ wc.drew.heap[q]? = some (.cells #[.int .i64 ey, .int .i64 el, .int .i64 et, .string ed, .int .i64 ep, .int .i64 ee, .bool eX, .int .i64 ew, .int .i64 ec, .int .i64 eL, .slice pb pn pc] 31 (0, 0)) := ⟨HJ2.out.1.dr, HJ2.out.2⟩
              clear k0 k1 k2 k9 k10
              refine wp_region_held_drew (S := (fun V => V.cell? ⟨q, 0, none⟩ = some (.int .i64 ey) ∧ V.cell? ⟨q, 1, none⟩ = some (.int .i64 el) ∧ V.cell? ⟨q, 2, none⟩ = some (.int .i64 et) ∧ V.cell? ⟨q, 3, none⟩ = some (.string ed) ∧ V.cell? ⟨q, 4, none⟩ = some (.int .i64 ep) ∧ V.cell? ⟨q, 5, none⟩ = some (.int .i64 ee) ∧ V.cell? ⟨q, 6, none⟩ = some (.bool eX) ∧ V.cell? ⟨q, 7, none⟩ = some (.int .i64 ew) ∧ V.cell? ⟨q, 8, none⟩ = some (.int .i64 ec) ∧ V.cell? ⟨q, 9, none⟩ = some (.int .i64 eL) ∧ V.cell? ⟨q, 10, none⟩ = some (.slice pb pn pc))) (by kernel_rfl) (hS25.out _ hIW.2) (fun hHeld => ?_)
              generalize hWg : World.drew _ = W2 at hIW hHeld ⊢
              clear hWg
              refine tkA (i := 0) (oi := ⟨some 85, .move (.tmp 14), 3, "outright.go:119", #[], none⟩) ?_
              try simp only [Act.put, lA, l0, lS]
              refine tkA (i := 1) (oi := ⟨some 86, .move (.tmp 14), 3, "outright.go:119", #[], none⟩) ?_
              try simp only [Act.put, lA, l0, lS]
              refine tkA (i := 2) (oi := ⟨some 87, .indexAddr 35 (.tmp 7) (.tmp 86), 0, "outright.go:119", #[⟨1, .data⟩], none⟩) ?_
              try simp only [Act.put, lA, l0, lS]
              refine tkA (i := 4) (oi := ⟨some 89, .load 31 (.tmp 13), 31, "outright.go:119", #[], none⟩) ?_
              try simp only [Act.put, lA, l0, lS]
              refine wpAnyH_ready (rs := [3, 5]) (by kernel_rfl) (by simp) ?_
              refine AllReadyH.cons (o := ⟨some 88, .load 2 (.tmp 87), 2, "outright.go:119", #[⟨2, .data⟩], none⟩) rfl (fun K hK => ?_) ?_
              · have cz : W2.cell? ⟨gl, wn, none⟩ = some (.int .i64 GL) := by rw [← HGL.out]; exact (hIW.1.leftw es HW.out.1 0).1.1
                go_simp
                go_wp2_with fail
                refine hK.out _ _ (hS25.out _ hIW.2) (fun hHeld => ?_)
                clear hK K cz
                try simp only [Act.put, lA, l0, lS]
                refine wpAnyH_ready (rs := [5]) (by kernel_rfl) (by simp) ?_
                refine AllReadyH.cons (o := ⟨some 90, .call { callee := Callee.value (.func 14), args := #[.tmp 89], argTypes := #[31] }, 2, "outright.go:119", #[⟨4, .data⟩], none⟩) rfl (fun K hK => ?_) AllReadyH.nil
                go_simp
                refine (HSZ.out _).mono ?_
                rintro e' W2x ⟨rfl, bX⟩
                have hW2x : Rm w W2x gl (gl + 1) sv (.slice wb wl wk) pl g j ∧ W2x.heap[q]? = some (.cells #[.int .i64 ey, .int .i64 el, .int .i64 et, .string ed, .int .i64 ep, .int .i64 ee, .bool eX, .int .i64 ew, .int .i64 ec, .int .i64 eL, .slice pb pn pc] 31 (0, 0)) := ⟨hIW.1.below bX, (bX.block _ (heap_lt hIW.2)).trans hIW.2⟩
                clear bX
                go_wp2_with fail
                refine hK.out _ _ (hS25.out _ hW2x.2) (fun hHeld => ?_)
                clear hK K
                try simp only [Act.put, lA, l0, lS]
                refine tkA (i := 6) (oi := ⟨some 91, .binOp .sub 2 (.tmp 88) (.tmp 90) 2, 2, "outright.go:119", #[⟨3, .data⟩, ⟨5, .data⟩], none⟩) ?_
                try simp only [Act.put, lA, l0, lS]
                refine tkA (i := 7) (oi := ⟨some 92, .indexAddr 35 (.tmp 7) (.tmp 85), 0, "outright.go:119", #[⟨0, .data⟩, ⟨0, .phase⟩, ⟨1, .phase⟩, ⟨2, .phase⟩, ⟨3, .phase⟩, ⟨4, .phase⟩, ⟨5, .phase⟩, ⟨6, .phase⟩], none⟩) ?_
                try simp only [Act.put, lA, l0, lS]
                refine wpAnyH_ready (rs := [8]) (by kernel_rfl) (by simp) ?_
                refine AllReadyH.cons (o := ⟨none, .store 2 (.tmp 92) (.tmp 91), 0, "outright.go:119", #[⟨7, .data⟩, ⟨6, .data⟩, ⟨5, .chain⟩, ⟨0, .phase⟩, ⟨1, .phase⟩, ⟨2, .phase⟩, ⟨3, .phase⟩, ⟨4, .phase⟩, ⟨5, .phase⟩, ⟨6, .phase⟩], none⟩) rfl (fun K hK => ?_) AllReadyH.nil
                obtain ⟨W2xx, hV0⟩ : ∃ V, W2x.setCell ⟨gl, wn, none⟩ (.int .i64 LX) = V := ⟨_, rfl⟩
                have fz : W2x.frozen? ⟨gl, wn, none⟩ = false := (hW2x.1.leftw es HW.out.1 LX).1.2.1
                have lz : W2x.cell? ⟨gl, wn, none⟩ = some (.int .i64 GL) := by rw [← HGL.out]; exact (hW2x.1.leftw es HW.out.1 LX).1.1
                have hW2xx : Rm w W2xx gl (gl + 1) sv (.slice wb wl wk) pl { g with left := fun t => if t = es then LX else g.left t } j ∧ W2xx.heap[q]? = some (.cells #[.int .i64 ey, .int .i64 el, .int .i64 et, .string ed, .int .i64 ep, .int .i64 ee, .bool eX, .int .i64 ew, .int .i64 ec, .int .i64 eL, .slice pb pn pc] 31 (0, 0)) := by
                  rw [← hV0]
                  exact ⟨(hW2x.1.leftw es HW.out.1 LX).2, (setCell_other _ _ _ _ _ (ty_ne hW2x.2 hW2x.1.lb (by decide))).trans hW2x.2⟩
                go_simp
                go_wp2_with fail
                try rw [hV0]
                refine hK.out _ _ (hS25.out _ hW2xx.2) (fun hHeld => ?_)
                clear hK K hV0 fz lz
                try simp only [Act.put, lA, l0, lS]
                refine wpAnyH_done (by kernel_rfl) ?_ _
                have c26 : W2xx.cell? ⟨gl, wn, none⟩ = some (.int .i64 LX) := hW2xx.1.leftc HW.out.1
                have HE := hid (HEND.out _ hW2xx.1)
                clear hHeld hW2xx
                go_wp2_with fail
                go_roundw
                case rel => exact ⟨j + 1, _, _, wb, wl, wk, hjl, by first | rfl | (rw [hjw]) | simp, rfl, rfl, rfl, HE.out⟩
                case measure => simp [intOf]; omega
              refine AllReadyH.cons (o := ⟨some 90, .call { callee := Callee.value (.func 14), args := #[.tmp 89], argTypes := #[31] }, 2, "outright.go:119", #[⟨4, .data⟩], none⟩) rfl (fun K hK => ?_) AllReadyH.nil
              go_simp
              refine (HSZ.out _).mono ?_
              rintro e' W2x ⟨rfl, bX⟩
              have hW2x : Rm w W2x gl (gl + 1) sv (.slice wb wl wk) pl g j ∧ W2x.heap[q]? = some (.cells #[.int .i64 ey, .int .i64 el, .int .i64 et, .string ed, .int .i64 ep, .int .i64 ee, .bool eX, .int .i64 ew, .int .i64 ec, .int .i64 eL, .slice pb pn pc] 31 (0, 0)) := ⟨hIW.1.below bX, (bX.block _ (heap_lt hIW.2)).trans hIW.2⟩
              clear bX
              go_wp2_with fail
              refine hK.out _ _ (hS25.out _ hW2x.2) (fun hHeld => ?_)
              clear hK K
              try simp only [Act.put, lA, l0, lS]
              refine wpAnyH_ready (rs := [3]) (by kernel_rfl) (by simp) ?_
              refine AllReadyH.cons (o := ⟨some 88, .load 2 (.tmp 87), 2, "outright.go:119", #[⟨2, .data⟩], none⟩) rfl (fun K hK => ?_) AllReadyH.nil
              have cz : W2x.cell? ⟨gl, wn, none⟩ = some (.int .i64 GL) := by rw [← HGL.out]; exact (hW2x.1.leftw es HW.out.1 0).1.1
              go_simp
              go_wp2_with fail
              refine hK.out _ _ (hS25.out _ hW2x.2) (fun hHeld => ?_)
              clear hK K cz
              try simp only [Act.put, lA, l0, lS]
              refine tkA (i := 6) (oi := ⟨some 91, .binOp .sub 2 (.tmp 88) (.tmp 90) 2, 2, "outright.go:119", #[⟨3, .data⟩, ⟨5, .data⟩], none⟩) ?_
              try simp only [Act.put, lA, l0, lS]
              refine tkA (i := 7) (oi := ⟨some 92, .indexAddr 35 (.tmp 7) (.tmp 85), 0, "outright.go:119", #[⟨0, .data⟩, ⟨0, .phase⟩, ⟨1, .phase⟩, ⟨2, .phase⟩, ⟨3, .phase⟩, ⟨4, .phase⟩, ⟨5, .phase⟩, ⟨6, .phase⟩], none⟩) ?_
              try simp only [Act.put, lA, l0, lS]
              refine wpAnyH_ready (rs := [8]) (by kernel_rfl) (by simp) ?_
              refine AllReadyH.cons (o := ⟨none, .store 2 (.tmp 92) (.tmp 91), 0, "outright.go:119", #[⟨7, .data⟩, ⟨6, .data⟩, ⟨5, .chain⟩, ⟨0, .phase⟩, ⟨1, .phase⟩, ⟨2, .phase⟩, ⟨3, .phase⟩, ⟨4, .phase⟩, ⟨5, .phase⟩, ⟨6, .phase⟩], none⟩) rfl (fun K hK => ?_) AllReadyH.nil
              obtain ⟨W2xx, hV0⟩ : ∃ V, W2x.setCell ⟨gl, wn, none⟩ (.int .i64 LX) = V := ⟨_, rfl⟩
              have fz : W2x.frozen? ⟨gl, wn, none⟩ = false := (hW2x.1.leftw es HW.out.1 LX).1.2.1
              have lz : W2x.cell? ⟨gl, wn, none⟩ = some (.int .i64 GL) := by rw [← HGL.out]; exact (hW2x.1.leftw es HW.out.1 LX).1.1
              have hW2xx : Rm w W2xx gl (gl + 1) sv (.slice wb wl wk) pl { g with left := fun t => if t = es then LX else g.left t } j ∧ W2xx.heap[q]? = some (.cells #[.int .i64 ey, .int .i64 el, .int .i64 et, .string ed, .int .i64 ep, .int .i64 ee, .bool eX, .int .i64 ew, .int .i64 ec, .int .i64 eL, .slice pb pn pc] 31 (0, 0)) := by
                rw [← hV0]
                exact ⟨(hW2x.1.leftw es HW.out.1 LX).2, (setCell_other _ _ _ _ _ (ty_ne hW2x.2 hW2x.1.lb (by decide))).trans hW2x.2⟩
              go_simp
              go_wp2_with fail
              try rw [hV0]
              refine hK.out _ _ (hS25.out _ hW2xx.2) (fun hHeld => ?_)
              clear hK K hV0 fz lz
              try simp only [Act.put, lA, l0, lS]
              refine wpAnyH_done (by kernel_rfl) ?_ _
              have c26 : W2xx.cell? ⟨gl, wn, none⟩ = some (.int .i64 LX) := hW2xx.1.leftc HW.out.1
              have HE := hid (HEND.out _ hW2xx.1)
              clear hHeld hW2xx
              go_wp2_with fail
              go_roundw
              case rel => exact ⟨j + 1, _, _, wb, wl, wk, hjl, by first | rfl | (rw [hjw]) | simp, rfl, rfl, rfl, HE.out⟩
              case measure => simp [intOf]; omega
          by_cases t3 : ey = 3
          · as_aux_lemma =>
              have b0 : (ey == 0) = false := by simp [t0]
              have b3 : (ey == 3) = true := by simp [t3]
              have s2 := Rg.step_3 HST.out t3
              subst s2
              obtain ⟨sb, sc, hsv, hsc1, hsc2⟩ := (HJ2.out.1.row es).slice
              obtain ⟨m, hm⟩ : ∃ m, (g.sh es).length = m := ⟨_, rfl⟩
              rw [hm] at hsv hsc1
              have HSV : Hid (sv es = .slice sb m sc ∧ (g.sh es).length = m ∧ m ≤ 268435456) := ⟨hsv, hm, by have := HJ2.out.1.len es; omega⟩
              have HEND : Hid (∀ (V : World) (sv' : Bool → Value), Rm w V gl (gl + 1) sv' (.slice wb wl wk) pl { g with sh := fun t => if t = es then g.sh t ++ [et] else g.sh t } (j + 1) → RJ w V gl (gl + 1) c L (j + 1) wb wl wk p la) := fun V sv' hV => by
                have h := HFIN.out V wb wl wk sv' pl hV HG.out.2.2
                simp only [HG.out.1, HG.out.2.1] at h
                exact h
              have hS29 : Hid (∀ V : World, V.heap[q]? = some (.cells #[.int .i64 ey, .int .i64 el, .int .i64 et, .string ed, .int .i64 ep, .int .i64 ee, .bool eX, .int .i64 ew, .int .i64 ec, .int .i64 eL, .slice pb pn pc] 31 (0, 0)) → V.cell? ⟨q, 2, none⟩ = some (.int .i64 et)) := fun V h1 => cell_blk h1 2
              clear hsv hm hsc1 hsc2 HFIN HST
              clear t0 t3
              go_upto_region 29 with fail
              have hIW : Rm w wc.drew gl (gl + 1) sv (.slice wb wl wk) pl g j ∧ wc.drew.heap[q]? = some (.cells #[.int .i64 ey, .int .i64 el, .int .i64 et, .string ed, .int .i64 ep, .int .i64 ee, .bool eX, .int .i64 ew, .int .i64 ec, .int .i64 eL, .slice pb pn pc] 31 (0, 0)) := ⟨HJ2.out.1.dr, HJ2.out.2⟩
              clear k0 k1 k2 k9 k10
              refine wp_region_held_drew (S := (fun V => V.cell? ⟨q, 2, none⟩ = some (.int .i64 et))) (by kernel_rfl) (hS29.out _ hIW.2) (fun hHeld => ?_)
              generalize hWg : World.drew _ = W2 at hIW hHeld ⊢
              clear hWg
              refine tkA (i := 0) (oi := ⟨some 99, .move (.tmp 14), 3, "outright.go:124", #[], none⟩) ?_
              try simp only [Act.put, lA, l0, lS]
              refine tkA (i := 1) (oi := ⟨some 100, .move (.tmp 14), 3, "outright.go:124", #[], none⟩) ?_
              try simp only [Act.put, lA, l0, lS]
              refine tkA (i := 2) (oi := ⟨some 101, .indexAddr 37 (.tmp 8) (.tmp 100), 0, "outright.go:124", #[⟨1, .data⟩], none⟩) ?_
              try simp only [Act.put, lA, l0, lS]
              refine tkA (i := 4) (oi := ⟨some 103, .fieldAddr 31 (.tmp 13) 2, 0, "outright.go:124", #[], none⟩) ?_
              try simp only [Act.put, lA, l0, lS]
              refine tkA (i := 5) (oi := ⟨some 104, .load 2 (.tmp 103), 2, "outright.go:124", #[⟨4, .data⟩], none⟩) ?_
              try simp only [Act.put, lA, l0, lS]
              refine wpAnyH_ready (rs := [3, 6]) (by kernel_rfl) (by simp) ?_
              refine AllReadyH.cons (o := ⟨some 102, .load 36 (.tmp 101), 36, "outright.go:124", #[⟨2, .data⟩], none⟩) rfl (fun K hK => ?_) ?_
              · have cz : W2.cell? ⟨gl + 1, wn, none⟩ = some (.slice sb m sc) := by rw [← HSV.out.1]; exact (hIW.1.shcw es HW.out.1).1
                go_simp
                go_wp2_with fail
                refine hK.out _ _ (hS29.out _ hIW.2) (fun hHeld => ?_)
                clear hK K cz
                try simp only [Act.put, lA, l0, lS]
                refine wpAnyH_ready (rs := [6]) (by kernel_rfl) (by simp) ?_
                refine AllReadyH.cons (o := ⟨some 105, .buildSlice 36 1 #[(0, .tmp 104)], 36, "outright.go:124", #[⟨5, .data⟩], none⟩) rfl (fun K hK => ?_) AllReadyH.nil
                obtain ⟨W2x, hV0⟩ : ∃ V, W2.alloc (.cells #[.int .i64 et] 2) = V := ⟨_, rfl⟩
                obtain ⟨qv, hqv⟩ : ∃ q, W2.heap.size = q := ⟨_, rfl⟩
                have bX : Below W2.heap.size W2 W2x := by rw [← hV0]; exact bel1 _ _
                have hW2x : Rm w W2x gl (gl + 1) sv (.slice wb wl wk) pl g j ∧ W2x.heap[q]? = some (.cells #[.int .i64 ey, .int .i64 el, .int .i64 et, .string ed, .int .i64 ep, .int .i64 ee, .bool eX, .int .i64 ew, .int .i64 ec, .int .i64 eL, .slice pb pn pc] 31 (0, 0)) := ⟨hIW.1.below bX, (bX.block _ (heap_lt hIW.2)).trans hIW.2⟩
                have gW2x : W2x.heap[qv]? = some (.cells #[.int .i64 et] 2 (0, 0)) := by rw [← hV0, ← hqv, heap_al, if_pos rfl]
                clear bX
                go_simp
                go_wp2_with fail
                try rw [hV0]
                try rw [hqv]
                refine hK.out _ _ (hS29.out _ hW2x.2) (fun hHeld => ?_)
                clear hK K hV0 hqv
                try simp only [Act.put, lA, l0, lS]
                refine wpAnyH_ready (rs := [7]) (by kernel_rfl) (by simp) ?_
                refine AllReadyH.cons (o := ⟨some 106, .call { callee := Callee.builtin Builtin.append, args := #[.tmp 102, .tmp 105], argTypes := #[36, 36] }, 36, "outright.go:124", #[⟨3, .data⟩, ⟨6, .data⟩], none⟩) rfl (fun K hK => ?_) AllReadyH.nil
                have gq : W2x.heap[qv]? = some (.cells #[.int .i64 et] 2 (0, 0)) := by first | exact gW2x | exact (hW2x.2 ▸ gW2x)
                obtain ⟨nb, nc, W2xx, hrun, hR3, hG3⟩ := app okI _ _ _ (hW2x.1.row es) (.slice (some ⟨qv, 0, none⟩) 1 1) [et] (in_one _ qv _ _ 2 (0, 0) gq rfl) (by have := HSV.out.2.1; have := HSV.out.2.2; simp only [EI, List.length_cons, List.length_nil]; omega)
                simp only [List.length_cons, List.length_nil, Nat.zero_add, HSV.out.2.1] at hrun hR3 hG3
                rw [HSV.out.1] at hrun
                have hSh := hW2x.1.shutw es HW.out.1 et hG3 hR3
                have hW2xx : W2xx.heap[q]? = some (.cells #[.int .i64 ey, .int .i64 el, .int .i64 et, .string ed, .int .i64 ep, .int .i64 ee, .bool eX, .int .i64 ew, .int .i64 ec, .int .i64 eL, .slice pb pn pc] 31 (0, 0)) := (hG3.block _ (heap_lt hW2x.2) fun e => by
                  obtain ⟨cc, hcc⟩ := (hW2x.1.row es).ty _ e
                  exact ty_ne hW2x.2 hcc (by decide) rfl).trans hW2x.2
                have lsW2xx : W2xx.cell? ⟨gl + 1, wn, none⟩ = some (.slice sb m sc) := by
                  have hb3 : W2xx.heap[gl + 1]? = W2x.heap[gl + 1]? := hG3.block _ (hW2x.1.shcw es HW.out.1).2.2 fun e => by
                    obtain ⟨cc, hcc⟩ := (hW2x.1.row es).ty _ e
                    exact ty_ne hW2x.1.sb hcc (by decide) rfl
                  have hc3 := (hW2x.1.shcw es HW.out.1).1
                  rw [HSV.out.1] at hc3
                  rw [← hc3, cell_blk (hb3.trans hW2x.1.sb), cell_blk hW2x.1.sb]
                have sqW2xx : q ≠ gl + 1 := ty_ne hW2x.2 hW2x.1.sb (by decide)
                clear hR3 hG3 gq
                simp only [EI] at hrun
                refine step_append_run rfl (.tmp 102) (.tmp 105) 36 36 rfl hrun rfl rfl ?_
                refine hK.out _ _ (hS29.out _ hW2xx) (fun hHeld => ?_)
                clear hK K hrun
                try simp only [Act.put, lA, l0, lS]
                refine tkA (i := 8) (oi := ⟨some 107, .indexAddr 37 (.tmp 8) (.tmp 99), 0, "outright.go:124", #[⟨0, .data⟩, ⟨0, .phase⟩, ⟨1, .phase⟩, ⟨2, .phase⟩, ⟨3, .phase⟩, ⟨4, .phase⟩, ⟨5, .phase⟩, ⟨6, .phase⟩, ⟨7, .phase⟩], none⟩) ?_
                try simp only [Act.put, lA, l0, lS]
                refine wpAnyH_ready (rs := [9]) (by kernel_rfl) (by simp) ?_
                refine AllReadyH.cons (o := ⟨none, .store 36 (.tmp 107) (.tmp 106), 0, "outright.go:124", #[⟨8, .data⟩, ⟨7, .data⟩, ⟨7, .chain⟩, ⟨0, .phase⟩, ⟨1, .phase⟩, ⟨2, .phase⟩, ⟨3, .phase⟩, ⟨4, .phase⟩, ⟨5, .phase⟩, ⟨6, .phase⟩, ⟨7, .phase⟩], none⟩) rfl (fun K hK => ?_) AllReadyH.nil
                obtain ⟨W2xxx, hV0⟩ : ∃ V, W2xx.setCell ⟨gl + 1, wn, none⟩ (.slice nb (m + 1) nc) = V := ⟨_, rfl⟩
                have fz : W2xx.frozen? ⟨gl + 1, wn, none⟩ = false := hSh.1
                have cz := lsW2xx
                have hW2xxx : W2xxx.heap[q]? = some (.cells #[.int .i64 ey, .int .i64 el, .int .i64 et, .string ed, .int .i64 ep, .int .i64 ee, .bool eX, .int .i64 ew, .int .i64 ec, .int .i64 eL, .slice pb pn pc] 31 (0, 0)) := by
                  rw [← hV0]
                  exact (setCell_other _ _ _ _ _ sqW2xx).trans hW2xx
                have HZ : Hid (Rm w W2xxx gl (gl + 1) (fun t => if t = es then .slice nb (m + 1) nc else sv t) (.slice wb wl wk) pl { g with sh := fun t => if t = es then g.sh t ++ [et] else g.sh t } (j + 1)) := by
                  rw [← hV0]
                  exact hSh.2
                go_simp
                go_wp2_with fail
                try rw [hV0]
                refine hK.out _ _ (hS29.out _ hW2xxx) (fun hHeld => ?_)
                clear hK K hV0 fz cz
                try simp only [Act.put, lA, l0, lS]
                refine wpAnyH_done (by kernel_rfl) ?_ _
                have HE := hid (HEND.out _ _ HZ.out)
                clear hHeld hW2xxx hSh
                go_wp2_with fail
                go_roundw
                case rel => exact ⟨j + 1, _, _, wb, wl, wk, hjl, by first | rfl | (rw [hjw]) | simp, rfl, rfl, rfl, HE.out⟩
                case measure => simp [intOf]; omega
              refine AllReadyH.cons (o := ⟨some 105, .buildSlice 36 1 #[(0, .tmp 104)], 36, "outright.go:124", #[⟨5, .data⟩], none⟩) rfl (fun K hK => ?_) AllReadyH.nil
              obtain ⟨W2x, hV0⟩ : ∃ V, W2.alloc (.cells #[.int .i64 et] 2) = V := ⟨_, rfl⟩
              obtain ⟨qv, hqv⟩ : ∃ q, W2.heap.size = q := ⟨_, rfl⟩
              have bX : Below W2.heap.size W2 W2x := by rw [← hV0]; exact bel1 _ _
              have hW2x : Rm w W2x gl (gl + 1) sv (.slice wb wl wk) pl g j ∧ W2x.heap[q]? = some (.cells #[.int .i64 ey, .int .i64 el, .int .i64 et, .string ed, .int .i64 ep, .int .i64 ee, .bool eX, .int .i64 ew, .int .i64 ec, .int .i64 eL, .slice pb pn pc] 31 (0, 0)) := ⟨hIW.1.below bX, (bX.block _ (heap_lt hIW.2)).trans hIW.2⟩
              have gW2x : W2x.heap[qv]? = some (.cells #[.int .i64 et] 2 (0, 0)) := by rw [← hV0, ← hqv, heap_al, if_pos rfl]
              clear bX
              go_simp
              go_wp2_with fail
              try rw [hV0]
              try rw [hqv]
              refine hK.out _ _ (hS29.out _ hW2x.2) (fun hHeld => ?_)
              clear hK K hV0 hqv
              try simp only [Act.put, lA, l0, lS]
              refine wpAnyH_ready (rs := [3]) (by kernel_rfl) (by simp) ?_
              refine AllReadyH.cons (o := ⟨some 102, .load 36 (.tmp 101), 36, "outright.go:124", #[⟨2, .data⟩], none⟩) rfl (fun K hK => ?_) AllReadyH.nil
              have cz : W2x.cell? ⟨gl + 1, wn, none⟩ = some (.slice sb m sc) := by rw [← HSV.out.1]; exact (hW2x.1.shcw es HW.out.1).1
              go_simp
              go_wp2_with fail
              refine hK.out _ _ (hS29.out _ hW2x.2) (fun hHeld => ?_)
              clear hK K cz
              try simp only [Act.put, lA, l0, lS]
              refine wpAnyH_ready (rs := [7]) (by kernel_rfl) (by simp) ?_
              refine AllReadyH.cons (o := ⟨some 106, .call { callee := Callee.builtin Builtin.append, args := #[.tmp 102, .tmp 105], argTypes := #[36, 36] }, 36, "outright.go:124", #[⟨3, .data⟩, ⟨6, .data⟩], none⟩) rfl (fun K hK => ?_) AllReadyH.nil
              have gq : W2x.heap[qv]? = some (.cells #[.int .i64 et] 2 (0, 0)) := by first | exact gW2x | exact (hW2x.2 ▸ gW2x)
              obtain ⟨nb, nc, W2xx, hrun, hR3, hG3⟩ := app okI _ _ _ (hW2x.1.row es) (.slice (some ⟨qv, 0, none⟩) 1 1) [et] (in_one _ qv _ _ 2 (0, 0) gq rfl) (by have := HSV.out.2.1; have := HSV.out.2.2; simp only [EI, List.length_cons, List.length_nil]; omega)
              simp only [List.length_cons, List.length_nil, Nat.zero_add, HSV.out.2.1] at hrun hR3 hG3
              rw [HSV.out.1] at hrun
              have hSh := hW2x.1.shutw es HW.out.1 et hG3 hR3
              have hW2xx : W2xx.heap[q]? = some (.cells #[.int .i64 ey, .int .i64 el, .int .i64 et, .string ed, .int .i64 ep, .int .i64 ee, .bool eX, .int .i64 ew, .int .i64 ec, .int .i64 eL, .slice pb pn pc] 31 (0, 0)) := (hG3.block _ (heap_lt hW2x.2) fun e => by
                obtain ⟨cc, hcc⟩ := (hW2x.1.row es).ty _ e
                exact ty_ne hW2x.2 hcc (by decide) rfl).trans hW2x.2
              have lsW2xx : W2xx.cell? ⟨gl + 1, wn, none⟩ = some (.slice sb m sc) := by
                have hb3 : W2xx.heap[gl + 1]? = W2x.heap[gl + 1]? := hG3.block _ (hW2x.1.shcw es HW.out.1).2.2 fun e => by
                  obtain ⟨cc, hcc⟩ := (hW2x.1.row es).ty _ e
                  exact ty_ne hW2x.1.sb hcc (by decide) rfl
                have hc3 := (hW2x.1.shcw es HW.out.1).1
                rw [HSV.out.1] at hc3
                rw [← hc3, cell_blk (hb3.trans hW2x.1.sb), cell_blk hW2x.1.sb]
              have sqW2xx : q ≠ gl + 1 := ty_ne hW2x.2 hW2x.1.sb (by decide)
              clear hR3 hG3 gq
              simp only [EI] at hrun
              refine step_append_run rfl (.tmp 102) (.tmp 105) 36 36 rfl hrun rfl rfl ?_
              refine hK.out _ _ (hS29.out _ hW2xx) (fun hHeld => ?_)
              clear hK K hrun
              try simp only [Act.put, lA, l0, lS]
              refine tkA (i := 8) (oi := ⟨some 107, .indexAddr 37 (.tmp 8) (.tmp 99), 0, "outright.go:124", #[⟨0, .data⟩, ⟨0, .phase⟩, ⟨1, .phase⟩, ⟨2, .phase⟩, ⟨3, .phase⟩, ⟨4, .phase⟩, ⟨5, .phase⟩, ⟨6, .phase⟩, ⟨7, .phase⟩], none⟩) ?_
              try simp only [Act.put, lA, l0, lS]
              refine wpAnyH_ready (rs := [9]) (by kernel_rfl) (by simp) ?_
              refine AllReadyH.cons (o := ⟨none, .store 36 (.tmp 107) (.tmp 106), 0, "outright.go:124", #[⟨8, .data⟩, ⟨7, .data⟩, ⟨7, .chain⟩, ⟨0, .phase⟩, ⟨1, .phase⟩, ⟨2, .phase⟩, ⟨3, .phase⟩, ⟨4, .phase⟩, ⟨5, .phase⟩, ⟨6, .phase⟩, ⟨7, .phase⟩], none⟩) rfl (fun K hK => ?_) AllReadyH.nil
              obtain ⟨W2xxx, hV0⟩ : ∃ V, W2xx.setCell ⟨gl + 1, wn, none⟩ (.slice nb (m + 1) nc) = V := ⟨_, rfl⟩
              have fz : W2xx.frozen? ⟨gl + 1, wn, none⟩ = false := hSh.1
              have cz := lsW2xx
              have hW2xxx : W2xxx.heap[q]? = some (.cells #[.int .i64 ey, .int .i64 el, .int .i64 et, .string ed, .int .i64 ep, .int .i64 ee, .bool eX, .int .i64 ew, .int .i64 ec, .int .i64 eL, .slice pb pn pc] 31 (0, 0)) := by
                rw [← hV0]
                exact (setCell_other _ _ _ _ _ sqW2xx).trans hW2xx
              have HZ : Hid (Rm w W2xxx gl (gl + 1) (fun t => if t = es then .slice nb (m + 1) nc else sv t) (.slice wb wl wk) pl { g with sh := fun t => if t = es then g.sh t ++ [et] else g.sh t } (j + 1)) := by
                rw [← hV0]
                exact hSh.2
              go_simp
              go_wp2_with fail
              try rw [hV0]
              refine hK.out _ _ (hS29.out _ hW2xxx) (fun hHeld => ?_)
              clear hK K hV0 fz cz
              try simp only [Act.put, lA, l0, lS]
              refine wpAnyH_done (by kernel_rfl) ?_ _
              have HE := hid (HEND.out _ _ HZ.out)
              clear hHeld hW2xxx hSh
              go_wp2_with fail
              go_roundw
              case rel => exact ⟨j + 1, _, _, wb, wl, wk, hjl, by first | rfl | (rw [hjw]) | simp, rfl, rfl, rfl, HE.out⟩
              case measure => simp [intOf]; omega
          by_cases t4 : ey = 4
          · as_aux_lemma =>
              have b0 : (ey == 0) = false := by simp [t0]
              have b3 : (ey == 3) = false := by simp [t3]
              have b4 : (ey == 4) = true := by simp [t4]
              obtain ⟨s1, s2, s3, s4⟩ := Rg.step_4 HST.out t4
              obtain ⟨bb, hbb⟩ : ∃ b, bits .and .i64 el 1 = b := ⟨_, rfl⟩
              have hb1 : (bb != 0) = h1 := by rw [← hbb]; exact HH1.out
              have hb0 : (bb == 0) = !h1 := by rw [← hb1]; simp [bne]
              clear t0 t3 t4
              cases fc
              · cases h1
                · have s5 := s4 HH1.out HFC.out
                  subst s5
                  simp only [Bool.not_false] at hb0
                  clear s1 s2 s3 s4
                  have HE := hid (by
                    have h := HFIN.out _ wb wl wk _ _ (HJ2.out.1.more (by omega)) HG.out.2.2
                    have h2 := HG.out
                    simp only [h2.1, h2.2.1] at h
                    exact h)
                  clear HST HFIN
                  go_wp2_with fail
                  go_roundw
                  case rel => exact ⟨j + 1, _, _, wb, wl, wk, hjl, by first | rfl | (rw [hjw]) | simp, rfl, rfl, rfl, HE.out⟩
                  case measure => simp [intOf]; omega
                · simp only [Bool.not_true] at hb0
                  obtain ⟨l1, W, hwait, s2⟩ := s2 HH1.out HFC.out
                  subst s2
                  obtain ⟨p1, P, b1, off1, cap1, hpl, hv, hc1', hc2', hcell, hlt1, hin, hll, hone, hmore⟩ := HJ2.out.1.pop hwait (pushOf g.push l1)
                  injection hv with e1 e2 e3
                  subst e1 e3
                  obtain ⟨pb1, pn1, pc1⟩ := p1
                  simp only [sp] at hcell hin
                  obtain ⟨_, _, hs1, hs2, hs3⟩ := hin.slice
                  injection hs1 with e1 e2 e3
                  subst e1 e2 e3
                  have HIN1 : Hid (In EP w (.slice pb1 l1.length pc1) l1 ∧ l1.length ≤ 1099511627776) := ⟨hin, hll⟩
                  obtain ⟨m1, hm1⟩ : ∃ m, l1.length = m := ⟨_, rfl⟩
                  rw [hm1] at hcell HIN1
                  have HM1 := hid hm1
                  obtain ⟨PL, hPL⟩ : ∃ n, P.length = n := ⟨_, rfl⟩
                  rw [hPL] at e2
                  have HPP : Hid (wl = PL + 1) := e2
                  have HFN : Hid (∀ (b2 : Option Addr) (wk2 : Nat), Rm w wc gl (gl + 1) sv (.slice b2 PL wk2) P { g with push := pushOf g.push l1, wait := W } j → RJ w wc gl (gl + 1) c L (j + 1) b2 PL wk2 (pushOf p l1) la) := fun b2 wk2 hV => by
                    have h := HFIN.out wc b2 PL wk2 sv P (hV.more (by omega)) hPL
                    simp only [HG.out.1, HG.out.2.1] at h
                    exact h
                  have HBW : Hid (Below w.heap.size w wc) := HJ2.out.1.bel
                  rw [hPL] at hone hmore hc1'
                  have HON := hid hone
                  have HMO := hid hmore
                  have hpl0b : ((wl : Int) == 0) = false := by simp; omega
                  have hpos : (0 : Int) < (wl : Int) := by omega
                  have hle1 : (1 : Int) ≤ (wl : Int) := by omega
                  have hcap1 : (wl : Int) ≤ (wk : Int) := by omega
                  have HSUB : Hid (wl - 1 = PL) := by show _ = _; omega
                  clear s1 s3 s4 hwait hpl hin hll hone hmore hs2 hs3 hm1 hPL HST HFIN HJ2 e2 hc1'
                  go_wp2_with fail
                  go_loopw [10, 16] (fun pv i wr => ∃ i2 : Nat, i2 ≤ m1 ∧ i = .int .i64 (i2 : Int) ∧ pv = .int .i64 (pushOf p (l1.take i2)) ∧ wr = wc) (fun _ i _ => m1 - (intOf i).toNat)
                  case atStart => exact ⟨0, Nat.zero_le _, rfl, rfl, rfl⟩
                  case round =>
                    obtain ⟨i2, hi2, rfl, rfl, rfl⟩ := hrel
                    by_cases hlt2 : i2 < m1
                    · have hml := HM1.out
                      obtain ⟨B2, o2, c2, hsl, hBl2, hd0, hd1⟩ := (HIN1.out.1.below HBW.out).par i2 (by omega)
                      injection hsl with e1 e2 e3
                      subst e1
                      clear e2 e3
                      have htk := pushOf_take p (j := i2) (l := l1) (by omega)
                      obtain ⟨⟨x1, x2⟩, hx⟩ : ∃ x, l1[i2]'(by omega) = x := ⟨_, rfl⟩
                      rw [hx] at hd0 hd1 htk
                      simp only at hd0 hd1 htk
                      obtain ⟨pv0, hpv0⟩ : ∃ z, pushOf p (l1.take i2) = z := ⟨_, rfl⟩
                      rw [hpv0] at htk
                      have HTK := hid htk
                      rw [hpv0]
                      have hlti2 : (i2 : Int) < (m1 : Int) := by omega
                      have hiw : wrap64 ((i2 : Int) + 1) = ((i2 + 1 : Nat) : Int) := wrap_s hlt2 HIN1.out.2
                      clear hml hx hpv0 htk
                      by_cases hx2 : x1 = 2
                      · have hxb : (x1 == 2) = true := by simp [hx2]
                        have HPV := hid (HTK.out.trans (if_pos hx2))
                        clear hx2 HTK
                        go_wp2_with fail
                        go_roundw
                        case rel => exact ⟨i2 + 1, hlt2, by first | rfl | (rw [hiw]) | simp, by rw [HPV.out], by first | rfl | trivial⟩
                        case measure => exact meas_s hiw hlt2
                      · have hxb : (x1 == 2) = false := by simp [hx2]
                        have HPV := hid (HTK.out.trans (if_neg hx2))
                        clear hx2 HTK
                        go_wp2_with fail
                        go_roundw
                        case rel => exact ⟨i2 + 1, hlt2, by first | rfl | (rw [hiw]) | simp, by rw [HPV.out], by first | rfl | trivial⟩
                        case measure => exact meas_s hiw hlt2
                    · have hnl2 : ¬ (i2 : Int) < (m1 : Int) := by omega
                      have htl : pushOf p (l1.take i2) = pushOf p l1 := by rw [List.take_of_length_le (by have := HM1.out; omega)]
                      rw [htl]
                      clear htl
                      by_cases hcp : wk = 1
                      · have HE := hid (HFN.out _ _ (HON.out hcp))
                        subst hcp
                        go_wp2_with fail
                        go_roundw
                        case rel => exact ⟨j + 1, _, _, some ⟨b1, off1, none⟩, PL, 0, hjl, by first | rfl | (rw [hjw]) | simp, rfl, rfl, by first | (rw [HSUB.out]; done) | (rw [HSUB.out]; rfl) | simp [HSUB.out], HE.out⟩
                        case measure => simp [intOf]; omega
                      · have HE := hid (HFN.out _ _ (HMO.out hcp))
                        have hcp' : ¬ (wk : Int) = 1 := by omega
                        go_wp2_with fail
                        go_roundw
                        case rel => exact ⟨j + 1, _, _, some ⟨b1, off1 + 1, none⟩, PL, wk - 1, hjl, by first | rfl | (rw [hjw]) | simp, rfl, rfl, by first | (rw [HSUB.out]; done) | (rw [HSUB.out]; rfl) | simp [HSUB.out, hcp], HE.out⟩
                        case measure => simp [intOf]; omega
              · cases h1
                · simp only [Bool.not_false] at hb0
                  have s5 := s3 HH1.out HFC.out
                  subst s5
                  clear s1 s2 s3 s4
                  obtain ⟨q2, hq2⟩ : ∃ q, wc.heap.size = q := ⟨_, rfl⟩
                  obtain ⟨V2, hV2⟩ : ∃ V, wc.alloc (.cells #[.slice pb pn pc] 29) = V := ⟨_, rfl⟩
                  have b2 : Below wc.heap.size wc V2 := by rw [← hV2]; exact bel1 _ _
                  have g2 : V2.heap[q2]? = some (.cells #[sp ⟨pb, pn, pc⟩] 29 (0, 0)) := by rw [← hV2, ← hq2, heap_al, if_pos rfl]; rfl
                  have h2 := HJ2.out.1.below b2
                  obtain ⟨nb, nc, V3, hrun, hW3, hG3⟩ := wpl_push V2 _ pl h2.wt ⟨pb, pn, pc⟩ q2 g2 (by have := h2.wl; omega)
                  simp only [HG.out.2.2] at hrun hW3 hG3
                  have h3 := h2.push hG3 hW3 HIP.out.1 HIP.out.2
                  have HE := hid (by
                    have h := HFIN.out V3 nb (wl + 1) nc _ _ h3 (by rw [List.length_append, HG.out.2.2]; rfl)
                    simp only [HG.out.1, HG.out.2.1] at h
                    exact h)
                  have HRUN := hid hrun
                  clear b2 g2 h2 hrun hW3 hG3 h3 HST HFIN HJ2
                  go_upto_region 32 with fail
                  go_wp2_with (at_builtin; refine Lib.wpList_append_run _ rfl _ _ _ _ rfl _ _ rfl rfl _ _ HRUN.out ?_)
                  go_roundw
                  case rel => exact ⟨j + 1, _, _, nb, (wl + 1), nc, hjl, by first | rfl | (rw [hjw]) | simp, rfl, rfl, rfl, HE.out⟩
                  case measure => simp [intOf]; omega
                · have s5 := s1 HH1.out HFC.out
                  subst s5
                  simp only [Bool.not_true] at hb0
                  clear s1 s2 s3 s4
                  have HE := hid (by
                    have h := HFIN.out _ wb wl wk _ _ (HJ2.out.1.more (by omega)) HG.out.2.2
                    have h2 := HG.out
                    simp only [h2.1, h2.2.1] at h
                    exact h)
                  clear HST HFIN
                  go_wp2_with fail
                  go_roundw
                  case rel => exact ⟨j + 1, _, _, wb, wl, wk, hjl, by first | rfl | (rw [hjw]) | simp, rfl, rfl, rfl, HE.out⟩
                  case measure => simp [intOf]; omega
          by_cases t5 : ey = 5
          · as_aux_lemma =>
              have b0 : (ey == 0) = false := by simp [t0]
              have b3 : (ey == 3) = false := by simp [t3]
              have b4 : (ey == 4) = false := by simp [t4]
              have b5 : (ey == 5) = true := by simp [t5]
              obtain ⟨s1, s2, s3, s4, s5⟩ := Rg.step_5 HST.out t5
              subst s5
              simp only at s1 s2 s3
              rw [HG.out.2.1] at s2
              rw [HG.out.1] at s4
              rw [HFC.out] at s1
              subst s1
              have s2' : decide (eL ≤ la) = false := decide_eq_false s2
              have s3' : (eL.tmod 2 != 0) = false := by simp [s3]
              subst s4
              have HE := hid (by
                have h := HFIN.out _ wb wl wk _ _ (show Rm w wc gl (gl + 1) sv (.slice wb wl wk) pl { g with last := eL } (j + 1) from (let h := HJ2.out.1.more (show j ≤ j + 1 by omega); ⟨h.lb, h.sb, h.row, h.len, h.ap, h.own, h.wt, h.wo, h.wl, h.fw, h.gl, h.gs, h.bel⟩)) HG.out.2.2
                simp only [HG.out.1] at h
                exact h)
              clear t0 t3 t4 t5
              clear HST HFIN
              go_wp2_with fail
              go_roundw
              case rel => exact ⟨j + 1, _, _, wb, wl, wk, hjl, by first | rfl | (rw [hjw]) | simp, rfl, rfl, rfl, HE.out⟩
              case measure => simp [intOf]; omega
          by_cases t8 : ey = 8
          · as_aux_lemma =>
              have b0 : (ey == 0) = false := by simp [t0]
              have b3 : (ey == 3) = false := by simp [t3]
              have b4 : (ey == 4) = false := by simp [t4]
              have b5 : (ey == 5) = false := by simp [t5]
              have b8 : (ey == 8) = true := by simp [t8]
              obtain ⟨s1, s2⟩ := Rg.step_8 HST.out t8
              by_cases hz : et = 0
              · have hzb : (et == 0) = true := by simp [hz]
                have s3 := s1 hz
                subst s3
                obtain ⟨GL, hGL⟩ : ∃ z, g.left (!es) = z := ⟨_, rfl⟩
                have h8 := HH8.out t8 hz
                have hgl := HLF.out (!es)
                rw [hGL] at h8 hgl
                obtain ⟨LX, hLX⟩ : ∃ z, GL + eL = z := ⟨_, rfl⟩
                have hwr : IntKind.i64.wrap (GL + eL) = LX := by rw [hLX]; exact wraps_i64_63 _ (by omega) (by omega)
                have HGL := hid hGL
                have HEND : Hid (∀ V, Rm w V gl (gl + 1) sv (.slice wb wl wk) pl { g with left := fun t => if t = (!es) then LX else g.left t } j → RJ w V gl (gl + 1) c L (j + 1) wb wl wk p la) := fun V hV => by
                  have h := HFIN.out V wb wl wk sv pl (by simp only [hGL, hLX]; exact hV.more (by omega)) HG.out.2.2
                  simp only [HG.out.1, HG.out.2.1] at h
                  exact h
                have hS48 : Hid (∀ V : World, V.heap[q]? = some (.cells #[.int .i64 ey, .int .i64 el, .int .i64 et, .string ed, .int .i64 ep, .int .i64 ee, .bool eX, .int .i64 ew, .int .i64 ec, .int .i64 eL, .slice pb pn pc] 31 (0, 0)) → V.cell? ⟨q, 9, none⟩ = some (.int .i64 eL)) := fun V h1 => cell_blk h1 9
                clear s1 s2 hGL h8 hgl hLX hz HFIN HST
                clear t0 t3 t4 t5 t8
                go_upto_region 48 with fail
                have hIW : Rm w wc.drew gl (gl + 1) sv (.slice wb wl wk) pl g j ∧ wc.drew.heap[q]? = some (.cells #[.int .i64 ey, .int .i64 el, .int .i64 et, .string ed, .int .i64 ep, .int .i64 ee, .bool eX, .int .i64 ew, .int .i64 ec, .int .i64 eL, .slice pb pn pc] 31 (0, 0)) := ⟨HJ2.out.1.dr, HJ2.out.2⟩
                clear k0 k1 k2 k9 k10
                refine wp_region_held_drew (S := (fun V => V.cell? ⟨q, 9, none⟩ = some (.int .i64 eL))) (by kernel_rfl) (hS48.out _ hIW.2) (fun hHeld => ?_)
                generalize hWg : World.drew _ = W2 at hIW hHeld ⊢
                clear hWg
                refine tkA (i := 0) (oi := ⟨some 184, .move (.tmp 14), 3, "outright.go:147", #[], none⟩) ?_
                try simp only [Act.put, lA, l0, lS]
                refine tkA (i := 1) (oi := ⟨some 185, .binOp .sub 3 (.const (.int IntKind.i64 1)) (.tmp 184) 3, 3, "outright.go:147", #[⟨0, .data⟩], none⟩) ?_
                try simp only [Act.put, lA, l0, lS]
                refine tkA (i := 2) (oi := ⟨some 186, .move (.tmp 14), 3, "outright.go:147", #[], none⟩) ?_
                try simp only [Act.put, lA, l0, lS]
                refine tkA (i := 3) (oi := ⟨some 187, .binOp .sub 3 (.const (.int IntKind.i64 1)) (.tmp 186) 3, 3, "outright.go:147", #[⟨2, .data⟩], none⟩) ?_
                try simp only [Act.put, lA, l0, lS]
                refine tkA (i := 4) (oi := ⟨some 188, .indexAddr 35 (.tmp 7) (.tmp 187), 0, "outright.go:147", #[⟨3, .data⟩], none⟩) ?_
                try simp only [Act.put, lA, l0, lS]
                refine tkA (i := 6) (oi := ⟨some 190, .fieldAddr 31 (.tmp 13) 9, 0, "outright.go:147", #[], none⟩) ?_
                try simp only [Act.put, lA, l0, lS]
                refine tkA (i := 7) (oi := ⟨some 191, .load 2 (.tmp 190), 2, "outright.go:147", #[⟨6, .data⟩], none⟩) ?_
                try simp only [Act.put, lA, l0, lS]
                refine wpAnyH_ready (rs := [5]) (by kernel_rfl) (by simp) ?_
                refine AllReadyH.cons (o := ⟨some 189, .load 2 (.tmp 188), 2, "outright.go:147", #[⟨4, .data⟩], none⟩) rfl (fun K hK => ?_) AllReadyH.nil
                have cz : W2.cell? ⟨gl, wm, none⟩ = some (.int .i64 GL) := by rw [← HGL.out]; exact (hIW.1.leftw (!es) HW.out.2 0).1.1
                go_simp
                go_wp2_with fail
                refine hK.out _ _ (hS48.out _ hIW.2) (fun hHeld => ?_)
                clear hK K cz
                try simp only [Act.put, lA, l0, lS]
                refine tkA (i := 8) (oi := ⟨some 192, .binOp .add 2 (.tmp 189) (.tmp 191) 2, 2, "outright.go:147", #[⟨5, .data⟩, ⟨7, .data⟩], none⟩) ?_
                try simp only [Act.put, lA, l0, lS]
                refine tkA (i := 9) (oi := ⟨some 193, .indexAddr 35 (.tmp 7) (.tmp 185), 0, "outright.go:147", #[⟨1, .data⟩, ⟨0, .phase⟩, ⟨1, .phase⟩, ⟨2, .phase⟩, ⟨3, .phase⟩, ⟨4, .phase⟩, ⟨5, .phase⟩, ⟨6, .phase⟩, ⟨7, .phase⟩, ⟨8, .phase⟩], none⟩) ?_
                try simp only [Act.put, lA, l0, lS]
                refine wpAnyH_ready (rs := [10]) (by kernel_rfl) (by simp) ?_
                refine AllReadyH.cons (o := ⟨none, .store 2 (.tmp 193) (.tmp 192), 0, "outright.go:147", #[⟨9, .data⟩, ⟨8, .data⟩, ⟨0, .phase⟩, ⟨1, .phase⟩, ⟨2, .phase⟩, ⟨3, .phase⟩, ⟨4, .phase⟩, ⟨5, .phase⟩, ⟨6, .phase⟩, ⟨7, .phase⟩, ⟨8, .phase⟩], none⟩) rfl (fun K hK => ?_) AllReadyH.nil
                obtain ⟨W2x, hV0⟩ : ∃ V, W2.setCell ⟨gl, wm, none⟩ (.int .i64 LX) = V := ⟨_, rfl⟩
                have fz : W2.frozen? ⟨gl, wm, none⟩ = false := (hIW.1.leftw (!es) HW.out.2 LX).1.2.1
                have lz : W2.cell? ⟨gl, wm, none⟩ = some (.int .i64 GL) := by rw [← HGL.out]; exact (hIW.1.leftw (!es) HW.out.2 LX).1.1
                have hW2x : Rm w W2x gl (gl + 1) sv (.slice wb wl wk) pl { g with left := fun t => if t = (!es) then LX else g.left t } j ∧ W2x.heap[q]? = some (.cells #[.int .i64 ey, .int .i64 el, .int .i64 et, .string ed, .int .i64 ep, .int .i64 ee, .bool eX, .int .i64 ew, .int .i64 ec, .int .i64 eL, .slice pb pn pc] 31 (0, 0)) := by
                  rw [← hV0]
                  exact ⟨(hIW.1.leftw (!es) HW.out.2 LX).2, (setCell_other _ _ _ _ _ (ty_ne hIW.2 hIW.1.lb (by decide))).trans hIW.2⟩
                go_simp
                go_wp2_with fail
                try rw [hV0]
                refine hK.out _ _ (hS48.out _ hW2x.2) (fun hHeld => ?_)
                clear hK K hV0 fz lz
                try simp only [Act.put, lA, l0, lS]
                refine wpAnyH_done (by kernel_rfl) ?_ _
                have HE := hid (HEND.out _ hW2x.1)
                clear hHeld hW2x
                go_wp2_with fail
                go_roundw
                case rel => exact ⟨j + 1, _, _, wb, wl, wk, hjl, by first | rfl | (rw [hjw]) | simp, rfl, rfl, rfl, HE.out⟩
                case measure => simp [intOf]; omega
              · have hzb : (et == 0) = false := by simp [hz]
                have s3 := s2 hz
                subst s3
                have HE := hid (by
                  have h := HFIN.out _ wb wl wk _ _ (HJ2.out.1.more (by omega)) HG.out.2.2
                  have h2 := HG.out
                  simp only [h2.1, h2.2.1] at h
                  exact h)
                clear s1 s2 hz HST HFIN
                clear t0 t3 t4 t5 t8
                go_wp2_with fail
                go_roundw
                case rel => exact ⟨j + 1, _, _, wb, wl, wk, hjl, by first | rfl | (rw [hjw]) | simp, rfl, rfl, rfl, HE.out⟩
                case measure => simp [intOf]; omega
          have hg := Rg.step_x HST.out ⟨t0, t3, t4, t5, t8⟩
          subst hg
          have b0 : (ey == 0) = false := by simp [t0]
          have b3 : (ey == 3) = false := by simp [t3]
          have b4 : (ey == 4) = false := by simp [t4]
          have b5 : (ey == 5) = false := by simp [t5]
          have b8 : (ey == 8) = false := by simp [t8]
          have HE := hid (by
            have h := HFIN.out _ wb wl wk _ _ (HJ2.out.1.more (by omega)) HG.out.2.2
            have h2 := HG.out
            simp only [h2.1, h2.2.1] at h
            exact h)
          clear t0 t3 t4 t5 t8 HST HFIN
          go_wp2_with fail
          go_roundw
          case rel => exact ⟨j + 1, _, _, wb, wl, wk, hjl, by first | rfl | (rw [hjw]) | simp, rfl, rfl, rfl, HE.out⟩
          case measure => simp [intOf]; omega
      · have hnlt : ¬ (j : Int) < (t : Int) := by omega
        have HBB := hid HI.out.bel
        go_wp2_with fail
        go_ret
        exact ⟨rfl, HBB.out⟩
end Go.Proofs.YtfmljlflnpmceaaGreatDoor
