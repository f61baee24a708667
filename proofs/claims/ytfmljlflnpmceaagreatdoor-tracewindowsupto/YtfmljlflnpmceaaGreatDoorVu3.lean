import Derived.Test.YtfmljlflnpmceaaGreatDoorVz1
import Derived.Test.YtfmljlflnpmceaaGreatDoorVzn
/- Two ends of one log: P24.3, plain. -/
namespace Go.Proofs.YtfmljlflnpmceaaGreatDoor
open Go.RowKit
set_option linter.unusedVariables false
set_option linter.unusedSimpArgs false
set_option linter.unnecessarySimpa false
theorem chk_cons1 (k : Lk) (e : Et) (r : List Et) (i : Nat) : chk k (e :: r) i = if (k.take e).2 = 0 then chk (k.take e).1 r (i + 1) else ((i : Int), (k.take e).2) := rfl
theorem Lk.upd_wy (k : Lk) (s : Bool) (f : Wy → Wy) (t : Bool) : (k.upd s f).wy t = if t = s then f (k.wy t) else k.wy t := rfl
/-- what an event leaves -/
def Lk.hap (k : Lk) (s : Bool) (id kd : Int) : Lk :=
  if (k.T.st id == 0 && !((k.T.doo id (!s) kd).1.st id == 0)) = true then (Lk.mk (k.T.doo id (!s) kd).1 k.wy).bear id else Lk.mk (k.T.doo id (!s) kd).1 k.wy
theorem happen_bad {k : Lk} {s : Bool} {id kd : Int} (h : (k.T.doo id (!s) kd).2.1 = 4) : k.happen s id kd = (k.hap s id kd, 1, false) := by
  unfold Lk.happen Lk.hap
  simp only
  rw [if_pos h]
theorem happen_ok {k : Lk} {s : Bool} {id kd : Int} (h : (k.T.doo id (!s) kd).2.1 ≠ 4) : k.happen s id kd = (k.hap s id kd, (k.T.doo id (!s) kd).2.2, (k.T.doo id (!s) kd).2.1 == 1) := by
  unfold Lk.happen Lk.hap
  simp only
  rw [if_neg h]
def Et.flip (e : Et) : Et := { e with s := !e.s }
/-- what is kept of both ways: resets, what went, blocks, settings and windows but for those of streams -/
structure Kp (k k' : Lk) : Prop where
  rs : ∀ t, (k'.wy t).rs = (k.wy t).rs
  bk : ∀ t, (k'.wy t).bk = (k.wy t).bk
  ac : ∀ t, (k'.wy t).ac = (k.wy t).ac
  wt : ∀ t, (k'.wy t).wt = (k.wy t).wt
  rm : ∀ t, (k'.wy t).rm = (k.wy t).rm
  cl : ∀ t, (k'.wy t).cl = (k.wy t).cl
  ga : ∀ t, (k'.wy t).ga = (k.wy t).ga
theorem Kp.refl (k : Lk) : Kp k k := ⟨fun _ => rfl, fun _ => rfl, fun _ => rfl, fun _ => rfl, fun _ => rfl, fun _ => rfl, fun _ => rfl⟩
theorem hap_kp (k : Lk) (s : Bool) (id kd : Int) : Kp k (k.hap s id kd) := by
  unfold Lk.hap
  split <;> exact ⟨fun _ => rfl, fun _ => rfl, fun _ => rfl, fun _ => rfl, fun _ => rfl, fun _ => rfl, fun _ => rfl⟩
theorem happen_hap (k : Lk) (s : Bool) (id kd : Int) : (k.happen s id kd).1 = k.hap s id kd := by
  by_cases h4 : (k.T.doo id (!s) kd).2.1 = 4
  · rw [happen_bad h4]
  · rw [happen_ok h4]
theorem happen_kp (k : Lk) (s : Bool) (id kd : Int) : Kp k (k.happen s id kd).1 := by
  rw [happen_hap]; exact hap_kp k s id kd
/-- the resets -/
def Rs (k k' : Lk) : Prop := ∀ t, (k'.wy t).rs = (k.wy t).rs
theorem Rs.refl (k : Lk) : Rs k k := fun _ => rfl
theorem Rs.upd {k k' : Lk} (h : Rs k k') (s : Bool) (f : Wy → Wy) (hf : ∀ w, (f w).rs = w.rs) : Rs k (k'.upd s f) := fun t => by
  rw [Lk.upd_wy]
  split
  · rw [hf]; exact h t
  · exact h t
theorem Rs.hap (k : Lk) (s : Bool) (id kd : Int) : Rs k (k.happen s id kd).1 := (happen_kp k s id kd).rs
theorem Rs.block {k k' : Lk} (h : Rs k k') (e : Et) : Rs k (k'.block e) := by
  unfold Lk.block
  split
  · exact h
  · exact h.upd e.s _ fun w => by rfl
theorem Rs.takeC {k k' : Lk} (h : Rs k k') (s : Bool) (n : Int) : Rs k (k'.takeC s n).1 := h.upd s (fun w => { w with rm := tkN w.rm n }) fun w => rfl
theorem Rs.takeS {k k' : Lk} (h : Rs k k') (s : Bool) (id n : Int) : Rs k (k'.takeS s id n).1 := h.upd s (fun w => { w with rw := putm w.rw id (tkN ((look (k'.wy s).rw id).getD 0) n) }) fun w => rfl
theorem Rs.trans {a b c : Lk} (h : Rs a b) (g : Rs b c) : Rs a c := fun t => (g t).trans (h t)
end Go.Proofs.YtfmljlflnpmceaaGreatDoor
/- What a frame that may be written says of its stream; in, late. -/
namespace Go.Proofs.YtfmljlflnpmceaaGreatDoor
open Go.RowKit
set_option linter.unusedVariables false
set_option linter.unusedSimpArgs false
end Go.Proofs.YtfmljlflnpmceaaGreatDoor
/- TraceTurned, walked. -/
namespace Go.Proofs.YtfmljlflnpmceaaGreatDoor
open Go.RowKit
set_option linter.unusedVariables false
set_option linter.unusedSimpArgs false
theorem El.cs_set {α : Type} {E : El α} (ok : E.Ok) (l : List α) (j i : Nat) (hj : j < l.length) (hi : i < E.sz) (u : Value) (x : α) (hx : E.enc x = (E.enc l[j]).set i u) : E.cs (l.set j x) = (E.cs l).set (j * E.sz + i) u := by
  induction l generalizing j with
  | nil => exact absurd hj (by simp)
  | cons a r ih =>
    cases j with
    | zero =>
      simp only [El.cs, List.set_cons_zero, List.flatMap_cons, Nat.zero_mul, Nat.zero_add]
      rw [hx, List.set_append_left _ _ (by rw [ok.len]; exact hi)]
      rfl
    | succ j =>
      have := ih j (by simpa using hj) hx
      simp only [El.cs, List.set_cons_succ, List.flatMap_cons] at this ⊢
      rw [this, List.set_append_right _ _ (by rw [ok.len, Nat.succ_mul]; omega), ok.len, show (j + 1) * E.sz + i - E.sz = j * E.sz + i by rw [Nat.succ_mul]; omega]
theorem R.setc {α : Type} {E : El α} (ok : E.Ok) {w : World} {v : Value} {l : List α} (h : R E w v l) (j i : Nat) (hj : j < l.length) (hi : i < E.sz) : ∃ g cap, v = .slice (some ⟨g, 0, none⟩) l.length cap ∧ l.length ≤ cap ∧ cap ≤ 9223372036854775807 ∧ g < w.heap.size ∧ v.ownBlock = some g ∧
    (∀ i' u', (E.enc l[j])[i']? = some u' → w.cell? ⟨g, j * E.sz + i', none⟩ = some u') ∧ (∀ o, w.frozen? ⟨g, o, none⟩ = false) ∧
    (∀ u x, E.enc x = (E.enc l[j]).set i u → R E (w.setCell ⟨g, j * E.sz + i, none⟩ u) v (l.set j x)) := by
  obtain ⟨B, off, cap, e, hB, d⟩ := h.isIn.get ok j hj
  obtain ⟨h3, h4⟩ := h
  rcases h4 with ⟨hv, h0⟩ | ⟨g', cap', cur, hv, hb, hg, hn, hm, hs, ht⟩
  · omega
  · rw [hv] at e
    injection e with e1 e2 e3
    injection e1 with e1
    injection e1 with e1 e4
    subst e1
    subst e3
    subst e4
    subst hv
    refine ⟨g', cap', rfl, hn, by unfold maxLen at hm; omega, (Array.getElem?_eq_some_iff.1 hg).1, rfl, fun i' u' hu => by have := d i' u' hu; rw [Nat.zero_add] at this; exact this, fun o => by simp [World.frozen?, hg], fun u x hx => ⟨by rw [ok.length], .inr ⟨g', cap', cur.setIfInBounds (j * E.sz + i) u, by rw [List.length_set], hb, setCell_block _ _ _ _ _ _ _ hg, by rw [List.length_set]; exact hn, hm, by simp [hs], ?_⟩⟩⟩
    rw [List.length_set, El.cs_set ok l j i hj hi u x hx, ← ht]
    simp only [Array.toList_setIfInBounds, List.take_set]
def Ec.flip (x : Ec) : Ec := { x with e := x.e.flip }
theorem EOk.flip {w : World} {e : Et} {p : Value} (h : EOk w e p) : EOk w e.flip p := ⟨h.st, h.la, h.dz, h.pin, h.inn, h.sz, h.fn⟩
/-- j entries are turned about -/
def Tl (j : Nat) (zs : List Ec) : List Ec := (zs.take j).map Ec.flip ++ zs.drop j
theorem Tl.len (j : Nat) (zs : List Ec) : (Tl j zs).length = zs.length := by
  unfold Tl
  simp
  omega
theorem Tl.get {j : Nat} {zs : List Ec} (h : j < zs.length) : (Tl j zs)[j]'(by rw [Tl.len]; exact h) = zs[j] := by
  unfold Tl
  rw [List.getElem_append_right (by simp; omega)]
  simp
  congr 1
  omega
theorem Tl.set {j : Nat} {zs : List Ec} (h : j < zs.length) : (Tl j zs).set j zs[j].flip = Tl (j + 1) zs := by
  unfold Tl
  rw [List.set_append_right _ _ (by simp; omega), List.drop_eq_getElem_cons h]
  have : j - ((zs.take j).map Ec.flip).length = 0 := by simp; omega
  rw [this, List.set_cons_zero, List.take_succ_eq_append_getElem h, List.map_append, List.append_assoc]
  rfl
theorem Tl.all (zs : List Ec) : Tl zs.length zs = zs.map Ec.flip := by unfold Tl; simp
/-- within the loop -/
def Fj (w wr : World) (v : Value) (zs : List Ec) (j : Nat) : Prop := R EE wr v (Tl j zs) ∧ (∀ z ∈ zs, R EP wr z.p z.e.ps) ∧ (∀ k, v.ownBlock = some k → w.heap.size ≤ k) ∧ Below w.heap.size w wr
theorem Fj.step {w wr : World} {b : Option Addr} {n c : Nat} {zs : List Ec} {j : Nat} (h : Fj w wr (.slice b n c) zs j) (hj : j < zs.length) : ∃ g, b = some ⟨g, 0, none⟩ ∧ wr.cell? ⟨g, j * 12, none⟩ = some (.bool zs[j].e.s) ∧ wr.frozen? ⟨g, j * 12, none⟩ = false ∧ g < wr.heap.size ∧ Fj w (wr.setCell ⟨g, j * 12, none⟩ (.bool (!zs[j].e.s))) (.slice b n c) zs (j + 1) := by
  obtain ⟨h1, h2, h3, h4⟩ := h
  obtain ⟨g, cap, a1, a2, a3, a4, a5, a6, a7, a8⟩ := R.setc okEE h1 j 0 (by rw [Tl.len]; exact hj) (by decide)
  rw [Tl.get hj] at a6 a8
  obtain ⟨cc, hg⟩ := h1.ty g a5
  injection a1 with b1 b2 b3
  have r := a8 (.bool (!zs[j].e.s)) zs[j].flip rfl
  rw [Tl.set hj] at r
  refine ⟨g, b1, a6 0 _ rfl, a7 _, a4, r, fun z hz => (h2 z hz).stays fun k hk hl => setCell_other _ _ _ _ _ fun e => ?_, h3, h4.trans ((Ks.setCell (fun i => i = g) wr g (j * 12) _ rfl).below h4.size (fun i hi e => ?_))⟩
  · subst e
    obtain ⟨c', hc'⟩ := (h2 z hz).ty k hk
    exact ty_ne hg hc' (by decide) rfl
  · have := h3 g a5
    omega
end Go.Proofs.YtfmljlflnpmceaaGreatDoor
/- The windows of one stream: P24.4 at the limits, plain. -/
namespace Go.Proofs.YtfmljlflnpmceaaGreatDoor
open Go.RowKit
set_option linter.unusedVariables false
set_option linter.unusedSimpArgs false
set_option linter.unnecessarySimpa false
theorem Lk.ext2 {k k' : Lk} (hT : k.T = k'.T) (h : ∀ s, k.wy s = k'.wy s) : k = k' := by
  obtain ⟨T, f⟩ := k
  obtain ⟨T', f'⟩ := k'
  simp only at hT
  subst hT
  rw [show f = f' from funext h]
/-- behind an opening and the head of a request: a, b: what is left of the client's windows, of the connection and of stream 1 -/
def wT (a b : Int) : Wy := ⟨true, false, 0, 0, [], [], false, St.dfl, [], a, [(1, b)]⟩
def wF : Wy := ⟨true, false, 0, 0, [], [], true, St.dfl, [], 65535, [(1, 65535)]⟩
def Kw (a b : Int) : Lk := ⟨⟨true, 1, 0, [(1, 3)]⟩, fun s => if s then wT a b else wF⟩
/-- the frames -/
def frT (ty fl st : Int) (d : ByteArray) (pad last : Int) : Fm.Fr := ⟨ty, fl, st, d, pad, 0, false, 0, 0, last⟩
def seE (s : Bool) (fl : Int) : Et := ⟨s, frT 4 fl 0 ⟨#[]⟩ 0 0, [], some 9⟩
def heE : Et := ⟨true, frT 1 4 1 ⟨#[104]⟩ 0 0, [], some 10⟩
def daE (d : ByteArray) : Et := ⟨true, frT 0 0 1 d 0 0, [], some (9 + d.size)⟩
def paE (d : ByteArray) (pad : Int) : Et := ⟨true, frT 0 8 1 d pad 0, [], some (10 + d.size + pad.toNat)⟩
def upE (st n : Int) : Et := ⟨false, frT 8 0 st ⟨#[]⟩ 0 n, [], some 13⟩
def opL : List Et := [seE true 0, seE false 0, seE true 1, seE false 1]
theorem open_head (r : List Et) : checkS (opL ++ heE :: r) true = chk (Kw 65535 65535) r 5 := by
  have h1 : (Lk.new true).take (seE true 0) = (((Lk.new true).take (seE true 0)).1, 0) := rfl
  have e : ∀ (k k' : Lk) (e : Et) (r : List Et) (i : Nat), (k.take e).2 = 0 → (k.take e).1 = k' → chk k (e :: r) i = chk k' r (i + 1) := fun k k' e r i h0 h1 => by rw [chk_cons1, if_pos h0, h1]
  unfold checkS opL
  simp only [List.cons_append, List.nil_append]
  rw [e _ _ _ _ _ rfl rfl, e _ _ _ _ _ rfl rfl, e _ _ _ _ _ rfl rfl, e _ _ _ _ _ rfl rfl]
  refine e _ _ _ _ _ rfl ?_
  refine Lk.ext2 rfl fun s => ?_
  cases s <;> rfl
/-- DATA: what becomes of it -/
theorem data_take (a b : Int) (e : Et) (n : Int) (h1 : e.s = true) (h2 : e.f.ty = 0) (h3 : e.f.st = 1) (h4 : e.has 1 = false) (h5 : e.size = n) (h6 : ∃ m : Nat, e.n = some m ∧ m ≤ 16393) :
    (Kw a b).take e = if tk a n = true then (Kw (a - n) (tkN b n), if tk b n = true then 0 else 3) else (Kw a b, 3) := by
  obtain ⟨m, hm, hm2⟩ := h6
  have hf : (Kw a b).form e = 0 := by
    unfold Lk.form
    rw [hm, h1]
    simp only [Option.elim_some]
    rw [if_neg (by omega), if_neg]
    show ¬ (16384 : Int) < (m : Int) - 9
    omega
  have he : (Kw a b).early e = false := by unfold Lk.early; rw [h1]; rfl
  have ha : (Kw a b).astray e = false := by unfold Lk.astray; rw [h2, h1]; rfl
  have hl : (Kw a b).late e = false := by unfold Lk.late; rw [h2, h1, h3]; rfl
  have ht : (Kw a b).take e = ((Kw a b).upd e.s fun w => { w with bg := true }).byType e := by
    unfold Lk.take
    rw [if_neg (by show ¬ false = true; decide), if_neg (by rw [hf]; simp), if_neg (by rw [he, ha]; simp), if_neg (by rw [hl]; simp)]
  have hu : ((Kw a b).upd e.s fun w => { w with bg := true }) = Kw a b := by
    rw [h1]
    exact Lk.ext2 rfl fun s => by cases s <;> rfl
  rw [ht, hu]
  have hb : (Kw a b).byType e = (Kw a b).sendData e := by
    unfold Lk.byType
    rw [h2, h1]
    rfl
  rw [hb]
  have hk : e.kind 3 4 = 3 := by unfold Et.kind; rw [h4]; rfl
  have hh : (Kw a b).happen e.s e.f.st (e.kind 3 4) = (Kw a b, 0, false) := by
    rw [h1, h3, hk]
    unfold Lk.happen
    refine Prod.ext (Lk.ext2 rfl fun s => ?_) rfl
    cases s <;> rfl
  unfold Lk.sendData
  simp only [hh, h5]
  rw [if_neg (by simp), h1, h3]
  by_cases hc : tk a n = true
  · rw [if_pos hc]
    have hc2 : ((Kw a b).takeC true n).2 = true := hc
    rw [if_neg (by rw [hc2]; simp)]
    refine Prod.ext (Lk.ext2 rfl fun s => ?_) rfl
    cases s
    · rfl
    · show ({ wT (tkN a n) b with rw := putm [(1, b)] 1 (tkN b n) } : Wy) = wT (a - n) (tkN b n)
      have : tkN a n = a - n := by unfold tkN; rw [if_pos hc]
      rw [this]
      rfl
  · rw [if_neg hc]
    have hc2 : ((Kw a b).takeC true n).2 = false := by show tk a n = false; simpa using hc
    rw [if_pos hc2]
    refine Prod.ext (Lk.ext2 rfl fun s => ?_) rfl
    cases s
    · rfl
    · show ({ wT a b with rm := tkN a n } : Wy) = wT a b
      have : tkN a n = a := by unfold tkN; rw [if_neg hc]
      rw [this]
      rfl
/-- WINDOW_UPDATE of the connection, and of the stream -/
theorem upd_conn (a b n : Int) (h1 : 1 ≤ n) (h2 : 0 ≤ a ∧ a + n ≤ 2147483647) : (Kw a b).take (upE 0 n) = (Kw (a + n) b, 0) := by
  have hg : gvN a n = a + n ∧ gvC a n = 0 := by
    have : sf a n = true := by unfold sf; simp; omega
    have hn : ¬ n < 1 := by omega
    unfold gvN gvC sfN sfC
    simp only [if_neg hn, if_pos this]
    exact ⟨trivial, trivial⟩
  have ht : (Kw a b).take (upE 0 n) = (Kw a b).update (upE 0 n) := by
    have hu : ((Kw a b).upd false fun w => { w with bg := true }) = Kw a b := Lk.ext2 rfl fun s => by cases s <;> rfl
    show (((Kw a b).upd false fun w => { w with bg := true }).byType (upE 0 n)) = _
    rw [hu]
    rfl
  rw [ht]
  unfold Lk.update
  rw [if_neg (by show ¬ n = 0; omega), if_pos (by rfl)]
  refine Prod.ext (Lk.ext2 rfl fun s => ?_) hg.2
  cases s
  · rfl
  · show ({ wT a b with rm := gvN a n } : Wy) = wT (a + n) b
    rw [hg.1]
    rfl
theorem upd_str (a b n : Int) (h1 : 1 ≤ n) (h2 : 0 ≤ b ∧ b + n ≤ 2147483647) : (Kw a b).take (upE 1 n) = (Kw a (b + n), 0) := by
  have hg : gvN b n = b + n ∧ gvC b n = 0 := by
    have : sf b n = true := by unfold sf; simp; omega
    have hn : ¬ n < 1 := by omega
    unfold gvN gvC sfN sfC
    simp only [if_neg hn, if_pos this]
    exact ⟨trivial, trivial⟩
  have ht : (Kw a b).take (upE 1 n) = (Kw a b).update (upE 1 n) := by
    have hu : ((Kw a b).upd false fun w => { w with bg := true }) = Kw a b := Lk.ext2 rfl fun s => by cases s <;> rfl
    show (((Kw a b).upd false fun w => { w with bg := true }).byType (upE 1 n)) = _
    rw [hu]
    rfl
  rw [ht]
  have hh : (Kw a b).happen false 1 7 = (Kw a b, 0, false) := by
    unfold Lk.happen
    refine Prod.ext (Lk.ext2 rfl fun s => ?_) rfl
    cases s <;> rfl
  unfold Lk.update
  rw [if_neg (by show ¬ n = 0; omega), if_neg (by show ¬ (1 : Int) = 0; decide), if_neg (by show ¬ (false && _) = true; simp)]
  have hh' : (Kw a b).happen (upE 1 n).s (upE 1 n).f.st 7 = (Kw a b, 0, false) := hh
  simp only [hh']
  rw [if_neg (by simp), if_neg (by simp)]
  have hlk : (look ((Kw a b).wy (!(upE 1 n).s)).rw (upE 1 n).f.st).getD 0 = b := rfl
  rw [hlk]
  refine Prod.ext (Lk.ext2 rfl fun s => ?_) hg.2
  cases s
  · rfl
  · show ({ wT a b with rw := putm [(1, b)] 1 (gvN b n) } : Wy) = wT a (b + n)
    rw [hg.1]
    rfl

/-- the other end's look -/
def Kv (a b : Int) : Lk := ⟨⟨false, 0, 1, [(1, 3)]⟩, fun s => if s then wF else wT a b⟩
theorem open_head_v (r : List Et) : checkS ((opL ++ [heE]).map Et.flip ++ r) false = chk (Kv 65535 65535) r 5 := by
  have e : ∀ (k k' : Lk) (e : Et) (r : List Et) (i : Nat), (k.take e).2 = 0 → (k.take e).1 = k' → chk k (e :: r) i = chk k' r (i + 1) := fun k k' e r i h0 h1 => by rw [chk_cons1, if_pos h0, h1]
  unfold checkS opL
  simp only [List.cons_append, List.nil_append, List.map_cons, List.map_nil]
  rw [e _ _ _ _ _ rfl rfl, e _ _ _ _ _ rfl rfl, e _ _ _ _ _ rfl rfl, e _ _ _ _ _ rfl rfl]
  refine e _ _ _ _ _ rfl ?_
  refine Lk.ext2 rfl fun s => ?_
  cases s <;> rfl
theorem data_take_v (a b : Int) (e : Et) (n : Int) (h1 : e.s = false) (h2 : e.f.ty = 0) (h3 : e.f.st = 1) (h4 : e.has 1 = false) (h5 : e.size = n) (h6 : ∃ m : Nat, e.n = some m ∧ m ≤ 16393) :
    (tk a n = true → tk b n = true → (Kv a b).take e = (Kv (a - n) (b - n), 0)) ∧ (tk a n = false → ((Kv a b).take e).2 = 3) := by
  obtain ⟨m, hm, hm2⟩ := h6
  have hf : (Kv a b).form e = 0 := by
    unfold Lk.form
    rw [hm, h1]
    simp only [Option.elim_some]
    rw [if_neg (by omega), if_neg]
    show ¬ (16384 : Int) < (m : Int) - 9
    omega
  have he : (Kv a b).early e = false := by unfold Lk.early; rw [h1]; rfl
  have ha : (Kv a b).astray e = false := by unfold Lk.astray; rw [h2, h1]; rfl
  have hl : (Kv a b).late e = false := by unfold Lk.late; rw [h2, h1, h3]; rfl
  have ht : (Kv a b).take e = ((Kv a b).upd e.s fun w => { w with bg := true }).byType e := by
    unfold Lk.take
    rw [if_neg (by show ¬ false = true; decide), if_neg (by rw [hf]; simp), if_neg (by rw [he, ha]; simp), if_neg (by rw [hl]; simp)]
  have hu : ((Kv a b).upd e.s fun w => { w with bg := true }) = Kv a b := by
    rw [h1]
    exact Lk.ext2 rfl fun s => by cases s <;> rfl
  rw [ht, hu]
  have hb : (Kv a b).byType e = (Kv a b).getData e := by
    unfold Lk.byType
    rw [h2, h1]
    rfl
  rw [hb]
  have hk : e.kind 3 4 = 3 := by unfold Et.kind; rw [h4]; rfl
  refine ⟨fun hc hd => ?_, fun hc => ?_⟩
  · have hc3 : ((Kv a b).takeC false n).1 = Kv (a - n) b := by
      refine Lk.ext2 rfl fun s => ?_
      cases s
      · show ({ wT a b with rm := tkN a n } : Wy) = wT (a - n) b
        have : tkN a n = a - n := by unfold tkN; rw [if_pos hc]
        rw [this]
        rfl
      · rfl
    have hc2 : ((Kv a b).takeC false n).2 = true := hc
    have hh : (Kv (a - n) b).happen false 1 3 = (Kv (a - n) b, 0, false) := by
      unfold Lk.happen
      refine Prod.ext (Lk.ext2 rfl fun s => ?_) rfl
      cases s <;> rfl
    unfold Lk.getData
    simp only [h1, h3, hk, h5, hc3, hc2, hh]
    rw [if_neg (by decide), if_neg (by simp), if_neg (by decide)]
    refine Prod.ext (Lk.ext2 rfl fun s => ?_) ?_
    · cases s
      · show ({ wT (a - n) b with rw := putm [(1, b)] 1 (tkN b n) } : Wy) = wT (a - n) (b - n)
        have : tkN b n = b - n := by unfold tkN; rw [if_pos hd]
        rw [this]
        rfl
      · rfl
    · show (if tk b n = true then (0 : Int) else 3) = 0
      rw [if_pos hd]
  · have hc2 : ((Kv a b).takeC false n).2 = false := hc
    unfold Lk.getData
    simp only [h1, h5, hc2]
    rfl
def sumD (l : List ByteArray) : Int := (l.map fun d => (d.size : Int)).sum
theorem sumD_nn : ∀ l : List ByteArray, 0 ≤ sumD l
  | [] => Int.le_refl _
  | d :: l => by
    have := sumD_nn l
    unfold sumD at this ⊢
    simp only [List.map_cons, List.sum_cons]
    omega
theorem daE_facts (d : ByteArray) : (daE d).s = true ∧ (daE d).f.ty = 0 ∧ (daE d).f.st = 1 ∧ (daE d).has 1 = false ∧ (daE d).size = (d.size : Int) := by
  refine ⟨rfl, rfl, rfl, by show Fm.hasF 0 1 = false; decide, ?_⟩
  unfold Et.size
  rw [if_neg (by show ¬ Fm.hasF 0 8 = true; decide)]
  rfl
theorem tk_ok {a n : Int} (h0 : 0 ≤ n) (h : n ≤ a) : tk a n = true := by unfold tk; simp; omega
theorem tk_no {a n : Int} (h0 : 0 ≤ a) (h : a < n) : tk a n = false := by unfold tk; simp; omega
theorem data_all : ∀ (l : List ByteArray) (r : List Et) (a b : Int) (i : Nat), (∀ d ∈ l, d.size ≤ 16384) → sumD l ≤ a → sumD l ≤ b → chk (Kw a b) (l.map daE ++ r) i = chk (Kw (a - sumD l) (b - sumD l)) r (i + l.length)
  | [], r, a, b, i, _, _, _ => by simp [sumD]
  | d :: l, r, a, b, i, h, ha, hb => by
    have e : sumD (d :: l) = (d.size : Int) + sumD l := by unfold sumD; simp
    have hn := sumD_nn l
    rw [e] at ha hb ⊢
    obtain ⟨f1, f2, f3, f4, f5⟩ := daE_facts d
    have hd := h d List.mem_cons_self
    have ht := data_take a b (daE d) d.size f1 f2 f3 f4 f5 ⟨9 + d.size, rfl, by omega⟩
    have t1 : tk a d.size = true := tk_ok (by omega) (by omega)
    have t2 : tk b d.size = true := tk_ok (by omega) (by omega)
    have t3 : tkN b d.size = b - d.size := by unfold tkN; rw [if_pos t2]
    rw [if_pos t1, if_pos t2, t3] at ht
    rw [List.map_cons, List.cons_append, chk_cons1, ht]
    simp only [if_true]
    rw [data_all l r _ _ (i + 1) (fun x hx => h x (List.mem_cons_of_mem _ hx)) (by omega) (by omega)]
    have e1 : a - (d.size : Int) - sumD l = a - ((d.size : Int) + sumD l) := by omega
    have e2 : b - (d.size : Int) - sumD l = b - ((d.size : Int) + sumD l) := by omega
    rw [e1, e2, List.length_cons, Nat.add_right_comm i 1, Nat.add_assoc]
theorem data_all_v : ∀ (l : List ByteArray) (r : List Et) (a b : Int) (i : Nat), (∀ d ∈ l, d.size ≤ 16384) → sumD l ≤ a → sumD l ≤ b → chk (Kv a b) ((l.map daE).map Et.flip ++ r) i = chk (Kv (a - sumD l) (b - sumD l)) r (i + l.length)
  | [], r, a, b, i, _, _, _ => by simp [sumD]
  | d :: l, r, a, b, i, h, ha, hb => by
    have e : sumD (d :: l) = (d.size : Int) + sumD l := by unfold sumD; simp
    have hn := sumD_nn l
    rw [e] at ha hb ⊢
    obtain ⟨f1, f2, f3, f4, f5⟩ := daE_facts d
    have hd := h d List.mem_cons_self
    have ht := (data_take_v a b (daE d).flip d.size rfl f2 f3 f4 f5 ⟨9 + d.size, rfl, by omega⟩).1 (tk_ok (by omega) (by omega)) (tk_ok (by omega) (by omega))
    rw [List.map_cons, List.map_cons, List.cons_append, chk_cons1, ht]
    simp only [if_true]
    rw [data_all_v l r _ _ (i + 1) (fun x hx => h x (List.mem_cons_of_mem _ hx)) (by omega) (by omega)]
    have e1 : a - (d.size : Int) - sumD l = a - ((d.size : Int) + sumD l) := by omega
    have e2 : b - (d.size : Int) - sumD l = b - ((d.size : Int) + sumD l) := by omega
    rw [e1, e2, List.length_cons, Nat.add_right_comm i 1, Nat.add_assoc]
/-- all that TraceWindows asks of Check: l: what went, rest: what is left -/
theorem win_facts (l : List ByteArray) (f o p q : ByteArray) (pad give rest : Int) (hl : ∀ d ∈ l, d.size ≤ 16384) (hs : sumD l + rest = 65535) (hr : 0 ≤ rest ∧ rest ≤ 16383) (hf : (f.size : Int) = rest) (ho : (o.size : Int) = rest + 1) (hpad : 0 ≤ pad ∧ pad ≤ 255) (hp : (p.size : Int) = max 0 (rest - pad)) (hg : 1 ≤ give ∧ give ≤ 16384) (hq : (q.size : Int) = give) :
    checkS (opL ++ heE :: (l.map daE ++ [daE f])) true = (-1, 0) ∧
    checkS (opL ++ heE :: (l.map daE ++ [daE o])) true = (((5 + l.length : Nat) : Int), 3) ∧
    checkS ((opL ++ [heE]).map Et.flip ++ ((l.map daE).map Et.flip ++ [(daE o).flip])) false = (((5 + l.length : Nat) : Int), 3) ∧
    checkS (opL ++ heE :: (l.map daE ++ [paE p pad])) true = (((5 + l.length : Nat) : Int), 3) ∧
    checkS (opL ++ heE :: (l.map daE ++ [daE f, upE 0 give, daE q])) true = (((5 + l.length + 2 : Nat) : Int), 3) ∧
    checkS (opL ++ heE :: (l.map daE ++ [daE f, upE 0 give, upE 1 give, daE q])) true = (-1, 0) := by
  have hn := sumD_nn l
  have hle : sumD l ≤ 65535 := by omega
  have e0 : (65535 : Int) - sumD l = rest := by omega
  have base : ∀ r, checkS (opL ++ heE :: (l.map daE ++ r)) true = chk (Kw rest rest) r (5 + l.length) := fun r => by rw [open_head, data_all l r _ _ 5 hl hle hle, e0]
  have step : ∀ (a b : Int) (d : ByteArray) (r : List Et) (i : Nat), d.size ≤ 16384 → (d.size : Int) ≤ a → (d.size : Int) ≤ b → chk (Kw a b) (daE d :: r) i = chk (Kw (a - d.size) (b - d.size)) r (i + 1) := fun a b d r i h1 h2 h3 => by
    have := data_all [d] r a b i (fun x hx => by rw [List.mem_singleton.1 hx]; exact h1) (by simpa [sumD] using h2) (by simpa [sumD] using h3)
    simpa [sumD] using this
  have stop : ∀ (a b : Int) (e : Et) (n : Int) (r : List Et) (i : Nat), e.s = true → e.f.ty = 0 → e.f.st = 1 → e.has 1 = false → e.size = n → (∃ m : Nat, e.n = some m ∧ m ≤ 16393) → tk a n = false ∨ tk b n = false → chk (Kw a b) (e :: r) i = ((i : Int), 3) := fun a b e n r i h1 h2 h3 h4 h5 h6 h7 => by
    have ht := data_take a b e n h1 h2 h3 h4 h5 h6
    have : ((Kw a b).take e).2 = 3 := by
      rw [ht]
      cases ha : tk a n
      · rfl
      · rcases h7 with h7 | h7
        · rw [ha] at h7; cases h7
        · rw [h7]; rfl
    rw [chk_cons1, this, if_neg (by decide)]
  obtain ⟨o1, o2, o3, o4, o5⟩ := daE_facts o
  obtain ⟨q1, q2, q3, q4, q5⟩ := daE_facts q
  refine ⟨?_, ?_, ?_, ?_, ?_, ?_⟩
  · rw [base, step _ _ _ _ _ (by omega) (by omega) (by omega)]
    rfl
  · rw [base, stop _ _ _ _ _ _ o1 o2 o3 o4 o5 ⟨9 + o.size, rfl, by omega⟩ (.inl (tk_no (by omega) (by omega)))]
  · have ht := (data_take_v rest rest (daE o).flip o.size rfl o2 o3 o4 o5 ⟨9 + o.size, rfl, by omega⟩).2 (tk_no (by omega) (by omega))
    rw [open_head_v, data_all_v l _ _ _ 5 hl hle hle, e0, chk_cons1, ht, if_neg (by decide)]
  · have hsz : (paE p pad).size = (p.size : Int) + (1 + pad) := by
      unfold Et.size
      rw [if_pos (by show Fm.hasF 8 8 = true; decide)]
      rfl
    rw [base, stop _ _ _ _ _ _ rfl rfl rfl (by show Fm.hasF 8 1 = false; decide) hsz ⟨10 + p.size + pad.toNat, rfl, by omega⟩ (.inl (tk_no (by omega) (by omega)))]
  · rw [base, step _ _ _ _ _ (by omega) (by omega) (by omega), chk_cons1, upd_conn _ _ _ hg.1 (by omega)]
    simp only [if_true]
    rw [stop _ _ _ _ _ _ q1 q2 q3 q4 q5 ⟨9 + q.size, rfl, by omega⟩ (.inr (tk_no (by omega) (by omega)))]
  · rw [base, step _ _ _ _ _ (by omega) (by omega) (by omega), chk_cons1, upd_conn _ _ _ hg.1 (by omega)]
    simp only [if_true]
    rw [chk_cons1, upd_str _ _ _ hg.1 (by omega)]
    simp only [if_true]
    rw [step _ _ _ _ _ (by omega) (by omega) (by omega)]
    rfl
end Go.Proofs.YtfmljlflnpmceaaGreatDoor
/- The other end's log: turned. -/
namespace Go.Proofs.YtfmljlflnpmceaaGreatDoor
open Go.RowKit
set_option linter.unusedVariables false
set_option linter.unusedSimpArgs false
set_option maxRecDepth 100000 in
set_option maxHeartbeats 8000000 in
theorem turn_any (xs : List Ec) (v : Value) (w : World) (hv : In EE w v xs) (hp : ∀ x ∈ xs, In EP w x.p x.e.ps ∧ x.e.ps.length ≤ 1099511627776) (hlen : xs.length ≤ 1073741824) :
    Calls Tryz.prog 19 #[v] w fun r w' => ∃ v' zs, r = .returned v' ∧ Fj w w' v' zs zs.length ∧ zs.map (·.e) = xs.map (·.e) := by
  have HOO := hid (own_any xs v w hv hp hlen)
  have HL : Hid (xs.length ≤ 1073741824) := hlen
  clear hv hp hlen
  go_enter Tryz.func19, Tryz.ntmps19
  go_wp2_with fail
  go_at_call 10
  refine HOO.out.mono ?_
  rintro e V5 ⟨v5, zs, rfl, hc5⟩
  have hz5 : zs.map (·.e) = xs.map (·.e) := by
    have := hc5.2.1
    rwa [List.take_length] at this
  obtain ⟨b5, c5, rfl, hk1, hk2⟩ := hc5.1.slice
  obtain ⟨m, hm⟩ : ∃ m, zs.length = m := ⟨_, rfl⟩
  have hm2 : m ≤ 1073741824 := by
    have := congrArg List.length hz5
    simp only [List.length_map] at this
    have := HL.out
    omega
  have HF5 : Hid (Fj w V5 (.slice b5 m c5) zs 0) := by
    rw [← hm]
    exact ⟨by simpa [Tl] using hc5.1, fun z hz => (hc5.2.2.1 z hz).1, hc5.2.2.2.1, hc5.2.2.2.2⟩
  rw [hm] at hk1 ⊢
  have HZ : Hid (zs.map (·.e) = xs.map (·.e) ∧ zs.length = m) := ⟨hz5, hm⟩
  clear hc5 hz5 hm HOO HL
  go_wp2_with fail
  go_loopw [4] (fun i wr => ∃ j : Nat, j ≤ m ∧ i = .int .i64 (j : Int) ∧ Hid (Fj w wr (.slice b5 m c5) zs j)) (fun i _ => m - (intOf i).toNat)
  case atStart => exact ⟨0, Nat.zero_le _, rfl, HF5.out⟩
  case round =>
    obtain ⟨j, hj, rfl, HI⟩ := hrel
    by_cases hlt : j < m
    · obtain ⟨g, hbg, s0, s1, s2, hst⟩ := HI.out.step (by rw [HZ.out.2]; exact hlt)
      obtain ⟨sb, hsb⟩ : ∃ b, (zs[j]'(by rw [HZ.out.2]; exact hlt)).e.s = b := ⟨_, rfl⟩
      rw [hsb] at s0 hst
      have HST := hid hst
      clear hst hsb HI
      subst hbg
      have hlti : (j : Int) < (m : Int) := by omega
      have hjw : wrap64 ((j : Int) + 1) = ((j + 1 : Nat) : Int) := by unfold wrap64; omega
      go_wp2_with fail
      go_roundw
      case rel => exact ⟨j + 1, by omega, by first | rfl | (rw [hjw]) | simp, HST.out⟩
      case measure => simp [intOf]; omega
    · have hnlt : ¬ (j : Int) < (m : Int) := by omega
      obtain rfl : j = m := by omega
      have HE : Hid (∃ v' zs, Value.slice b5 j c5 = v' ∧ Fj w wr v' zs zs.length ∧ zs.map (·.e) = xs.map (·.e)) := ⟨_, zs, rfl, by rw [HZ.out.2]; exact HI.out, HZ.out.1⟩
      go_wp2_with fail
      go_ret
      obtain ⟨_, zs', rfl, h1, h2⟩ := HE.out
      first | exact ⟨_, zs', rfl, h1, h2⟩ | exact ⟨_, ⟨_, rfl⟩, zs', h1, h2⟩ | exact ⟨_, rfl, zs', h1, h2⟩
end Go.Proofs.YtfmljlflnpmceaaGreatDoor
