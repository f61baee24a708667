/- What is well read is what is written. -/
import Derived.Test.YtghppkfopglgaaaGreatDoorKap
namespace Go.Proofs.YtghppkfopglgaaaGreatDoor
open Go.RowKit
set_option linter.unusedVariables false
set_option linter.unusedSimpArgs false
/-- ends of lines bear no text -/
def Ew (l : List Wd) : Prop := ∀ w ∈ l, w.k = 2 → w = eW
structure Inv (r r1 : Rd) (p : List Wd) : Prop where
  bad : r1.bad = false → r.bad = false
  ew : Ew r.l → Ew r1.l
  eq : r1.bad = false → Ew r.l → r.l = p ++ r1.l
theorem Inv.refl (r : Rd) : Inv r r [] := ⟨id, id, fun _ _ => rfl⟩
theorem Inv.trans {r r1 r2 : Rd} {p q : List Wd} (h : Inv r r1 p) (k : Inv r1 r2 q) : Inv r r2 (p ++ q) :=
  ⟨fun e => h.bad (k.bad e), fun e => k.ew (h.ew e), fun e w => by rw [h.eq (k.bad e) w, k.eq e (h.ew w), List.append_assoc]⟩
theorem Inv.cast {r r1 : Rd} {p q : List Wd} (h : Inv r r1 p) (e : p = q) : Inv r r1 q := e ▸ h
theorem Inv.no (r : Rd) (p : List Wd) : Inv r Rd.no p := ⟨fun h => absurd h (by simp [Rd.no]), fun _ w hw => absurd hw (by simp [Rd.no]), fun h => absurd h (by simp [Rd.no])⟩
theorem nx_inv (r : Rd) (k : Nat) : Inv r (r.nx k).2 [⟨k, (r.nx k).1⟩] := by
  obtain ⟨l, b⟩ := r
  cases l with
  | nil => exact Inv.no _ _
  | cons w l =>
    unfold Rd.nx
    simp only
    by_cases h : w.k = k
    · rw [if_pos h]
      refine ⟨id, fun he x hx => he x (List.mem_cons_of_mem _ hx), fun _ _ => ?_⟩
      subst h
      rfl
    · rw [if_neg h]
      exact Inv.no _ _
theorem el_inv (r : Rd) : Inv r r.el [eW] := by
  have h := nx_inv r 2
  refine ⟨h.bad, h.ew, fun e w => ?_⟩
  have h1 := h.eq e w
  have h2 := w ⟨2, (r.nx 2).1⟩ (by rw [h1]; simp) rfl
  rw [h2] at h1
  exact h1
theorem numB_inv {l : List UInt8} (h : numB l = true) : Lib.itoa (numV l) = l := by
  unfold numB at h
  unfold numV
  cases e : Lib.parseIntB 64 l with
  | ok v => rw [e] at h; exact of_decide_eq_true h
  | «syntax» => rw [e] at h; cases h
  | range => rw [e] at h; cases h
theorem nu_inv (r : Rd) : Inv r r.nu.2 [nW r.nu.1] := by
  unfold Rd.nu
  by_cases h : numB (r.nx 0).1.data.toList = true
  · simp only [if_pos h]
    have e : (⟨0, (r.nx 0).1⟩ : Wd) = nW (numV (r.nx 0).1.data.toList) := by
      unfold nW
      rw [numB_inv h, bt_data]
    have := nx_inv r 0
    rw [e] at this
    exact this
  · simp only [if_neg h]
    exact Inv.no _ _
theorem nu_64 (r : Rd) : I64 r.nu.1 := numV_ok _
theorem sk_t (r : Rd) (s : ByteArray) (h : (r.sk s).1 = true) : Inv r (r.sk s).2 [bW s] := by
  obtain ⟨l, b⟩ := r
  cases l with
  | nil => cases h
  | cons w l =>
    unfold Rd.sk at h ⊢
    simp only at h ⊢
    by_cases hw : w.k = 0 ∧ w.t = s
    · rw [if_pos hw]
      refine ⟨id, fun he x hx => he x (List.mem_cons_of_mem _ hx), fun _ _ => ?_⟩
      obtain ⟨k, t⟩ := w
      obtain ⟨rfl, rfl⟩ := hw
      rfl
    · rw [if_neg hw] at h
      cases h
theorem sk_f (r : Rd) (s : ByteArray) (h : (r.sk s).1 = false) : (r.sk s).2 = r := by
  obtain ⟨l, b⟩ := r
  cases l with
  | nil => rfl
  | cons w l =>
    unfold Rd.sk at h ⊢
    simp only at h ⊢
    by_cases hw : w.k = 0 ∧ w.t = s
    · rw [if_pos hw] at h; cases h
    · rw [if_neg hw]
theorem nm_inv (r : Rd) (s : ByteArray) : Inv r (r.nm s) [bW s] := by
  unfold Rd.nm
  by_cases h : (r.sk s).1 = true
  · rw [if_pos h]; exact sk_t r s h
  · rw [if_neg h]; exact Inv.no _ _
theorem si_inv (r : Rd) : Inv r r.si.2 (siW r.si.1) := by
  unfold Rd.si siW
  exact ((((((nu_inv r).trans (nu_inv _)).trans (nu_inv _)).trans (nu_inv _)).trans (nu_inv _)).trans (nu_inv _)).cast rfl
theorem si_ok (r : Rd) : SiOk r.si.1 := ⟨nu_64 _, nu_64 _, nu_64 _, nu_64 _, nu_64 _, nu_64 _⟩
theorem loop_inv {α : Type} {f : Rd → Option (α × Rd)} {g : α → List Wd} (h : ∀ r x r1, f r = some (x, r1) → Inv r r1 (g x)) : ∀ (n : Nat) (r : Rd), Inv r (loopR f n r).2 ((loopR f n r).1.flatMap g)
  | 0, r => Inv.refl r
  | n + 1, r => by
    unfold loopR
    cases e : f r with
    | none => exact Inv.refl r
    | some p => exact (h r p.1 p.2 e).trans (loop_inv h n p.2)
theorem loop_all {α : Type} {f : Rd → Option (α × Rd)} {P : α → Prop} (h : ∀ r x r1, f r = some (x, r1) → P x) : ∀ (n : Nat) (r : Rd), ∀ x ∈ (loopR f n r).1, P x
  | 0, r => fun x hx => absurd hx (by simp [loopR])
  | n + 1, r => by
    unfold loopR
    cases e : f r with
    | none => exact fun x hx => absurd hx (by simp)
    | some p =>
      intro x hx
      rcases List.mem_cons.1 hx with rfl | hx
      · exact h r p.1 p.2 e
      · exact loop_all h n p.2 x hx
theorem fd_inv (r : Rd) (x : Fd) (r1 : Rd) (h : fdR r = some (x, r1)) : Inv r r1 (fdW x) := by
  unfold fdR at h
  by_cases ho : r.ov = true
  · rw [if_pos ho] at h; cases h
  · rw [if_neg ho] at h
    simp only [Option.some.injEq, Prod.mk.injEq] at h
    obtain ⟨rfl, rfl⟩ := h
    unfold fdW
    cases hs : (r.sk ⟨#[110, 101, 118, 101, 114]⟩).1 with
    | true => exact (((sk_t r _ hs).trans (nx_inv _ 1)).trans (nx_inv _ 1)).cast rfl
    | false =>
      rw [sk_f r _ hs]
      exact ((nx_inv r 1).trans (nx_inv _ 1)).cast rfl
theorem ch_inv (r : Rd) (x : Ch) (r1 : Rd) (h : chR r = some (x, r1)) : Inv r r1 (chW x) := by
  unfold chR at h
  by_cases ho : r.ov = true
  · rw [if_pos ho] at h; cases h
  · rw [if_neg ho] at h
    simp only [Option.some.injEq, Prod.mk.injEq] at h
    obtain ⟨rfl, rfl⟩ := h
    exact ((nx_inv r 1).trans (nx_inv _ 1)).cast rfl
theorem tg_inv (r : Rd) : Inv r r.tg.2 (tgW r.tg.1) := ((nx_inv r 1).trans (nx_inv _ 1)).cast rfl
theorem tgR_inv (r : Rd) (x : Tg) (r1 : Rd) (h : tgR r = some (x, r1)) : Inv r r1 (tgW x) := by
  unfold tgR at h
  by_cases ho : r.ov = true
  · rw [if_pos ho] at h; cases h
  · rw [if_neg ho] at h
    have h := Option.some.inj h
    have e1 : x = r.tg.1 := by rw [h]
    have e2 : r1 = r.tg.2 := by rw [h]
    subst e1; subst e2
    exact tg_inv r
theorem rq_inv (r : Rd) : Inv r r.rq.2 (rqW r.rq.1) := by
  unfold Rd.rq rqW
  exact ((((((nx_inv r 1).trans (nx_inv _ 1)).trans (nx_inv _ 1)).trans (nx_inv _ 1)).trans (nx_inv _ 1)).trans (loop_inv fd_inv _ _)).cast rfl
theorem pg_inv (r : Rd) : Inv r r.pg.2 (pgW r.pg.1) := by
  unfold Rd.pg pgW
  exact (((((nx_inv r 1).trans (nx_inv _ 1)).trans (nu_inv _)).trans (nx_inv _ 1)).trans (loop_inv ch_inv _ _)).cast rfl
theorem ru_inv (r : Rd) : Inv r r.ru.2 (ruW r.ru.1) := by
  unfold Rd.ru ruW
  exact ((tg_inv r).trans (loop_inv tgR_inv _ _)).cast rfl
theorem pgR_inv (r : Rd) (x : Pg) (r1 : Rd) (h : pgR r = some (x, r1)) : Inv r r1 (pgF x) := by
  unfold pgR at h
  by_cases hs : (r.sk nPage).1 = true
  · rw [if_pos hs] at h
    simp only [Option.some.injEq, Prod.mk.injEq] at h
    obtain ⟨rfl, rfl⟩ := h
    exact (((sk_t r _ hs).trans (pg_inv _)).trans (el_inv _)).cast rfl
  · rw [if_neg hs] at h; cases h
theorem pgR_ok (r : Rd) (x : Pg) (r1 : Rd) (h : pgR r = some (x, r1)) : PgOk x := by
  unfold pgR at h
  by_cases hs : (r.sk nPage).1 = true
  · rw [if_pos hs] at h
    simp only [Option.some.injEq, Prod.mk.injEq] at h
    obtain ⟨rfl, rfl⟩ := h
    exact nu_64 _
  · rw [if_neg hs] at h; cases h
theorem ruR_inv (r : Rd) (x : Ru) (r1 : Rd) (h : ruR r = some (x, r1)) : Inv r r1 (ruF x) := by
  unfold ruR at h
  by_cases hs : (r.sk nRule).1 = true
  · rw [if_pos hs] at h
    simp only [Option.some.injEq, Prod.mk.injEq] at h
    obtain ⟨rfl, rfl⟩ := h
    exact (((sk_t r _ hs).trans (ru_inv _)).trans (el_inv _)).cast rfl
  · rw [if_neg hs] at h; cases h
theorem ogR_inv (r : Rd) (x : ByteArray) (r1 : Rd) (h : ogR r = some (x, r1)) : Inv r r1 (ogF x) := by
  unfold ogR at h
  by_cases hs : (r.sk nOrigin).1 = true
  · rw [if_pos hs] at h
    simp only [Option.some.injEq, Prod.mk.injEq] at h
    obtain ⟨rfl, rfl⟩ := h
    exact (((sk_t r _ hs).trans (nx_inv _ 1)).trans (el_inv _)).cast rfl
  · rw [if_neg hs] at h; cases h
set_option maxRecDepth 20000 in
theorem wo_inv (r : Rd) : Inv r r.wo.2.el (flW (woW r.wo.1)) := by
  have h := woW_fl r.wo.1 []
  rw [List.append_nil] at h
  rw [h]
  unfold Rd.wo
  exact ((((((((((((((nm_inv r nServer).trans (si_inv _)).trans (el_inv _)).trans (nm_inv _ nClient)).trans (si_inv _)).trans (el_inv _)).trans (nm_inv _ nConf)).trans (nu_inv _)).trans (nu_inv _)).trans (nu_inv _)).trans (nu_inv _)).trans (el_inv _)).trans (loop_inv pgR_inv _ _)).trans ((loop_inv ruR_inv _ _).trans ((loop_inv ogR_inv _ _).trans ((nm_inv _ nEnd).trans (el_inv _))))).cast (by
    simp only [List.append_assoc, List.cons_append, List.nil_append])
theorem wo_ok (r : Rd) : WoOk r.wo.1 := ⟨si_ok _, si_ok _, nu_64 _, nu_64 _, nu_64 _, nu_64 _, loop_all pgR_ok _ _⟩
theorem idx_inv {l : List (List UInt8)} {s : ByteArray} {k : Nat} (h : idxL l s = k) (h0 : k ≠ 0) : bt (l.getD k []) = s ∧ k < l.length ∧ ∀ j, j < k → l.getD j [] ≠ s.data.toList := by
  unfold idxL at h
  cases e : l.findIdx? (fun x => x == s.data.toList) with
  | none => rw [e] at h; exact absurd h.symm h0
  | some i =>
    rw [e] at h
    simp only at h
    subst h
    obtain ⟨h1, h2, h3⟩ := List.findIdx?_eq_some_iff_getElem.1 e
    refine ⟨?_, h1, fun j hj he => ?_⟩
    · have h4 : l[i] = s.data.toList := by simpa using h2
      rw [List.getD_eq_getElem?_getD, List.getElem?_eq_getElem h1, Option.getD_some, h4, bt_data]
    · have := h3 j hj
      rw [List.getD_eq_getElem?_getD, List.getElem?_eq_getElem (by omega), Option.getD_some] at he
      simp [he] at this
theorem kind_inv {s : ByteArray} {k : Nat} (h : kindOf s = k) (h0 : k ≠ 0) : s = kdB k ∧ k ≤ 10 ∧ k ≠ 2 := by
  obtain ⟨h1, h2, h3⟩ := idx_inv h h0
  refine ⟨h1.symm, by simp [kindL] at h2; omega, ?_⟩
  rintro rfl
  have h4 := h3 0 (by omega)
  rw [← h1, bt_toList] at h4
  exact h4 rfl
theorem move_inv {s : ByteArray} {k : Nat} (h : moveOf s = k) (h0 : k ≠ 0) : s = mvB k ∧ k ≤ 10 := by
  obtain ⟨h1, h2, h3⟩ := idx_inv h h0
  exact ⟨h1.symm, by simp [moveL] at h2; omega⟩
/-- what is told well -/
def Fit (c : Cm) : Prop := CmOk c ∧ KOk c ∧ c.cl = c
theorem pg_z : PgOk Pg.z := by show I64 0; unfold I64; omega
theorem si_z : SiOk Si.z := ⟨by show I64 0; unfold I64; omega, by show I64 0; unfold I64; omega, by show I64 0; unfold I64; omega, by show I64 0; unfold I64; omega, by show I64 0; unfold I64; omega, by show I64 0; unfold I64; omega⟩
theorem z64 : I64 0 := by unfold I64; omega
theorem wo_z : WoOk Wo.z := ⟨si_z, si_z, z64, z64, z64, z64, fun p hp => absurd hp (by simp [Wo.z])⟩
theorem mv_z : MvOk Mv.z := ⟨z64, pg_z, si_z⟩
set_option maxRecDepth 8000 in
theorem mv_inv (r : Rd) (s : ByteArray) (k : Nat) (hk : moveOf s = k) (h0 : k ≠ 0) : (r.mv s).1.k = (k : Int) ∧ MvOk (r.mv s).1 ∧ (r.mv s).1.cl = (r.mv s).1 ∧ ∃ p, mvW (r.mv s).1 = bW s :: p ∧ Inv r (r.mv s).2 p := by
  obtain ⟨hs, h10⟩ := move_inv hk h0
  unfold Rd.mv
  rw [hk]
  rcases (show k = 1 ∨ k = 2 ∨ k = 3 ∨ k = 4 ∨ k = 5 ∨ k = 6 ∨ k = 7 ∨ k = 8 ∨ k = 9 ∨ k = 10 by omega) with rfl | rfl | rfl | rfl | rfl | rfl | rfl | rfl | rfl | rfl
  · exact ⟨rfl, mv_z, rfl, _, by rw [hs]; rfl, rq_inv r⟩
  · exact ⟨rfl, ⟨nu_64 _, pg_z, si_z⟩, rfl, _, by rw [hs]; rfl, nu_inv r⟩
  · exact ⟨rfl, ⟨nu_64 _, pg_z, si_z⟩, rfl, _, by rw [hs]; rfl, nu_inv r⟩
  · exact ⟨rfl, ⟨nu_64 _, pg_z, si_z⟩, rfl, _, by rw [hs]; rfl, nu_inv r⟩
  · exact ⟨rfl, ⟨nu_64 _, pg_z, si_z⟩, rfl, _, by rw [hs]; rfl, nu_inv r⟩
  · exact ⟨rfl, ⟨nu_64 _, pg_z, si_z⟩, rfl, _, by rw [hs]; rfl, nu_inv r⟩
  · exact ⟨rfl, ⟨nu_64 _, pg_z, si_z⟩, rfl, _, by rw [hs]; rfl, nu_inv r⟩
  · exact ⟨rfl, ⟨z64, nu_64 _, si_z⟩, rfl, _, by rw [hs]; rfl, pg_inv r⟩
  · exact ⟨rfl, ⟨z64, pg_z, si_ok _⟩, rfl, _, by rw [hs]; rfl, si_inv r⟩
  · exact ⟨rfl, ⟨nu_64 _, pg_z, si_z⟩, rfl, _, by rw [hs]; rfl, ((nu_inv r).trans (nx_inv _ 1)).cast rfl⟩
theorem fl_sg (l : List Wd) : flW [l] = l ++ [eW] := by simp [flW]
set_option maxRecDepth 8000 in
theorem cm_inv (r : Rd) (hb : r.cm.2.bad = false) : Inv r r.cm.2 (flW (cmW r.cm.1)) ∧ Fit r.cm.1 := by
  obtain ⟨k, hk⟩ : ∃ k, kindOf (r.nx 0).1 = k := ⟨_, rfl⟩
  have hx := nx_inv r 0
  by_cases h0 : k = 0
  · subst h0
    obtain ⟨j, hj⟩ : ∃ j, moveOf (r.nx 0).1 = j := ⟨_, rfl⟩
    by_cases hj0 : j = 0
    · subst hj0
      exfalso
      unfold Rd.cm Rd.cm1 at hb
      simp only [hk] at hb
      unfold Rd.mv at hb
      simp only [hj] at hb
      rw [show Rd.no.el = Rd.no from rfl] at hb
      cases hb
    · obtain ⟨m1, m2, m3, p, m4, m5⟩ := mv_inv (r.nx 0).2 _ j hj hj0
      obtain ⟨_, j10⟩ := move_inv hj hj0
      unfold Rd.cm Rd.cm1
      simp only [hk]
      refine ⟨((hx.trans m5).trans (el_inv _)).cast ?_, ⟨wo_z, m2, z64⟩, ⟨by show (1 : Int) ≤ 2; omega, by show (2 : Int) ≤ 10; omega, fun _ => ⟨by show 1 ≤ ((r.nx 0).2.mv (r.nx 0).1).1.k; omega, by show ((r.nx 0).2.mv (r.nx 0).1).1.k ≤ 10; omega⟩⟩, ?_⟩
      · show _ = flW [mvW ((r.nx 0).2.mv (r.nx 0).1).1]
        rw [fl_sg, m4]
        rfl
      · show ({ Cm.of 2 with m := ((r.nx 0).2.mv (r.nx 0).1).1.cl } : Cm) = _
        rw [m3]
  · obtain ⟨hs, h10, h2⟩ := kind_inv hk h0
    have hkk : ∀ i : Int, 1 ≤ i → i ≤ 10 → i ≠ 2 → ∀ c : Cm, c.k = i → KOk c := fun i a b d c e => ⟨by omega, by omega, fun h => absurd (e.symm.trans h) d⟩
    unfold Rd.cm Rd.cm1
    rw [hs] at hx
    rcases (show k = 1 ∨ k = 3 ∨ k = 4 ∨ k = 5 ∨ k = 6 ∨ k = 7 ∨ k = 8 ∨ k = 9 ∨ k = 10 by omega) with rfl | rfl | rfl | rfl | rfl | rfl | rfl | rfl | rfl <;> simp only [hk]
    · refine ⟨((hx.trans (el_inv _)).trans (wo_inv _)).cast ?_, ⟨wo_ok _, mv_z, z64⟩, hkk 1 (by omega) (by omega) (by omega) _ rfl, rfl⟩
      show _ = flW ([bW (kdB 1)] :: woW _)
      rw [show ∀ a : List Wd, ∀ l, flW (a :: l) = (a ++ [eW]) ++ flW l from fun a l => rfl]
      rfl
    · exact ⟨((hx.trans (nu_inv _)).trans (el_inv _)).cast (by show _ = flW [[bW (kdB 3), nW _]]; rw [fl_sg]; rfl), ⟨wo_z, mv_z, nu_64 _⟩, hkk 3 (by omega) (by omega) (by omega) _ rfl, rfl⟩
    · exact ⟨(hx.trans (el_inv _)).cast (by show _ = flW [[bW (kdB 4)]]; rw [fl_sg]; rfl), ⟨wo_z, mv_z, z64⟩, hkk 4 (by omega) (by omega) (by omega) _ rfl, rfl⟩
    · exact ⟨(hx.trans (el_inv _)).cast (by show _ = flW [[bW (kdB 5)]]; rw [fl_sg]; rfl), ⟨wo_z, mv_z, z64⟩, hkk 5 (by omega) (by omega) (by omega) _ rfl, rfl⟩
    · exact ⟨(hx.trans (el_inv _)).cast (by show _ = flW [[bW (kdB 6)]]; rw [fl_sg]; rfl), ⟨wo_z, mv_z, z64⟩, hkk 6 (by omega) (by omega) (by omega) _ rfl, rfl⟩
    · exact ⟨(hx.trans (el_inv _)).cast (by show _ = flW [[bW (kdB 7)]]; rw [fl_sg]; rfl), ⟨wo_z, mv_z, z64⟩, hkk 7 (by omega) (by omega) (by omega) _ rfl, rfl⟩
    · exact ⟨(hx.trans (el_inv _)).cast (by show _ = flW [[bW (kdB 8)]]; rw [fl_sg]; rfl), ⟨wo_z, mv_z, z64⟩, hkk 8 (by omega) (by omega) (by omega) _ rfl, rfl⟩
    · exact ⟨(hx.trans (el_inv _)).cast (by show _ = flW [[bW (kdB 9)]]; rw [fl_sg]; rfl), ⟨wo_z, mv_z, z64⟩, hkk 9 (by omega) (by omega) (by omega) _ rfl, rfl⟩
    · cases hv : ((r.nx 0).2.sk nServer).1 with
      | true => exact ⟨((hx.trans (sk_t _ _ hv)).trans (el_inv _)).cast (by show _ = flW [[bW (kdB 10), bW nServer]]; rw [fl_sg]; rfl), ⟨wo_z, mv_z, z64⟩, hkk 10 (by omega) (by omega) (by omega) _ rfl, rfl⟩
      | false => exact ⟨((hx.trans (nm_inv _ nClient)).trans (el_inv _)).cast (by show _ = flW [[bW (kdB 10), bW nClient]]; rw [fl_sg]; rfl), ⟨wo_z, mv_z, z64⟩, hkk 10 (by omega) (by omega) (by omega) _ rfl, rfl⟩
theorem cms_loop : ∀ (n : Nat) (r : Rd), r.l.length ≤ n → (loopR cmR n r).2.bad = false → Ew r.l → r.bad = false ∧ r.l = flW ((loopR cmR n r).1.flatMap cmW) ∧ ∀ c ∈ (loopR cmR n r).1, Fit c
  | 0, r, hn, hb, hw => ⟨hb, List.eq_nil_of_length_eq_zero (by omega), fun c hc => absurd hc (by simp [loopR])⟩
  | n + 1, r, hn, hb, hw => by
    unfold loopR at hb ⊢
    cases e : cmR r with
    | none =>
      rw [e] at hb
      refine ⟨hb, ?_, fun c hc => absurd hc (by simp)⟩
      unfold cmR at e
      cases hl : r.l with
      | nil => rfl
      | cons a l => rw [hl] at e; cases e
    | some p =>
      rw [e] at hb
      have hp : p = r.cm := by
        unfold cmR at e
        cases hl : r.l with
        | nil => rw [hl] at e; cases e
        | cons a l => rw [hl] at e; exact (Option.some.inj e).symm
      have hlt := cm_shr r p.1 p.2 e
      subst hp
      simp only at hb ⊢
      have hb1 : r.cm.2.bad = false := by
        cases hq : r.cm.2.bad with
        | false => rfl
        | true =>
          have hno : ∀ (n : Nat) (r : Rd), r.bad = true → (loopR cmR n r).2.bad = true := by
            intro n
            induction n with
            | zero => intro r h; exact h
            | succ n ih =>
              intro r h
              unfold loopR
              cases e : cmR r with
              | none => exact h
              | some q =>
                refine ih q.2 ?_
                cases hz : q.2.bad with
                | true => rfl
                | false =>
                  have hq : q = r.cm := by
                    unfold cmR at e
                    cases hl : r.l with
                    | nil => rw [hl] at e; cases e
                    | cons a l => rw [hl] at e; exact (Option.some.inj e).symm
                  subst hq
                  exact absurd ((cm_inv r hz).1.bad hz) (by rw [h]; simp)
          rw [hno n _ hq] at hb
          cases hb
      obtain ⟨hi, hf⟩ := cm_inv r hb1
      obtain ⟨_, k2, k3⟩ := cms_loop n r.cm.2 (by omega) hb (hi.ew hw)
      refine ⟨hi.bad hb1, ?_, fun c hc => ?_⟩
      · rw [List.flatMap_cons, fl_app, hi.eq hb1 hw, k2]
      · rcases List.mem_cons.1 hc with rfl | hc
        · exact hf
        · exact k3 c hc
theorem cms_inv (l : List Wd) (hw : Ew l) (h : (cmsL l).2 = true) : l = flW ((cmsL l).1.flatMap cmW) ∧ ∀ c ∈ (cmsL l).1, Fit c := by
  unfold cmsL at h ⊢
  exact (cms_loop l.length ⟨l, false⟩ (Nat.le_refl _) (by simpa using h) hw).2
theorem fw_k (l : List UInt8) (w : Wd) (r : List UInt8) (h : fw l = some (w, r)) : w.k ≠ 2 := by
  unfold fw at h
  split at h
  · split at h
    · obtain ⟨q, _, e⟩ := Option.map_eq_some_iff.1 h
      rw [← (Prod.mk.inj e).1]
      show (1 : Nat) ≠ 2
      decide
    · rw [← (Prod.mk.inj (Option.some.inj h)).1]
      show (0 : Nat) ≠ 2
      decide
  · rw [← (Prod.mk.inj (Option.some.inj h)).1]
    show (0 : Nat) ≠ 2
    decide
theorem wol_k : ∀ (n : Nat) (l : List UInt8), l.length ≤ n → ∀ ws, wol l = some ws → ∀ w ∈ ws, w.k ≠ 2 := by
  intro n
  induction n with
  | zero =>
    intro l hl ws h w hw
    rw [List.eq_nil_of_length_eq_zero (Nat.le_zero.1 hl)] at h
    rw [show wol [] = some [⟨0, noS⟩] from wol_of rfl] at h
    obtain rfl := Option.some.inj h
    rw [List.mem_singleton] at hw
    subst hw
    show (0 : Nat) ≠ 2
    decide
  | succ n ih =>
    intro l hl ws h w hw
    rw [wol] at h
    split at h
    · cases h
    · rename_i v e
      obtain rfl := Option.some.inj h
      rw [List.mem_singleton] at hw
      subst hw
      exact fw_k _ _ _ e
    · rename_i v c r e
      split at h
      · obtain ⟨x, hx, rfl⟩ := Option.map_eq_some_iff.1 h
        rcases List.mem_cons.1 hw with rfl | hw
        · exact fw_k _ _ _ e
        · exact ih r (by have := fw_len l v c r e; omega) x hx w hw
      · cases h
theorem wds_ew (s : List UInt8) : Ew (wds s) := by
  intro w hw hk
  unfold wds at hw
  obtain ⟨l, _, hw⟩ := List.mem_flatMap.1 hw
  split at hw
  · exact absurd hw (by simp)
  · rcases List.mem_append.1 hw with h | h
    · cases e : wol l with
      | none => rw [e] at h; exact absurd h (by simp)
      | some ws => rw [e] at h; exact absurd hk (wol_k _ l (Nat.le_refl _) ws e w h)
    · rw [List.mem_singleton] at h
      exact h
theorem parse_inv (s : List UInt8) (cs : List Cm) (h : parseL s = (cs, 0)) : wds s = flW (cs.flatMap cmW) ∧ ∀ c ∈ cs, Fit c := by
  unfold parseL at h
  split at h
  · cases h
  · split at h
    · rename_i hc
      have := cms_inv (wds s) (wds_ew s) hc
      rw [(Prod.mk.inj h).1] at this
      exact this
    · cases h
theorem fit_cl : ∀ (cs : List Cm), (∀ c ∈ cs, Fit c) → cs.map Cm.cl = cs
  | [], _ => rfl
  | c :: cs, h => by rw [List.map_cons, (h c (by simp)).2.2, fit_cl cs fun d hd => h d (by simp [hd])]
theorem cms_fl (cs : List Cm) (h : ∀ c ∈ cs, Fit c) : cmsL (flW (cs.flatMap cmW)) = (cs, true) := by
  rw [cms_hit cs fun c hc => ⟨(h c hc).1, (h c hc).2.1⟩, fit_cl cs h]
theorem cms_app (a b : List Wd) (ha : Ew a) (hb : Ew b) (h1 : (cmsL a).2 = true) (h2 : (cmsL b).2 = true) : cmsL (a ++ b) = ((cmsL a).1 ++ (cmsL b).1, true) := by
  obtain ⟨e1, f1⟩ := cms_inv a ha h1
  obtain ⟨e2, f2⟩ := cms_inv b hb h2
  have e : a ++ b = flW (((cmsL a).1 ++ (cmsL b).1).flatMap cmW) := by
    rw [List.flatMap_append, fl_app, ← e1, ← e2]
  rw [e]
  exact cms_fl _ fun c hc => (List.mem_append.1 hc).elim (f1 c) (f2 c)
end Go.Proofs.YtghppkfopglgaaaGreatDoor
