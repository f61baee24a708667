/- Script: its plain model. Script: its plain model. Script: its plain model. Rows of anything, and what is kept. Rows of anything: one cell set. -/
import Derived.Test.YtghppkfopglgaaaGreatDoorKaa
import Derived.Lib.ParseIntBTie
import Derived.Test.YtghppkfopglgaaaGreatDoorRows
import Derived.WalkKit
import Derived.WalkSpells
import Derived.WalkLawsBesides
import Derived.Lib.AppendStr
import Derived.Laws.AppendOwnNone
import Derived.Laws.MakeOwn
import Derived.Lib.Walk
import Derived.Lib.Hide
import Derived.Deep.RegionLaw
import Derived.Lib.AppendZerosOnto
import Derived.Lib.MinMax
namespace Go.Proofs.YtghppkfopglgaaaGreatDoor
open Go.RowKit
set_option linter.unusedVariables false
set_option linter.unusedSimpArgs false
theorem dig_nat (k : Nat) (h : k < 10) : (UInt8.ofNat (48 + k)).toNat = 48 + k := by
  rw [UInt8.toNat_ofNat']
  omega
theorem pm_dec (r : List UInt8) : ∀ u : Nat, u < 18446744073709551616 → Lib.parseUintM (2 ^ 64 - 1) 0 (Lib.decDigits u ++ r) = Lib.parseUintM (2 ^ 64 - 1) u r := by
  intro u
  induction u using Nat.strongRecOn generalizing r with
  | _ u ih =>
    intro hu
    rw [Lib.decDigits]
    split
    · rename_i h
      rw [List.singleton_append]
      unfold Lib.parseUintM
      rw [dig_nat u h, if_pos (by omega), if_neg (by omega), if_neg (by simp; omega)]
      have : 0 * 10 + (48 + u - 48) = u := by omega
      rw [this]
      cases r <;> rfl
    · rename_i h
      rw [List.append_assoc, ih (u / 10) (by omega) _ (by omega), List.singleton_append]
      conv => lhs; unfold Lib.parseUintM
      rw [dig_nat (u % 10) (by omega), if_pos (by omega), if_neg (by omega), if_neg (by simp; omega)]
      have : u / 10 * 10 + (48 + u % 10 - 48) = u := by omega
      rw [this]
theorem dec_head : ∀ u : Nat, ∃ c x, Lib.decDigits u = c :: x ∧ 48 ≤ c.toNat ∧ c.toNat ≤ 57 := by
  intro u
  induction u using Nat.strongRecOn with
  | _ u ih =>
    rw [Lib.decDigits]
    split
    · rename_i h
      exact ⟨_, [], rfl, by rw [dig_nat u h]; omega, by rw [dig_nat u h]; omega⟩
    · rename_i h
      obtain ⟨c, x, e, h1, h2⟩ := ih (u / 10) (by omega)
      rw [e]
      exact ⟨c, x ++ [_], rfl, h1, h2⟩
theorem dec_br : ∀ u : Nat, (Lib.decDigits u).all brC = true := by
  intro u
  induction u using Nat.strongRecOn with
  | _ u ih =>
    rw [Lib.decDigits]
    split
    · rename_i h
      simp [brC, dig_nat u h]; omega
    · rename_i h
      rw [List.all_append, ih (u / 10) (by omega)]
      simp [brC, dig_nat (u % 10) (by omega)]; omega
theorem pb_dec (u : Nat) (hu : u < 18446744073709551616) : Lib.parseUintB 64 (Lib.decDigits u) = .ok u := by
  unfold Lib.parseUintB
  obtain ⟨c, x, e, _⟩ := dec_head u
  rw [if_neg (by rw [e]; simp)]
  have := pm_dec [] u hu
  rw [List.append_nil] at this
  rw [this]
  rfl
theorem pi_itoa (n : Int) (h1 : -9223372036854775808 ≤ n) (h2 : n ≤ 9223372036854775807) : Lib.parseIntB 64 (Lib.itoa n) = .ok n := by
  unfold Lib.itoa
  split
  · rename_i h
    unfold Lib.parseIntB
    simp only
    rw [if_pos (by decide), pb_dec n.natAbs (by omega)]
    simp only
    rw [if_neg (by simp), if_neg (by simp; omega), if_pos (by decide)]
    congr 1
    omega
  · rename_i h
    obtain ⟨c, x, e, h3, h4⟩ := dec_head n.toNat
    have hp := pb_dec n.toNat (by omega)
    rw [e] at hp ⊢
    unfold Lib.parseIntB
    simp only
    rw [if_neg (by omega), hp]
    simp only
    have hc : ¬ c.toNat = 45 := by omega
    rw [if_neg (by simp [hc]; omega), if_neg (by simp [hc]), if_neg hc]
    congr 1
    omega
theorem num_itoa (n : Int) (h1 : -9223372036854775808 ≤ n) (h2 : n ≤ 9223372036854775807) : numV (Lib.itoa n) = n ∧ numB (Lib.itoa n) = true := by
  unfold numV numB
  rw [pi_itoa n h1 h2]
  exact ⟨rfl, by simp⟩
def I64 (n : Int) : Prop := -9223372036854775808 ≤ n ∧ n ≤ 9223372036854775807
def nW (n : Int) : Wd := ⟨0, bt (Lib.itoa n)⟩
def qW (t : ByteArray) : Wd := ⟨1, t⟩
def bW (t : ByteArray) : Wd := ⟨0, t⟩
def eW : Wd := ⟨2, noS⟩
theorem bt_toList (l : List UInt8) : (bt l).data.toList = l := rfl
theorem nW_gd (n : Int) : GdW (nW n) := by
  refine .inr ⟨rfl, ?_, ?_⟩
  · show Lib.itoa n ≠ []
    unfold Lib.itoa
    split
    · simp
    · obtain ⟨c, x, e, _⟩ := dec_head n.toNat
      rw [e]; simp
  · show (Lib.itoa n).all brC = true
    unfold Lib.itoa
    split
    · rw [List.all_cons, dec_br]; decide
    · exact dec_br _
theorem qW_gd (t : ByteArray) : GdW (qW t) := .inl rfl
def siW (s : Si) : List Wd := [nW s.t, nW s.p, nW s.s, nW s.w, nW s.f, nW s.l]
def chW (c : Ch) : List Wd := [qW c.v, qW c.b]
def tgW (c : Tg) : List Wd := [qW c.a, qW c.p]
def nNever : ByteArray := ⟨#[110, 101, 118, 101, 114]⟩
def fdW (f : Fd) : List Wd := (if f.nv then [bW nNever] else []) ++ [qW f.n, qW f.v]
def pgW (p : Pg) : List Wd := [qW p.a, qW p.p, nW p.st, qW p.vr] ++ p.ch.flatMap chW
def ruW (u : Ru) : List Wd := tgW u.of ++ u.push.flatMap tgW
def rqW (q : Rq) : List Wd := [qW q.m, qW q.s, qW q.a, qW q.p, qW q.b] ++ q.fs.flatMap fdW
def woW (w : Wo) : List (List Wd) :=
  [bW nServer :: siW w.sv, bW nClient :: siW w.cl, [bW nConf, nW w.ce, nW w.cb, nW w.cl', nW w.cp]] ++ w.pg.map (fun p => bW nPage :: pgW p) ++ w.ru.map (fun u => bW nRule :: ruW u) ++ w.og.map (fun o => [bW nOrigin, qW o]) ++ [[bW nEnd]]
def kdB (k : Nat) : ByteArray := bt (kindL.getD k [])
def mvB (k : Nat) : ByteArray := bt (moveL.getD k [])
def mvW (m : Mv) : List Wd :=
  bW (mvB m.k.toNat) :: (match m.k.toNat with
    | 1 => rqW m.rq
    | 8 => pgW m.pg
    | 9 => siW m.si
    | 10 => [nW m.n, qW m.by']
    | _ => [nW m.n])
def cmW (c : Cm) : List (List Wd) :=
  match c.k.toNat with
  | 1 => [bW (kdB 1)] :: woW c.w
  | 2 => [mvW c.m]
  | 3 => [[bW (kdB 3), nW c.n]]
  | 10 => [[bW (kdB 10), bW (if c.sv then nServer else nClient)]]
  | k => [[bW (kdB k)]]
/-- the lines, as what is to be read -/
def flW (ls : List (List Wd)) : List Wd := ls.flatMap fun l => l ++ [eW]
-- reading back
theorem nx_hit (k : Nat) (t : ByteArray) (l : List Wd) (b : Bool) : Rd.nx ⟨⟨k, t⟩ :: l, b⟩ k = (t, ⟨l, b⟩) := by
  unfold Rd.nx
  simp only
  rw [if_pos trivial]
theorem nu_hit (n : Int) (h : I64 n) (l : List Wd) (b : Bool) : Rd.nu ⟨nW n :: l, b⟩ = (n, ⟨l, b⟩) := by
  unfold Rd.nu nW
  rw [nx_hit]
  simp only [bt_toList, num_itoa n h.1 h.2, if_true]
theorem sk_hit (s : ByteArray) (l : List Wd) (b : Bool) : Rd.sk ⟨bW s :: l, b⟩ s = (true, ⟨l, b⟩) := by
  unfold Rd.sk bW
  simp only
  rw [if_pos ⟨trivial, trivial⟩]
theorem sk_miss (w : Wd) (s : ByteArray) (l : List Wd) (b : Bool) (h : w.k ≠ 0 ∨ w.t ≠ s) : Rd.sk ⟨w :: l, b⟩ s = (false, ⟨w :: l, b⟩) := by
  unfold Rd.sk
  simp only
  rw [if_neg (by rintro ⟨h1, h2⟩; rcases h with h | h; exact h h1; exact h h2)]
theorem nm_hit (s : ByteArray) (l : List Wd) (b : Bool) : Rd.nm ⟨bW s :: l, b⟩ s = ⟨l, b⟩ := by
  unfold Rd.nm
  rw [sk_hit, if_pos rfl]
theorem el_hit (l : List Wd) (b : Bool) : Rd.el ⟨eW :: l, b⟩ = ⟨l, b⟩ := by
  unfold Rd.el eW
  rw [nx_hit]
theorem ov_end (l : List Wd) (b : Bool) : Rd.ov ⟨eW :: l, b⟩ = true := rfl
def SiOk (s : Si) : Prop := I64 s.t ∧ I64 s.p ∧ I64 s.s ∧ I64 s.w ∧ I64 s.f ∧ I64 s.l
theorem si_hit (s : Si) (h : SiOk s) (l : List Wd) (b : Bool) : Rd.si ⟨siW s ++ l, b⟩ = (s, ⟨l, b⟩) := by
  obtain ⟨h1, h2, h3, h4, h5, h6⟩ := h
  unfold Rd.si siW
  simp only [List.cons_append, List.nil_append, nu_hit _ h1, nu_hit _ h2, nu_hit _ h3, nu_hit _ h4, nu_hit _ h5, nu_hit _ h6]
/-- a loop over what is written of a list -/
theorem lp_hit {α : Type} {f : Rd → Option (α × Rd)} (hf : Shr f) (g : α → List Wd) (rest : List Wd) (b : Bool) (hend : f ⟨rest, b⟩ = none) : ∀ (l : List α), (∀ x ∈ l, ∀ r, f ⟨g x ++ r, b⟩ = some (x, ⟨r, b⟩)) → lpS f ⟨l.flatMap g ++ rest, b⟩ = (l, ⟨rest, b⟩)
  | [], _ => lp_none hend
  | x :: l, h => by
    rw [List.flatMap_cons, List.append_assoc, lp_some hf (h x (by simp) _), lp_hit hf g rest b hend l (fun y hy => h y (by simp [hy]))]
theorem ch_hit (c : Ch) (r : List Wd) (b : Bool) : chR ⟨chW c ++ r, b⟩ = some (c, ⟨r, b⟩) := by
  unfold chR chW
  rw [if_neg (by simp [Rd.ov, qW])]
  simp only [List.cons_append, List.nil_append, qW, nx_hit]
theorem tg_hit (c : Tg) (r : List Wd) (b : Bool) : Rd.tg ⟨tgW c ++ r, b⟩ = (c, ⟨r, b⟩) := by
  unfold Rd.tg tgW
  simp only [List.cons_append, List.nil_append, qW, nx_hit]
theorem tgR_hit (c : Tg) (r : List Wd) (b : Bool) : tgR ⟨tgW c ++ r, b⟩ = some (c, ⟨r, b⟩) := by
  unfold tgR
  rw [if_neg (by simp [Rd.ov, tgW, qW]), tg_hit]
theorem fd_hit (c : Fd) (r : List Wd) (b : Bool) : fdR ⟨fdW c ++ r, b⟩ = some (c, ⟨r, b⟩) := by
  obtain ⟨n, v, nv⟩ := c
  unfold fdR fdW
  cases nv
  · rw [if_neg (by simp [Rd.ov, qW])]
    simp only [List.cons_append, List.nil_append, if_false, Bool.false_eq_true]
    rw [sk_miss (qW n) _ _ _ (.inl (by simp [qW]))]
    simp only [qW, nx_hit]
  · rw [if_neg (by simp [Rd.ov, bW])]
    simp only [List.cons_append, List.nil_append, if_true]
    rw [show (⟨#[110, 101, 118, 101, 114]⟩ : ByteArray) = nNever from rfl, sk_hit]
    simp only [qW, nx_hit]
theorem rq_hit (q : Rq) (l : List Wd) (b : Bool) : Rd.rq ⟨rqW q ++ eW :: l, b⟩ = (q, ⟨eW :: l, b⟩) := by
  have h := lp_hit fd_shr fdW (eW :: l) b rfl q.fs (fun x _ r => fd_hit x r b)
  unfold lpS at h
  unfold Rd.rq rqW
  simp only [List.cons_append, List.nil_append, List.append_assoc, qW, nx_hit, h]
theorem pg_hit (q : Pg) (hq : I64 q.st) (l : List Wd) (b : Bool) : Rd.pg ⟨pgW q ++ eW :: l, b⟩ = (q, ⟨eW :: l, b⟩) := by
  have h := lp_hit ch_shr chW (eW :: l) b rfl q.ch (fun x _ r => ch_hit x r b)
  unfold lpS at h
  unfold Rd.pg pgW
  simp only [List.cons_append, List.nil_append, List.append_assoc, qW, nx_hit, nu_hit _ hq, h]
theorem ru_hit (q : Ru) (l : List Wd) (b : Bool) : Rd.ru ⟨ruW q ++ eW :: l, b⟩ = (q, ⟨eW :: l, b⟩) := by
  have h := lp_hit tg_shr tgW (eW :: l) b rfl q.push (fun x _ r => tgR_hit x r b)
  unfold lpS at h
  unfold Rd.ru ruW
  simp only [List.append_assoc, tg_hit, h]
end Go.Proofs.YtghppkfopglgaaaGreatDoor
namespace Go.Proofs.YtghppkfopglgaaaGreatDoor
open Go.RowKit
set_option linter.unusedVariables false
set_option linter.unusedSimpArgs false
def PgOk (p : Pg) : Prop := I64 p.st
def WoOk (w : Wo) : Prop := SiOk w.sv ∧ SiOk w.cl ∧ I64 w.ce ∧ I64 w.cb ∧ I64 w.cl' ∧ I64 w.cp ∧ ∀ p ∈ w.pg, PgOk p
def MvOk (m : Mv) : Prop := I64 m.n ∧ PgOk m.pg ∧ SiOk m.si
def CmOk (c : Cm) : Prop := WoOk c.w ∧ MvOk c.m ∧ I64 c.n
theorem pgR_hit (p : Pg) (h : PgOk p) (r : List Wd) (b : Bool) : pgR ⟨bW nPage :: pgW p ++ [eW] ++ r, b⟩ = some (p, ⟨r, b⟩) := by
  unfold pgR
  rw [List.append_assoc, List.cons_append, sk_hit, if_pos rfl]
  show some ((Rd.pg ⟨pgW p ++ eW :: r, b⟩).1, (Rd.pg ⟨pgW p ++ eW :: r, b⟩).2.el) = _
  rw [pg_hit p h, el_hit]
theorem ruR_hit (p : Ru) (r : List Wd) (b : Bool) : ruR ⟨bW nRule :: ruW p ++ [eW] ++ r, b⟩ = some (p, ⟨r, b⟩) := by
  unfold ruR
  rw [List.append_assoc, List.cons_append, sk_hit, if_pos rfl]
  show some ((Rd.ru ⟨ruW p ++ eW :: r, b⟩).1, (Rd.ru ⟨ruW p ++ eW :: r, b⟩).2.el) = _
  rw [ru_hit p, el_hit]
theorem ogR_hit (p : ByteArray) (r : List Wd) (b : Bool) : ogR ⟨[bW nOrigin, qW p] ++ [eW] ++ r, b⟩ = some (p, ⟨r, b⟩) := by
  unfold ogR
  rw [List.append_assoc, List.cons_append, sk_hit, if_pos rfl]
  show some ((Rd.nx ⟨⟨1, p⟩ :: eW :: r, b⟩ 1).1, (Rd.nx ⟨⟨1, p⟩ :: eW :: r, b⟩ 1).2.el) = _
  rw [nx_hit, el_hit]
theorem pgR_no (w : Wd) (l : List Wd) (b : Bool) (h : w.t ≠ nPage) : pgR ⟨w :: l, b⟩ = none := by
  unfold pgR; rw [sk_miss w _ _ _ (.inr h)]; rfl
theorem ruR_no (w : Wd) (l : List Wd) (b : Bool) (h : w.t ≠ nRule) : ruR ⟨w :: l, b⟩ = none := by
  unfold ruR; rw [sk_miss w _ _ _ (.inr h)]; rfl
theorem ogR_no (w : Wd) (l : List Wd) (b : Bool) (h : w.t ≠ nOrigin) : ogR ⟨w :: l, b⟩ = none := by
  unfold ogR; rw [sk_miss w _ _ _ (.inr h)]; rfl
theorem names_ne : nPage ≠ nRule ∧ nPage ≠ nOrigin ∧ nRule ≠ nOrigin ∧ nEnd ≠ nPage ∧ nEnd ≠ nRule ∧ nEnd ≠ nOrigin ∧ nRule ≠ nPage ∧ nOrigin ≠ nPage ∧ nOrigin ≠ nRule := by decide
def pgF (p : Pg) : List Wd := bW nPage :: pgW p ++ [eW]
def ruF (p : Ru) : List Wd := bW nRule :: ruW p ++ [eW]
def ogF (p : ByteArray) : List Wd := [bW nOrigin, qW p] ++ [eW]
theorem fl_map {α : Type} (g : α → List Wd) (l : List α) : flW (l.map g) = l.flatMap fun x => g x ++ [eW] := by
  unfold flW
  rw [List.flatMap_map]
theorem fl_app (a b : List (List Wd)) : flW (a ++ b) = flW a ++ flW b := List.flatMap_append
theorem ends_head (pg : List Pg) (ru : List Ru) (og : List ByteArray) (l : List Wd) :
    (∃ w x, ru.flatMap ruF ++ (og.flatMap ogF ++ (bW nEnd :: l)) = w :: x ∧ w.t ≠ nPage) ∧ (∃ w x, og.flatMap ogF ++ (bW nEnd :: l) = w :: x ∧ w.t ≠ nRule ∧ w.t ≠ nPage) := by
  obtain ⟨n1, n2, n3, n4, n5, n6, n7, n8, n9⟩ := names_ne
  have h2 : ∃ w x, og.flatMap ogF ++ (bW nEnd :: l) = w :: x ∧ w.t ≠ nRule ∧ w.t ≠ nPage := by
    cases og with
    | nil => exact ⟨bW nEnd, l, rfl, n5, n4⟩
    | cons o og => exact ⟨bW nOrigin, _, rfl, n9, n8⟩
  refine ⟨?_, h2⟩
  cases ru with
  | nil =>
    obtain ⟨w, x, e, _, h⟩ := h2
    exact ⟨w, x, by rw [List.flatMap_nil, List.nil_append, e], h⟩
  | cons u ru => exact ⟨bW nRule, _, rfl, n7⟩
theorem wo_loops (pg : List Pg) (hp : ∀ p ∈ pg, PgOk p) (ru : List Ru) (og : List ByteArray) (l : List Wd) (b : Bool) :
    lpS pgR ⟨pg.flatMap pgF ++ (ru.flatMap ruF ++ (og.flatMap ogF ++ (bW nEnd :: l))), b⟩ = (pg, ⟨ru.flatMap ruF ++ (og.flatMap ogF ++ (bW nEnd :: l)), b⟩) ∧
    lpS ruR ⟨ru.flatMap ruF ++ (og.flatMap ogF ++ (bW nEnd :: l)), b⟩ = (ru, ⟨og.flatMap ogF ++ (bW nEnd :: l), b⟩) ∧
    lpS ogR ⟨og.flatMap ogF ++ (bW nEnd :: l), b⟩ = (og, ⟨bW nEnd :: l, b⟩) := by
  obtain ⟨⟨w1, x1, e1, h1⟩, ⟨w2, x2, e2, h2, _⟩⟩ := ends_head pg ru og l
  refine ⟨lp_hit pg_shr pgF _ b (by rw [e1]; exact pgR_no _ _ _ h1) pg (fun p hp' r => pgR_hit p (hp p hp') r b), lp_hit ru_shr ruF _ b (by rw [e2]; exact ruR_no _ _ _ h2) ru (fun p _ r => ruR_hit p r b), lp_hit og_shr ogF _ b (ogR_no _ _ _ names_ne.2.2.2.2.2.1) og (fun p _ r => ogR_hit p r b)⟩
theorem woW_fl (w : Wo) (l : List Wd) : flW (woW w) ++ l = bW nServer :: (siW w.sv ++ eW :: bW nClient :: (siW w.cl ++ eW :: bW nConf :: nW w.ce :: nW w.cb :: nW w.cl' :: nW w.cp :: eW :: (w.pg.flatMap pgF ++ (w.ru.flatMap ruF ++ (w.og.flatMap ogF ++ (bW nEnd :: eW :: l)))))) := by
  unfold woW
  rw [fl_app, fl_app, fl_app, fl_app, fl_map, fl_map, fl_map]
  have : flW [bW nServer :: siW w.sv, bW nClient :: siW w.cl, [bW nConf, nW w.ce, nW w.cb, nW w.cl', nW w.cp]] = (bW nServer :: siW w.sv ++ [eW]) ++ ((bW nClient :: siW w.cl ++ [eW]) ++ ([bW nConf, nW w.ce, nW w.cb, nW w.cl', nW w.cp] ++ [eW])) := by simp [flW]
  rw [this]
  have h2 : flW [[bW nEnd]] = [bW nEnd, eW] := by simp [flW]
  rw [h2]
  simp only [List.append_assoc, List.cons_append, List.nil_append]
  rfl
theorem wo_hit (w : Wo) (h : WoOk w) (l : List Wd) (b : Bool) : Rd.wo ⟨flW (woW w) ++ l, b⟩ = (w, ⟨eW :: l, b⟩) := by
  obtain ⟨h1, h2, h3, h4, h5, h6, h7⟩ := h
  obtain ⟨l1, l2, l3⟩ := wo_loops w.pg h7 w.ru w.og (eW :: l) b
  unfold lpS at l1 l2 l3
  rw [woW_fl]
  unfold Rd.wo
  simp only [nm_hit, si_hit _ h1, si_hit _ h2, el_hit, nu_hit _ h3, nu_hit _ h4, nu_hit _ h5, nu_hit _ h6, l1, l2, l3]
theorem name_tab : kindOf (kdB 1) = 1 ∧ kindOf (kdB 3) = 3 ∧ kindOf (kdB 10) = 10 ∧ (∀ k : Fin 11, 4 ≤ k.val → kindOf (kdB k.val) = k.val) ∧ (∀ k : Fin 11, 1 ≤ k.val → kindOf (mvB k.val) = 0 ∧ moveOf (mvB k.val) = k.val) ∧ nClient ≠ nServer := by decide +kernel
theorem gd_tab : (∀ k : Fin 11, (k.val = 1 ∨ 3 ≤ k.val) → GdW (bW (kdB k.val))) ∧ (∀ k : Fin 11, 1 ≤ k.val → GdW (bW (mvB k.val))) := by
  constructor
  · intro k hk
    refine .inr ⟨rfl, ?_, ?_⟩
    · revert k; decide +kernel
    · revert k; decide +kernel
  · intro k hk
    refine .inr ⟨rfl, ?_, ?_⟩
    · revert k; decide +kernel
    · revert k; decide +kernel
theorem gd_names : GdW (bW nServer) ∧ GdW (bW nClient) ∧ GdW (bW nConf) ∧ GdW (bW nPage) ∧ GdW (bW nRule) ∧ GdW (bW nOrigin) ∧ GdW (bW nEnd) ∧ GdW (bW nNever) := by
  refine ⟨?_, ?_, ?_, ?_, ?_, ?_, ?_, ?_⟩ <;> exact .inr ⟨rfl, by decide +kernel, by decide +kernel⟩
/-- what a move's kind names -/
def Mv.cl (m : Mv) : Mv :=
  match m.k.toNat with
  | 1 => { Mv.z with k := 1, rq := m.rq }
  | 8 => { Mv.z with k := 8, pg := m.pg }
  | 9 => { Mv.z with k := 9, si := m.si }
  | 10 => { Mv.z with k := 10, n := m.n, by' := m.by' }
  | k => { Mv.z with k := (k : Int), n := m.n }
def Cm.cl (c : Cm) : Cm :=
  match c.k.toNat with
  | 1 => { Cm.of 1 with w := c.w }
  | 2 => { Cm.of 2 with m := c.m.cl }
  | 3 => { Cm.of 3 with n := c.n }
  | 10 => { Cm.of 10 with sv := c.sv }
  | k => Cm.of (k : Int)
def KOk (c : Cm) : Prop := 1 ≤ c.k ∧ c.k ≤ 10 ∧ (c.k = 2 → 1 ≤ c.m.k ∧ c.m.k ≤ 10)
theorem mv_hit (m : Mv) (h : MvOk m) (k : Nat) (hk : m.k = (k : Int)) (h1 : 1 ≤ k) (h2 : k ≤ 10) (l : List Wd) (b : Bool) : ∃ x, mvW m = bW (mvB k) :: x ∧ Rd.mv ⟨x ++ eW :: l, b⟩ (mvB k) = (m.cl, ⟨eW :: l, b⟩) := by
  obtain ⟨n1, n2, n3⟩ := h
  have ht := (name_tab.2.2.2.2.1 ⟨k, by omega⟩ h1).2
  simp only at ht
  unfold mvW Rd.mv Mv.cl
  rw [hk, Int.toNat_natCast, ht]
  refine ⟨_, rfl, ?_⟩
  rcases (show k = 1 ∨ k = 2 ∨ k = 3 ∨ k = 4 ∨ k = 5 ∨ k = 6 ∨ k = 7 ∨ k = 8 ∨ k = 9 ∨ k = 10 by omega) with rfl | rfl | rfl | rfl | rfl | rfl | rfl | rfl | rfl | rfl
  · simp only [rq_hit]
  · simp only [List.cons_append, List.nil_append, nu_hit _ n1]
  · simp only [List.cons_append, List.nil_append, nu_hit _ n1]
  · simp only [List.cons_append, List.nil_append, nu_hit _ n1]
  · simp only [List.cons_append, List.nil_append, nu_hit _ n1]
  · simp only [List.cons_append, List.nil_append, nu_hit _ n1]
  · simp only [List.cons_append, List.nil_append, nu_hit _ n1]
  · simp only [pg_hit _ n2]
  · simp only [si_hit _ n3]
  · simp only [List.cons_append, List.nil_append, nu_hit _ n1, qW, nx_hit]
theorem fl_one (l : List Wd) (r : List Wd) : flW [l] ++ r = l ++ eW :: r := by simp [flW]
theorem cm_hit (c : Cm) (h : CmOk c) (hk : KOk c) (l : List Wd) : cmR ⟨flW (cmW c) ++ l, false⟩ = some (c.cl, ⟨l, false⟩) := by
  obtain ⟨n1, n2, n3⟩ := h
  obtain ⟨k, hkk⟩ : ∃ k : Nat, c.k = (k : Int) := ⟨c.k.toNat, by have := hk.1; omega⟩
  have k1 : 1 ≤ k := by have := hk.1; omega
  have k2 : k ≤ 10 := by have := hk.2.1; omega
  obtain ⟨t1, t3, t10, t4, tm, tn⟩ := name_tab
  have key : ∀ (w : ByteArray) (x : List Wd), flW (cmW c) ++ l = bW w :: x → cmR ⟨flW (cmW c) ++ l, false⟩ = some (Rd.cm ⟨bW w :: x, false⟩) := fun w x e => by rw [e]; rfl
  unfold Cm.cl
  rw [hkk, Int.toNat_natCast]
  have hc1 : (k = 1 → cmW c = [bW (kdB 1)] :: woW c.w) ∧ (k = 2 → cmW c = [mvW c.m]) ∧ (k = 3 → cmW c = [[bW (kdB 3), nW c.n]]) ∧ (k = 10 → cmW c = [[bW (kdB 10), bW (if c.sv then nServer else nClient)]]) ∧ (4 ≤ k ∧ k ≤ 9 → cmW c = [[bW (kdB k)]]) := by
    unfold cmW
    rw [hkk, Int.toNat_natCast]
    refine ⟨?_, ?_, ?_, ?_, ?_⟩
    · rintro rfl; rfl
    · rintro rfl; rfl
    · rintro rfl; rfl
    · rintro rfl; rfl
    · intro hh
      rcases (show k = 4 ∨ k = 5 ∨ k = 6 ∨ k = 7 ∨ k = 8 ∨ k = 9 by omega) with rfl | rfl | rfl | rfl | rfl | rfl <;> rfl
  by_cases e1 : k = 1
  · subst e1
    have e : flW (cmW c) ++ l = bW (kdB 1) :: (eW :: (flW (woW c.w) ++ l)) := by
      rw [hc1.1 rfl]
      show ([bW (kdB 1)] ++ [eW] ++ flW (woW c.w)) ++ l = _
      rfl
    rw [key _ _ e]
    unfold Rd.cm Rd.cm1
    simp only [bW, nx_hit, t1]
    simp only [el_hit, wo_hit _ n1]
  · by_cases e2 : k = 2
    · subst e2
      obtain ⟨m1, m2⟩ := hk.2.2 (by rw [hkk]; rfl)
      obtain ⟨j, hj⟩ : ∃ j : Nat, c.m.k = (j : Int) := ⟨c.m.k.toNat, by omega⟩
      obtain ⟨x, hx, hr⟩ := mv_hit c.m n2 j hj (by omega) (by omega) l false
      have e : flW (cmW c) ++ l = bW (mvB j) :: (x ++ eW :: l) := by rw [hc1.2.1 rfl, fl_one, hx]; rfl
      rw [key _ _ e]
      have htm := (tm ⟨j, by omega⟩ (by show 1 ≤ j; omega)).1
      simp only at htm
      unfold Rd.cm Rd.cm1
      simp only [bW, nx_hit, htm, hr, el_hit]
    · by_cases e3 : k = 3
      · subst e3
        have e : flW (cmW c) ++ l = bW (kdB 3) :: (nW c.n :: eW :: l) := by rw [hc1.2.2.1 rfl, fl_one]; rfl
        rw [key _ _ e]
        unfold Rd.cm Rd.cm1
        simp only [bW, nx_hit, t3, nu_hit _ n3, el_hit]
      · by_cases e10 : k = 10
        · subst e10
          have e : flW (cmW c) ++ l = bW (kdB 10) :: (bW (if c.sv then nServer else nClient) :: eW :: l) := by rw [hc1.2.2.2.1 rfl, fl_one]; rfl
          rw [key _ _ e]
          have hb : ∀ x y, Rd.nx ⟨bW x :: y, false⟩ 0 = (x, ⟨y, false⟩) := fun x y => nx_hit 0 x y false
          unfold Rd.cm Rd.cm1
          simp only [hb, t10]
          cases c.sv
          · simp only [Bool.false_eq_true, if_false]
            rw [sk_miss (bW nClient) nServer _ _ (.inr tn), nm_hit]
            simp only [Bool.false_eq_true, if_false, el_hit]
          · simp only [if_true]
            rw [sk_hit]
            simp only [if_true, el_hit]
        · have h49 : 4 ≤ k ∧ k ≤ 9 := by omega
          have e : flW (cmW c) ++ l = bW (kdB k) :: (eW :: l) := by rw [hc1.2.2.2.2 h49, fl_one]; rfl
          rw [key _ _ e]
          have h4 := t4 ⟨k, by omega⟩ h49.1
          simp only at h4
          unfold Rd.cm Rd.cm1
          simp only [bW, nx_hit, h4]
          rcases (show k = 4 ∨ k = 5 ∨ k = 6 ∨ k = 7 ∨ k = 8 ∨ k = 9 by omega) with rfl | rfl | rfl | rfl | rfl | rfl <;> simp only [el_hit] <;> rfl
theorem cms_hit (l : List Cm) (h : ∀ c ∈ l, CmOk c ∧ KOk c) : cmsL (flW (l.flatMap cmW)) = (l.map Cm.cl, true) := by
  have : ∀ l : List Cm, (∀ c ∈ l, CmOk c ∧ KOk c) → lpS cmR ⟨flW (l.flatMap cmW), false⟩ = (l.map Cm.cl, ⟨[], false⟩) := by
    intro l
    induction l with
    | nil => intro _; exact lp_none rfl
    | cons c l ih =>
      intro h
      rw [List.flatMap_cons, fl_app, lp_some cm_shr (cm_hit c (h c (by simp)).1 (h c (by simp)).2 _), ih fun x hx => h x (by simp [hx])]
      rfl
  have h2 := this l h
  unfold lpS at h2
  unfold cmsL
  rw [h2]
  rfl
end Go.Proofs.YtghppkfopglgaaaGreatDoor
namespace Go.Proofs.YtghppkfopglgaaaGreatDoor
open Go.RowKit
set_option linter.unusedVariables false
set_option linter.unusedSimpArgs false
theorem gd_app {a b : List Wd} (h1 : ∀ w ∈ a, GdW w) (h2 : ∀ w ∈ b, GdW w) : ∀ w ∈ a ++ b, GdW w := fun w h => (List.mem_append.1 h).elim (h1 w) (h2 w)
theorem gd_cons {a : Wd} {b : List Wd} (h1 : GdW a) (h2 : ∀ w ∈ b, GdW w) : ∀ w ∈ a :: b, GdW w := fun w h => (List.mem_cons.1 h).elim (fun e => e ▸ h1) (h2 w)
theorem gd_nil : ∀ w ∈ ([] : List Wd), GdW w := fun w h => absurd h (by simp)
theorem gd_flat {α : Type} {g : α → List Wd} (l : List α) (h : ∀ x, ∀ w ∈ g x, GdW w) : ∀ w ∈ l.flatMap g, GdW w := fun w hw => by
  obtain ⟨x, _, hx⟩ := List.mem_flatMap.1 hw
  exact h x w hx
theorem gd_si (s : Si) : ∀ w ∈ siW s, GdW w := gd_cons (nW_gd _) (gd_cons (nW_gd _) (gd_cons (nW_gd _) (gd_cons (nW_gd _) (gd_cons (nW_gd _) (gd_cons (nW_gd _) gd_nil)))))
theorem gd_pg (p : Pg) : ∀ w ∈ pgW p, GdW w := gd_app (gd_cons (qW_gd _) (gd_cons (qW_gd _) (gd_cons (nW_gd _) (gd_cons (qW_gd _) gd_nil)))) (gd_flat _ fun _ => gd_cons (qW_gd _) (gd_cons (qW_gd _) gd_nil))
theorem gd_tg (p : Tg) : ∀ w ∈ tgW p, GdW w := gd_cons (qW_gd _) (gd_cons (qW_gd _) gd_nil)
theorem gd_ru (p : Ru) : ∀ w ∈ ruW p, GdW w := gd_app (gd_tg _) (gd_flat _ gd_tg)
theorem gd_fd (p : Fd) : ∀ w ∈ fdW p, GdW w := by
  unfold fdW
  refine gd_app ?_ (gd_cons (qW_gd _) (gd_cons (qW_gd _) gd_nil))
  split
  · exact gd_cons gd_names.2.2.2.2.2.2.2 gd_nil
  · exact gd_nil
theorem gd_rq (q : Rq) : ∀ w ∈ rqW q, GdW w := gd_app (gd_cons (qW_gd _) (gd_cons (qW_gd _) (gd_cons (qW_gd _) (gd_cons (qW_gd _) (gd_cons (qW_gd _) gd_nil))))) (gd_flat _ gd_fd)
def GdL (ls : List (List Wd)) : Prop := ∀ l ∈ ls, l ≠ [] ∧ ∀ w ∈ l, GdW w
theorem GdL.app {a b : List (List Wd)} (h1 : GdL a) (h2 : GdL b) : GdL (a ++ b) := fun w h => (List.mem_append.1 h).elim (h1 w) (h2 w)
theorem GdL.cons {a : List Wd} {b : List (List Wd)} (h0 : a ≠ []) (h1 : ∀ w ∈ a, GdW w) (h2 : GdL b) : GdL (a :: b) := fun w h => (List.mem_cons.1 h).elim (fun e => e ▸ ⟨h0, h1⟩) (h2 w)
theorem GdL.nil : GdL [] := fun w h => absurd h (by simp)
theorem GdL.map {α : Type} {g : α → List Wd} (l : List α) (h : ∀ x, g x ≠ [] ∧ ∀ w ∈ g x, GdW w) : GdL (l.map g) := fun w hw => by
  obtain ⟨x, _, hx⟩ := List.mem_map.1 hw
  exact hx ▸ h x
theorem gd_wo (w : Wo) : GdL (woW w) := by
  obtain ⟨g1, g2, g3, g4, g5, g6, g7, _⟩ := gd_names
  unfold woW
  refine GdL.app (GdL.app (GdL.app (GdL.app (GdL.cons (by simp) (gd_cons g1 (gd_si _)) (GdL.cons (by simp) (gd_cons g2 (gd_si _)) (GdL.cons (by simp) (gd_cons g3 (gd_cons (nW_gd _) (gd_cons (nW_gd _) (gd_cons (nW_gd _) (gd_cons (nW_gd _) gd_nil))))) GdL.nil))) (GdL.map _ fun p => ⟨by simp, gd_cons g4 (gd_pg p)⟩)) (GdL.map _ fun p => ⟨by simp, gd_cons g5 (gd_ru p)⟩)) (GdL.map _ fun p => ⟨by simp, gd_cons g6 (gd_cons (qW_gd _) gd_nil)⟩)) (GdL.cons (by simp) (gd_cons g7 gd_nil) GdL.nil)
theorem gd_mv (m : Mv) (h1 : 1 ≤ m.k) (h2 : m.k ≤ 10) : mvW m ≠ [] ∧ ∀ w ∈ mvW m, GdW w := by
  unfold mvW
  refine ⟨by simp, gd_cons (gd_tab.2 ⟨m.k.toNat, by omega⟩ (by show 1 ≤ m.k.toNat; omega)) ?_⟩
  split
  · exact gd_rq _
  · exact gd_pg _
  · exact gd_si _
  · exact gd_cons (nW_gd _) (gd_cons (qW_gd _) gd_nil)
  · exact gd_cons (nW_gd _) gd_nil
theorem gd_cm (c : Cm) (h : KOk c) : GdL (cmW c) := by
  obtain ⟨h1, h2, h3⟩ := h
  obtain ⟨k, hk⟩ : ∃ k : Nat, c.k = (k : Int) := ⟨c.k.toNat, by omega⟩
  unfold cmW
  rw [hk, Int.toNat_natCast]
  rcases (show k = 1 ∨ k = 2 ∨ k = 3 ∨ k = 4 ∨ k = 5 ∨ k = 6 ∨ k = 7 ∨ k = 8 ∨ k = 9 ∨ k = 10 by omega) with rfl | rfl | rfl | rfl | rfl | rfl | rfl | rfl | rfl | rfl
  · exact GdL.cons (by simp) (gd_cons (gd_tab.1 ⟨1, by decide⟩ (.inl rfl)) gd_nil) (gd_wo _)
  · have := h3 (by rw [hk]; rfl)
    exact GdL.cons (gd_mv _ this.1 this.2).1 (gd_mv _ this.1 this.2).2 GdL.nil
  · exact GdL.cons (by simp) (gd_cons (gd_tab.1 ⟨3, by decide⟩ (.inr (by decide))) (gd_cons (nW_gd _) gd_nil)) GdL.nil
  · exact GdL.cons (by simp) (gd_cons (gd_tab.1 ⟨4, by decide⟩ (.inr (by decide))) gd_nil) GdL.nil
  · exact GdL.cons (by simp) (gd_cons (gd_tab.1 ⟨5, by decide⟩ (.inr (by decide))) gd_nil) GdL.nil
  · exact GdL.cons (by simp) (gd_cons (gd_tab.1 ⟨6, by decide⟩ (.inr (by decide))) gd_nil) GdL.nil
  · exact GdL.cons (by simp) (gd_cons (gd_tab.1 ⟨7, by decide⟩ (.inr (by decide))) gd_nil) GdL.nil
  · exact GdL.cons (by simp) (gd_cons (gd_tab.1 ⟨8, by decide⟩ (.inr (by decide))) gd_nil) GdL.nil
  · exact GdL.cons (by simp) (gd_cons (gd_tab.1 ⟨9, by decide⟩ (.inr (by decide))) gd_nil) GdL.nil
  · refine GdL.cons (by simp) (gd_cons (gd_tab.1 ⟨10, by decide⟩ (.inr (by decide))) (gd_cons ?_ gd_nil)) GdL.nil
    split
    · exact gd_names.1
    · exact gd_names.2.1
/-- the lines of commands, each with its byte 10 -/
def prT (l : List Cm) : List UInt8 := txt (l.flatMap cmW)
theorem gd_cms (l : List Cm) (h : ∀ c ∈ l, KOk c) : GdL (l.flatMap cmW) := fun w hw => by
  obtain ⟨x, hx, hw⟩ := List.mem_flatMap.1 hw
  exact gd_cm x (h x hx) w hw
theorem parse_prT (l : List Cm) (h : ∀ c ∈ l, CmOk c ∧ KOk c) (hl : longB (prT l) = false) : parseL (prT l) = (l.map Cm.cl, 0) := by
  unfold parseL
  rw [hl, if_neg (by simp)]
  unfold prT
  rw [wds_txt _ (gd_cms l fun c hc => (h c hc).2)]
  show (if (cmsL (flW (l.flatMap cmW))).2 = true then _ else _) = _
  rw [show (List.flatMap (fun l => l ++ [(⟨2, noS⟩ : Wd)]) (List.flatMap cmW l)) = flW (l.flatMap cmW) from rfl, cms_hit l h, if_pos rfl]
theorem numV_ok (s : List UInt8) : I64 (numV s) := by
  unfold numV I64
  split
  · rename_i v h
    have := Lib.parseIntB_bounds h
    simp at this
    omega
  · omega
  · unfold Lib.intSat
    split
    · simp
    · simp
end Go.Proofs.YtghppkfopglgaaaGreatDoor
namespace Go.Proofs.YtghppkfopglgaaaGreatDoor
open Go.RowKit
set_option linter.unusedVariables false
set_option linter.unusedSimpArgs false

/-- From w to w' nothing has turned but v's row, and v' is that row, or a new one. -/
structure Gr (w w' : World) (v v' : Value) : Prop where
  os : w'.os = w.os
  tape : w'.tape = w.tape
  output : w'.output = w.output
  size : w.heap.size ≤ w'.heap.size
  block : ∀ k, k < w.heap.size → v.ownBlock ≠ some k → w'.heap[k]? = w.heap[k]?
  own : ∀ k, v'.ownBlock = some k → v.ownBlock = some k ∨ w.heap.size ≤ k

theorem Gr.refl (w : World) (v : Value) : Gr w w v v := ⟨rfl, rfl, rfl, Nat.le_refl _, fun _ _ _ => rfl, fun _ h => .inl h⟩
theorem Gr.trans {a b c : World} {u v x : Value} (h : Gr a b u v) (k : Gr b c v x) : Gr a c u x :=
  ⟨k.os.trans h.os, k.tape.trans h.tape, k.output.trans h.output, Nat.le_trans h.size k.size,
    fun i hi hu => (k.block i (Nat.lt_of_lt_of_le hi h.size) (fun e => (h.own i e).elim hu fun hh => by omega)).trans (h.block i hi hu),
    fun i hi => (k.own i hi).elim (fun e => h.own i e) fun hh => .inr (Nat.le_trans h.size hh)⟩
theorem Gr.below {a b : World} (h : Below a.heap.size a b) (v : Value) : Gr a b v v :=
  ⟨h.os, h.tape, h.output, h.size, fun k hk _ => h.block k hk, fun _ h => .inl h⟩
/-- where it began with no row, all that was there is as it was -/
theorem Gr.fresh {a b : World} {v : Value} (h : Gr a b (.slice none 0 0) v) : Below a.heap.size a b :=
  ⟨h.os, h.tape, h.output, h.size, fun k hk => h.block k hk (by simp [Value.ownBlock])⟩
theorem Gr.new {a b : World} {v : Value} (h : Gr a b (.slice none 0 0) v) : ∀ k, v.ownBlock = some k → a.heap.size ≤ k :=
  fun k hk => (h.own k hk).elim (fun e => by simp [Value.ownBlock] at e) id
theorem Gr.belowB {a b : World} {u v : Value} {B : Nat} (h : Gr a b u v) (hB : B ≤ a.heap.size) (hu : ∀ k, u.ownBlock = some k → B ≤ k) : Below B a b :=
  ⟨h.os, h.tape, h.output, h.size, fun k hk => h.block k (by omega) fun e => by have := hu k e; omega⟩

/-- All blocks but those of A are as they were. -/
structure Ks (A : Nat → Prop) (w w' : World) : Prop where
  os : w'.os = w.os
  tape : w'.tape = w.tape
  output : w'.output = w.output
  size : w.heap.size ≤ w'.heap.size
  block : ∀ k, k < w.heap.size → ¬ A k → w'.heap[k]? = w.heap[k]?
theorem Ks.refl (A : Nat → Prop) (w : World) : Ks A w w := ⟨rfl, rfl, rfl, Nat.le_refl _, fun _ _ _ => rfl⟩
theorem Ks.trans {A B C : Nat → Prop} {a b c : World} (h : Ks A a b) (k : Ks B b c) (h1 : ∀ i, i < a.heap.size → A i → C i) (h2 : ∀ i, i < a.heap.size → B i → C i) : Ks C a c :=
  ⟨k.os.trans h.os, k.tape.trans h.tape, k.output.trans h.output, Nat.le_trans h.size k.size,
    fun i hi hu => (k.block i (Nat.lt_of_lt_of_le hi h.size) (fun e => hu (h2 i hi e))).trans (h.block i hi (fun e => hu (h1 i hi e)))⟩
theorem Ks.of_below {A : Nat → Prop} {a b : World} (h : Below a.heap.size a b) : Ks A a b := ⟨h.os, h.tape, h.output, h.size, fun k hk _ => h.block k hk⟩
theorem Ks.of_gr {a b : World} {u v : Value} (h : Gr a b u v) : Ks (fun k => u.ownBlock = some k) a b := ⟨h.os, h.tape, h.output, h.size, h.block⟩
theorem Ks.below {A : Nat → Prop} {a b : World} {B : Nat} (h : Ks A a b) (hB : B ≤ a.heap.size) (hg : ∀ i, i < B → ¬ A i) : Below B a b :=
  ⟨h.os, h.tape, h.output, h.size, fun k hk => h.block k (Nat.lt_of_lt_of_le hk hB) (hg k hk)⟩
theorem Ks.mono {A B : Nat → Prop} {a b : World} (h : Ks A a b) (hs : ∀ i, i < a.heap.size → A i → B i) : Ks B a b :=
  ⟨h.os, h.tape, h.output, h.size, fun k hk hn => h.block k hk fun e => hn (hs k hk e)⟩

theorem setCell_block (w : World) (b off : Nat) (v : Value) (c : Array Value) (t : TypeId) (fz : Nat × Nat) (h : w.heap[b]? = some (.cells c t fz)) :
    (w.setCell ⟨b, off, none⟩ v).heap[b]? = some (.cells (c.setIfInBounds off v) t fz) := by
  simp [World.setCell, Array.getElem?_modify, h]
theorem setCell_other (w : World) (b k off : Nat) (v : Value) (h : k ≠ b) : (w.setCell ⟨b, off, none⟩ v).heap[k]? = w.heap[k]? := by
  simp [World.setCell, Array.getElem?_modify, Ne.symm h]
theorem Ks.setCell (A : Nat → Prop) (w : World) (g off : Nat) (v : Value) (h : A g) : Ks A w (w.setCell ⟨g, off, none⟩ v) := ⟨rfl, rfl, rfl, by simp [World.setCell], fun k _ hk => setCell_other _ _ _ _ _ (fun e => hk (e ▸ h))⟩
theorem cell_blk {w : World} {b : Nat} {c : Array Value} {t : TypeId} {fz : Nat × Nat} (h : w.heap[b]? = some (.cells c t fz)) (i : Nat) : w.cell? ⟨b, i, none⟩ = c[i]? := by simp [World.cell?, h]
theorem frozen_blk {w : World} {b : Nat} {c : Array Value} {t : TypeId} (h : w.heap[b]? = some (.cells c t (0, 0))) (i : Nat) : w.frozen? ⟨b, i, none⟩ = false := by simp [World.frozen?, h]
theorem heap_lt {w : World} {b : Nat} {o : Obj} (h : w.heap[b]? = some o) : b < w.heap.size := (Array.getElem?_eq_some_iff.1 h).1

theorem heap_al (w : World) (o : Obj) (k : Nat) : (w.alloc o).heap[k]? = if k = w.heap.size then some o else w.heap[k]? := by
  show (w.heap.push o)[k]? = _
  rw [Array.getElem?_push]
theorem heap_dr (w : World) (k : Nat) : w.drew.heap[k]? = w.heap[k]? := rfl
theorem size_al (w : World) (o : Obj) : (w.alloc o).heap.size = w.heap.size + 1 := by simp
theorem size_dr (w : World) : w.drew.heap.size = w.heap.size := rfl
theorem fresh2 (w : World) (o p : Obj) : ((w.alloc o).alloc p).heap[w.heap.size + 1]? = some p := by
  rw [heap_al, if_pos (by simp)]
theorem fresh3 (w : World) (o p q : Obj) : (((w.alloc o).alloc p).alloc q).heap[w.heap.size + 2]? = some q := by
  rw [heap_al, if_pos (by simp)]
theorem bel1 (w : World) (o : Obj) : Below w.heap.size w (w.alloc o) := (Below.refl _ w).alloc (Nat.le_refl _) o
theorem bel2 (w : World) (o p : Obj) : Below w.heap.size w ((w.alloc o).alloc p) := (bel1 w o).alloc (by simp) p
theorem bel3 (w : World) (o p q : Obj) : Below w.heap.size w (((w.alloc o).alloc p).alloc q) := (bel2 w o p).alloc (by simp; omega) q

/-- what a row's elements are -/
structure El (α : Type) where
  t : TypeId
  e : TypeId
  sz : Nat
  by' : Nat
  enc : α → List Value
structure El.Ok {α : Type} (E : El α) : Prop where
  und : Tryz.prog.underlying E.t = some (.slice E.e)
  info : (Tryz.prog.info? E.e).map (fun i => (i.zero.map (·.cells.size), i.size, i.bytes)) = some (some E.sz, E.sz, E.by')
  pos : 0 < E.sz
  bpos : 0 < E.by'
  len : ∀ a, (E.enc a).length = E.sz
  one : ∀ a, ∀ u ∈ E.enc a, u.oneCell' = true

def El.cs {α : Type} (E : El α) (l : List α) : List Value := l.flatMap E.enc
theorem El.Ok.length {α : Type} {E : El α} (ok : E.Ok) (l : List α) : (E.cs l).length = l.length * E.sz := by
  induction l with
  | nil => simp [El.cs]
  | cons a r ih => simp only [El.cs, List.flatMap_cons, List.length_append, ok.len, List.length_cons] at ih ⊢; rw [ih, Nat.succ_mul, Nat.add_comm]
theorem El.cs_append {α : Type} (E : El α) (a b : List α) : E.cs (a ++ b) = E.cs a ++ E.cs b := by simp [El.cs]
theorem El.Ok.ones {α : Type} {E : El α} (ok : E.Ok) (l : List α) : ∀ u ∈ E.cs l, u.oneCell' = true := by
  intro u hu
  obtain ⟨b, _, hb⟩ := List.mem_flatMap.1 hu
  exact ok.one b u hb
theorem El.Ok.get {α : Type} {E : El α} (ok : E.Ok) (l : List α) (k i : Nat) (hk : k < l.length) (hi : i < E.sz) : (E.cs l)[k * E.sz + i]? = (E.enc l[k])[i]? := by
  induction l generalizing k with
  | nil => exact absurd hk (by simp)
  | cons a r ih =>
    simp only [El.cs, List.flatMap_cons]
    cases k with
    | zero => simp; rw [List.getElem?_append_left (by rw [ok.len]; exact hi)]
    | succ k =>
      rw [List.getElem?_append_right (by rw [ok.len, Nat.succ_mul]; omega), ok.len, show (k + 1) * E.sz + i - E.sz = k * E.sz + i by rw [Nat.succ_mul]; omega]
      exact ih k (by simpa using hk)

/-- The slice holds these, in a row of its own from the row's beginning. -/
def R {α : Type} (E : El α) (w : World) (o : Value) (l : List α) : Prop := w.ownsRow 0 E.e E.sz o l.length (E.cs l)
/-- They can be read behind the slice. -/
def In {α : Type} (E : El α) (w : World) (v : Value) (l : List α) : Prop :=
  (v = .slice none 0 0 ∧ l = []) ∨ ∃ a cap, v = .slice (some a) l.length cap ∧ l.length ≤ cap ∧ cap ≤ 9223372036854775807 ∧ ∀ j u, (E.cs l)[j]? = some u → w.cell? (a.add j) = some u

variable {α : Type} {E : El α} {w w' : World} {o v : Value} {l : List α}

theorem R.nil (E : El α) (w : World) : R E w (.slice none 0 0) [] := World.ownsRow_nil w 0 E.e E.sz
theorem R.stays (h : R E w o l) (hb : ∀ k, o.ownBlock = some k → k < w.heap.size → w'.heap[k]? = w.heap[k]?) : R E w' o l := by
  refine ⟨h.1, ?_⟩
  rcases h.2 with hn | ⟨g, cap, cur, rfl, hbs, hgg, rest⟩
  · exact .inl hn
  · refine .inr ⟨g, cap, cur, rfl, hbs, ?_, rest⟩
    rw [hb g rfl (Array.getElem?_eq_some_iff.1 hgg).1]
    exact hgg
theorem R.below (h : R E w o l) (hb : Below w.heap.size w w') : R E w' o l := h.stays fun k _ hk => hb.block k hk
theorem R.lt (h : R E w o l) : ∀ k, o.ownBlock = some k → k < w.heap.size := fun k hk => (World.ownsRow.lt h k hk).2
theorem R.slice (h : R E w o l) : ∃ base cap, o = .slice base l.length cap ∧ l.length ≤ cap ∧ cap ≤ 9223372036854775807 := by
  rcases h.2 with ⟨rfl, hn⟩ | ⟨g, cap, cur, rfl, _, _, hn, hm, _⟩
  · exact ⟨none, 0, by rw [hn], by omega, by omega⟩
  · exact ⟨_, cap, rfl, hn, by unfold maxLen at hm; omega⟩
theorem R.ty (h : R E w o l) (k : Nat) (hk : o.ownBlock = some k) : ∃ c, w.heap[k]? = some (.cells c E.e (0, 0)) := by
  rcases h.2 with ⟨rfl, hn⟩ | ⟨g, cap, cur, rfl, _, hg, hn, hm, _⟩
  · simp [Value.ownBlock] at hk
  · simp [Value.ownBlock] at hk
    subst hk
    exact ⟨_, hg⟩
theorem R.isIn (h : R E w o l) : In E w o l := by
  have h' := h
  rcases h.2 with ⟨rfl, hn⟩ | ⟨g, cap, cur, rfl, _, _, hn, hm, _⟩
  · exact .inl ⟨rfl, List.eq_nil_of_length_eq_zero hn⟩
  · exact .inr ⟨_, cap, rfl, hn, by unfold maxLen at hm; omega, World.ownsRow.cells h' (g := g) rfl⟩
theorem In.below (h : In E w v l) (hb : Below w.heap.size w w') : In E w' v l := by
  rcases h with h | ⟨a, cap, h1, h2, h3, h5⟩
  · exact .inl h
  · refine .inr ⟨a, cap, h1, h2, h3, fun j u hu => ?_⟩
    have := h5 j u hu
    have hlt := World.block_lt_of_cell? _ _ this
    exact (hb.cell hlt).trans this
theorem In.slice (h : In E w v l) : ∃ base cap, v = .slice base l.length cap ∧ l.length ≤ cap ∧ cap ≤ 9223372036854775807 := by
  rcases h with ⟨rfl, rfl⟩ | ⟨a, cap, h1, h2, h3, h5⟩
  · exact ⟨none, 0, rfl, Nat.le_refl _, by omega⟩
  · exact ⟨_, cap, h1, h2, h3⟩
theorem spot_none {W : World} {a : Addr} {u : Value} (h : W.cell? a = some u) : a.spot = none := by
  unfold World.cell? at h
  split at h
  · split at h
    · cases h
    · rename_i h1
      simpa using h1
  · cases h
theorem In.get (h : In E w v l) (ok : E.Ok) (k : Nat) (hk : k < l.length) : ∃ B off cap, v = .slice (some ⟨B, off, none⟩) l.length cap ∧ B < w.heap.size ∧ ∀ i u, (E.enc l[k])[i]? = some u → w.cell? ⟨B, off + k * E.sz + i, none⟩ = some u := by
  rcases h with ⟨rfl, rfl⟩ | ⟨a, cap, h1, h2, h3, h5⟩
  · exact absurd hk (by simp)
  · obtain ⟨B, off, spot⟩ := a
    have h0 := ok.get l 0 0 (by omega) ok.pos
    obtain ⟨u0, hu0⟩ : ∃ u, (E.enc (l[0]'(by omega)))[0]? = some u := ⟨(E.enc (l[0]'(by omega)))[0]'(by rw [ok.len]; exact ok.pos), List.getElem?_eq_getElem _⟩
    have hc := h5 _ _ (h0.trans hu0)
    have hs := spot_none hc
    have hlt := World.block_lt_of_cell? _ _ hc
    simp [Addr.add] at hs hlt
    subst hs
    refine ⟨B, off, cap, h1, hlt, fun i u hu => ?_⟩
    have hi : i < E.sz := by
      have := (List.getElem?_eq_some_iff.1 hu).1
      rw [ok.len] at this
      exact this
    have := h5 _ _ ((ok.get l k i hk hi).trans hu)
    rw [Addr.add_lit, ← Nat.add_assoc] at this
    exact this

theorem info_z (ok : E.Ok) : ∃ i0 z, Tryz.prog.info? E.e = some i0 ∧ i0.zero = some z ∧ i0.size = E.sz ∧ i0.bytes = E.by' ∧ z.cells.size = E.sz := by
  have h := ok.info
  cases hi : Tryz.prog.info? E.e with
  | none => rw [hi] at h; simp at h
  | some i0 =>
    rw [hi] at h
    simp at h
    obtain ⟨⟨z, h1, h2⟩, h3, h4⟩ := h
    exact ⟨i0, z, rfl, h1, h3, h4, h2⟩

/-- append, whatever is appended -/
theorem app (ok : E.Ok) (w : World) (o : Value) (l : List α) (hR : R E w o l) (v : Value) (news : List α) (hv : In E w v news) (hlen : (l.length + news.length) * E.by' ≤ 140737488355328) :
    ∃ base cap w', (Builtin.append_ #[E.t, E.t] E.t #[o, v]).run Tryz.prog w = .ok (.slice base (l.length + news.length) cap) w' ∧ R E w' (.slice base (l.length + news.length) cap) (l ++ news) ∧ Gr w w' o (.slice base (l.length + news.length) cap) := by
  obtain ⟨i0, z, hi0, hz0, hz1, hz2, hz3⟩ := info_z ok
  rcases hv with ⟨rfl, rfl⟩ | ⟨a, c, rfl, hc1, hc2, hc⟩
  · obtain ⟨b, cap, rfl, _⟩ := hR.slice
    exact ⟨b, cap, w, run_append_owned_none (P := Tryz.prog) (w := w) 0 E.t E.t E.e i0 E.sz ok.und hi0 _ l.length (E.cs l) hR, by simpa using hR, Gr.refl _ _⟩
  · have hmul : l.length + news.length ≤ (l.length + news.length) * E.by' := Nat.le_mul_of_pos_right _ ok.bpos
    have hml : l.length + news.length ≤ maxLen := by unfold maxLen; omega
    obtain ⟨v', w', hrun, ho, hg, hnil⟩ := run_append_own (P := Tryz.prog) w 0 E.t E.t E.e i0 z E.sz E.by' ok.und hi0 hz0 hz1 hz2 hz3 ok.pos o l.length (E.cs l) hR a news.length c (E.cs news) (ok.length news) hc (ok.ones news) hml hlen (Nat.zero_le _)
    have hown : ∀ k, v'.ownBlock = some k → o.ownBlock = some k ∨ w.heap.size ≤ k := by
      intro k hk
      rcases hR.2 with ⟨rfl, h0⟩ | ⟨g, cap, cur, rfl, _, hgg, hnc, _, hcs, _⟩
      · by_cases hm : news.length = 0
        · rw [hnil.2 ⟨rfl, hm⟩] at hk
          simp [Value.ownBlock] at hk
        · have hb : news.length ≤ news.length * E.by' := Nat.le_mul_of_pos_right _ ok.bpos
          have hb2 : news.length * E.by' ≤ (l.length + news.length) * E.by' := Nat.mul_le_mul_right _ (by omega)
          have hr := run_append_nil (P := Tryz.prog) w E.t E.t E.e i0 z ok.und hi0 hz0 a news.length c (E.cs news) (by rw [hz1]; exact ok.length news) hc (by omega) (by omega) (by rw [hz2]; omega)
          rw [hrun] at hr
          injection hr with hr _
          subst hr
          simp [Value.ownBlock] at hk
          exact .inr (by omega)
      · by_cases hroom : l.length + news.length ≤ cap
        · have hr := run_append_room (P := Tryz.prog) w E.t E.t E.e i0 ok.und hi0 g l.length cap cur hgg a news.length c (E.cs news) (by rw [hz1]; exact ok.length news) hc (ok.ones news) hroom (by
            rw [hcs, ok.length, hz1, ← Nat.add_mul]
            exact Nat.mul_le_mul_right _ hroom)
          rw [hrun] at hr
          injection hr with hr _
          subst hr
          exact .inl hk
        · have hr := run_append_grow (P := Tryz.prog) w E.t E.t E.e i0 z ok.und hi0 hz0 ⟨g, 0, none⟩ l.length cap (E.cs l) (by rw [hz1]; exact ok.length l) (World.ownsRow.cells hR (g := g) rfl) a news.length c (E.cs news) (by rw [hz1]; exact ok.length news) hc (by omega) (by omega) (growslice_fits (by omega) (by rw [hz2]; exact hlen))
          rw [hrun] at hr
          injection hr with hr _
          subst hr
          simp [Value.ownBlock] at hk
          exact .inr (by omega)
    have hP : R E w' v' (l ++ news) := by
      unfold R
      rw [El.cs_append, List.length_append]
      exact ho
    obtain ⟨base, cap, rfl, _⟩ := hP.slice
    rw [List.length_append] at hrun hP hown
    exact ⟨base, cap, w', hrun, hP, hg.os, hg.tape, hg.output, hg.size, fun k hk hne => hg.block k hk (fun e => hne e.symm), hown⟩

/-- one element, in a block of its own, can be read behind the slice that was built -/
theorem in_one (w : World) (B : Nat) (x : α) (c : Array Value) (t : TypeId) (fz : Nat × Nat) (h : w.heap[B]? = some (.cells c t fz)) (hc : c.toList = E.enc x) : In E w (.slice (some ⟨B, 0, none⟩) 1 1) [x] := by
  refine .inr ⟨_, 1, rfl, Nat.le_refl _, by omega, fun j u hu => ?_⟩
  rw [Addr.add_lit, cell_blk h, Nat.zero_add, ← Array.getElem?_toList, hc]
  simpa [El.cs] using hu

/-- append, as one step of a region that draws, by the equation of its run. -/
theorem step_append_run {P : Program} {ops : Array Oper} {o : Oper} {a : Act} {w : World} {K : Act → World → Prop} {Q : Exit → Act → World → Prop} {R : Prop}
    (hg : o.guard = none) (s x : Operand) (t tn : TypeId) (ho : o.op = .call { callee := .builtin .append, args := #[s, x], argTypes := #[t, tn] })
    {vs vx v' : Value} {w' : World} (hr : (Builtin.append_ #[t, tn] o.type #[vs, vx]).run P w = .ok v' w') (hs : a.eval s = vs) (hx : a.eval x = vx)
    (hK : K (a.put o.dst v') w') : if Region.wanted o (yielded ops a.tmps) = true then Oper.wp P o a w K Q else R := by
  have hw : Region.wanted o (yielded ops a.tmps) = true := by simp [Region.wanted, hg]
  rw [if_pos hw]
  exact Lib.wp_append_run w s x t tn ho vs vx hs hx v' w' hr hK
/-- a call of a Go function, as one step of a region: for a guard -/
theorem step_value {P : Program} {ops : Array Oper} {o : Oper} {a : Act} {w : World} {K : Act → World → Prop} {Q : Exit → Act → World → Prop} {R : Prop}
    (f : FuncId) (xs : Array Operand) (ats : Array TypeId) (_ho : o.op = .call { callee := .value (.func f), args := xs, argTypes := ats })
    (h : if Region.wanted o (yielded ops a.tmps) = true then Oper.wp P o a w K Q else R) : if Region.wanted o (yielded ops a.tmps) = true then Oper.wp P o a w K Q else R := h
end Go.Proofs.YtghppkfopglgaaaGreatDoor
namespace Go.Proofs.YtghppkfopglgaaaGreatDoor
open Go.RowKit
set_option linter.unusedVariables false
set_option linter.unusedSimpArgs false

theorem El.cs_set {α : Type} {E : El α} (ok : E.Ok) (l : List α) (j i : Nat) (hj : j < l.length) (hi : i < E.sz) (u : Value) (x : α) (hx : E.enc x = (E.enc l[j]).set i u) : E.cs (l.set j x) = (E.cs l).set (j * E.sz + i) u := by
  induction l generalizing j with
  | nil => exact absurd hj (by simp)
  | cons a r ih =>
    cases j with
    | zero =>
      simp only [El.cs, List.set_cons_zero, List.flatMap_cons, Nat.zero_mul, Nat.zero_add]
      rw [hx, List.set_append_left _ _ (by rw [ok.len]; exact hi)]
      rfl
    | succ j =>
      have := ih j (by simpa using hj) hx
      simp only [El.cs, List.set_cons_succ, List.flatMap_cons] at this ⊢
      rw [this, List.set_append_right _ _ (by rw [ok.len, Nat.succ_mul]; omega), ok.len, show (j + 1) * E.sz + i - E.sz = j * E.sz + i by rw [Nat.succ_mul]; omega]

theorem R.setc {α : Type} {E : El α} (ok : E.Ok) {w : World} {v : Value} {l : List α} (h : R E w v l) (j i : Nat) (hj : j < l.length) (hi : i < E.sz) : ∃ g cap, v = .slice (some ⟨g, 0, none⟩) l.length cap ∧ l.length ≤ cap ∧ cap ≤ 9223372036854775807 ∧ g < w.heap.size ∧ v.ownBlock = some g ∧
    (∀ i' u', (E.enc l[j])[i']? = some u' → w.cell? ⟨g, j * E.sz + i', none⟩ = some u') ∧ (∀ o, w.frozen? ⟨g, o, none⟩ = false) ∧
    (∀ u x, E.enc x = (E.enc l[j]).set i u → R E (w.setCell ⟨g, j * E.sz + i, none⟩ u) v (l.set j x)) := by
  obtain ⟨B, off, cap, e, hB, d⟩ := h.isIn.get ok j hj
  obtain ⟨h3, h4⟩ := h
  rcases h4 with ⟨hv, h0⟩ | ⟨g', cap', cur, hv, hb, hg, hn, hm, hs, ht⟩
  · omega
  · rw [hv] at e
    injection e with e1 e2 e3
    injection e1 with e1
    injection e1 with e1 e4
    subst e1
    subst e3
    subst e4
    subst hv
    refine ⟨g', cap', rfl, hn, by unfold maxLen at hm; omega, (Array.getElem?_eq_some_iff.1 hg).1, rfl, fun i' u' hu => by have := d i' u' hu; rw [Nat.zero_add] at this; exact this, fun o => by simp [World.frozen?, hg], fun u x hx => ⟨by rw [ok.length], .inr ⟨g', cap', cur.setIfInBounds (j * E.sz + i) u, by rw [List.length_set], hb, setCell_block _ _ _ _ _ _ _ hg, by rw [List.length_set]; exact hn, hm, by simp [hs], ?_⟩⟩⟩
    rw [List.length_set, El.cs_set ok l j i hj hi u x hx, ← ht]
    simp only [Array.toList_setIfInBounds, List.take_set]

/-- a row of one, just built -/
theorem R.one {α : Type} {E : El α} (ok : E.Ok) {w : World} {g : Nat} {c : Array Value} (x : α) (h : w.heap[g]? = some (.cells c E.e (0, 0))) (hc : c.toList = E.enc x) : R E w (.slice (some ⟨g, 0, none⟩) 1 1) [x] := by
  have hl : c.size = E.sz := by rw [← Array.length_toList, hc, ok.len]
  refine ⟨by rw [ok.length], .inr ⟨g, 1, c, rfl, Nat.zero_le _, h, Nat.le_refl _, by decide, by rw [hl, Nat.one_mul], ?_⟩⟩
  simp only [El.cs, List.flatMap_cons, List.flatMap_nil, List.append_nil, List.length_singleton, Nat.one_mul]
  rw [← hl, List.take_of_length_le (by simp), hc]
end Go.Proofs.YtghppkfopglgaaaGreatDoor
