/- Script: its plain model. Script: its plain model. Script: its plain model. Script: its plain model. -/
import Derived.WalkKit
import Derived.Lib.ParseIntB
import Derived.Lib.ItoaNum
import Derived.Lib.Bytealg
namespace Go.Proofs.YtghppkfopglgaaaGreatDoor
open Go.RowKit
set_option linter.unusedVariables false
set_option linter.unusedSimpArgs false
abbrev noS : ByteArray := ⟨#[]⟩
def bt (l : List UInt8) : ByteArray := ⟨l.toArray⟩
/-- a byte ahead of the first line -/
def addC (c : UInt8) : List (List UInt8) → List (List UInt8)
  | [] => [[c]]
  | l :: ls => (c :: l) :: ls
/-- a text's lines, each with the byte 10 that ends it -/
def lns : List UInt8 → List (List UInt8)
  | [] => []
  | c :: r => if c = 10 then [c] :: lns r else addC c (lns r)
def trimN (l : List UInt8) : List UInt8 := Lib.trimSuffix l [10]
def longB (s : List UInt8) : Bool := decide (65536 < s.length) || (lns s).any (fun l => decide (4096 < (trimN l).length)) || decide (1024 < (lns s).length)
/-- a word: 0 bare, 1 quoted, 2 the end of a line -/
structure Wd where
  k : Nat
  t : ByteArray
  deriving DecidableEq
def isPl (c : UInt8) : Bool := decide (32 ≤ c.toNat) && decide (c.toNat ≤ 126)
def hexS : List UInt8 := [48, 49, 50, 51, 52, 53, 54, 55, 56, 57, 97, 98, 99, 100, 101, 102]
def hexV (c : UInt8) : Int := Lib.indexByte hexS c
def hexOk (h l : UInt8) : Bool := decide (0 ≤ hexV h) && decide (0 ≤ hexV l)
def hexB (h l : UInt8) : UInt8 := UInt8.ofNat ((hexV h).toNat * 16 + (hexV l).toNat)
/-- what stands behind an opening quote: the text and what is behind its end -/
def unq : List UInt8 → Option (List UInt8 × List UInt8)
  | [] => none
  | c :: r =>
    if c = 34 then some ([], r)
    else if isPl c = false then none
    else if c = 92 then
      match r with
      | [] => none
      | x :: r1 =>
        if x = 34 ∨ x = 92 then (unq r1).map fun p => (x :: p.1, p.2)
        else if x = 120 then
          match r1 with
          | h :: l :: r2 => if hexOk h l then (unq r2).map fun p => (hexB h l :: p.1, p.2) else none
          | _ => none
        else none
    else (unq r).map fun p => (c :: p.1, p.2)
/-- a line's first word, and what is behind it -/
def fw (l : List UInt8) : Option (Wd × List UInt8) :=
  match l with
  | c :: r => if c = 34 then (unq r).map fun p => (⟨1, bt p.1⟩, p.2) else some (⟨0, bt (l.takeWhile (· ≠ 32))⟩, l.dropWhile (· ≠ 32))
  | [] => some (⟨0, noS⟩, [])
theorem unq_len : ∀ (l : List UInt8) p, unq l = some p → p.2.length < l.length
  | [], p, h => by simp [unq] at h
  | c :: r, p, h => by
    unfold unq at h
    split at h
    · cases h; simp
    · split at h
      · cases h
      · split at h
        · split at h
          · cases h
          · rename_i x r1
            split at h
            · obtain ⟨q, hq, rfl⟩ := Option.map_eq_some_iff.1 h
              have := unq_len r1 q hq
              simp; omega
            · split at h
              · split at h
                · rename_i h' l' r2
                  split at h
                  · obtain ⟨q, hq, rfl⟩ := Option.map_eq_some_iff.1 h
                    have := unq_len r2 q hq
                    simp; omega
                  · cases h
                · cases h
              · cases h
        · obtain ⟨q, hq, rfl⟩ := Option.map_eq_some_iff.1 h
          have := unq_len r q hq
          simp; omega
theorem dropw_len (p : UInt8 → Bool) : ∀ l : List UInt8, (l.dropWhile p).length ≤ l.length
  | [] => Nat.le_refl _
  | c :: r => by
    rw [List.dropWhile_cons]
    split
    · have := dropw_len p r
      simp; omega
    · exact Nat.le_refl _
theorem fw_len (l : List UInt8) (w : Wd) (c : UInt8) (r : List UInt8) (h : fw l = some (w, c :: r)) : r.length < l.length := by
  unfold fw at h
  split at h
  · split at h
    · obtain ⟨q, hq, e⟩ := Option.map_eq_some_iff.1 h
      have := unq_len _ q hq
      have e2 := (Prod.mk.inj e).2
      rw [e2] at this
      simp at this ⊢; omega
    · have e2 := (Prod.mk.inj (Option.some.inj h)).2
      rename_i c' r' _
      have := dropw_len (· ≠ 32) (c' :: r')
      rw [e2] at this
      simp at this ⊢; omega
  · exact absurd (Prod.mk.inj (Option.some.inj h)).2 (by simp)
/-- a line's words; none: it is not made of such -/
def wol (l : List UInt8) : Option (List Wd) :=
  match h : fw l with
  | none => none
  | some (w, []) => some [w]
  | some (w, c :: r) => if c = 32 then (wol r).map (w :: ·) else none
termination_by l.length
decreasing_by exact fw_len l w c r h
def silB (l : List UInt8) : Bool := match l with | [] => true | c :: _ => c == 35
def wds (s : List UInt8) : List Wd := ((lns s).map trimN).flatMap fun l => if silB l then [] else (wol l).getD [] ++ [⟨2, noS⟩]
end Go.Proofs.YtghppkfopglgaaaGreatDoor
namespace Go.Proofs.YtghppkfopglgaaaGreatDoor
open Go.RowKit
set_option linter.unusedVariables false
set_option linter.unusedSimpArgs false
structure Tg where
  a : ByteArray
  p : ByteArray
structure Ch where
  v : ByteArray
  b : ByteArray
structure Fd where
  n : ByteArray
  v : ByteArray
  nv : Bool
structure Si where
  t : Int
  p : Int
  s : Int
  w : Int
  f : Int
  l : Int
structure Pg where
  a : ByteArray
  p : ByteArray
  st : Int
  vr : ByteArray
  ch : List Ch
structure Ru where
  of : Tg
  push : List Tg
structure Rq where
  m : ByteArray
  s : ByteArray
  a : ByteArray
  p : ByteArray
  b : ByteArray
  fs : List Fd
structure Wo where
  sv : Si
  cl : Si
  ce : Int
  cb : Int
  cl' : Int
  cp : Int
  pg : List Pg
  ru : List Ru
  og : List ByteArray
structure Mv where
  k : Int
  n : Int
  rq : Rq
  pg : Pg
  si : Si
  by' : ByteArray
structure Cm where
  k : Int
  w : Wo
  m : Mv
  n : Int
  sv : Bool
def Si.z : Si := ⟨0, 0, 0, 0, 0, 0⟩
def Pg.z : Pg := ⟨noS, noS, 0, noS, []⟩
def Rq.z : Rq := ⟨noS, noS, noS, noS, noS, []⟩
def Wo.z : Wo := ⟨Si.z, Si.z, 0, 0, 0, 0, [], [], []⟩
def Mv.z : Mv := ⟨0, 0, Rq.z, Pg.z, Si.z, noS⟩
/-- what is still to be read -/
structure Rd where
  l : List Wd
  bad : Bool
def Rd.no : Rd := ⟨[], true⟩
def Rd.nx (r : Rd) (k : Nat) : ByteArray × Rd :=
  match r.l with
  | [] => (noS, Rd.no)
  | w :: l => if w.k = k then (w.t, ⟨l, r.bad⟩) else (noS, Rd.no)
def Rd.el (r : Rd) : Rd := (r.nx 2).2
def Rd.ov (r : Rd) : Bool := match r.l with | [] => true | w :: _ => decide (w.k = 2)
/-- what ParseInt tells, and whether it is a number's one form -/
def numV (l : List UInt8) : Int := match Lib.parseIntB 64 l with | .ok v => v | .«syntax» => 0 | .range => Lib.intSat 64 l
def numB (l : List UInt8) : Bool := match Lib.parseIntB 64 l with | .ok v => decide (Lib.itoa v = l) | _ => false
def Rd.nu (r : Rd) : Int × Rd := (numV (r.nx 0).1.data.toList, if numB (r.nx 0).1.data.toList then (r.nx 0).2 else Rd.no)
def Rd.sk (r : Rd) (s : ByteArray) : Bool × Rd :=
  match r.l with
  | [] => (false, r)
  | w :: l => if w.k = 0 ∧ w.t = s then (true, ⟨l, r.bad⟩) else (false, r)
def Rd.nm (r : Rd) (s : ByteArray) : Rd := if (r.sk s).1 then (r.sk s).2 else Rd.no
def Rd.si (r : Rd) : Si × Rd :=
  (⟨r.nu.1, r.nu.2.nu.1, r.nu.2.nu.2.nu.1, r.nu.2.nu.2.nu.2.nu.1, r.nu.2.nu.2.nu.2.nu.2.nu.1, r.nu.2.nu.2.nu.2.nu.2.nu.2.nu.1⟩, r.nu.2.nu.2.nu.2.nu.2.nu.2.nu.2)
/-- a loop that reads as long as it may -/
def loopR {α : Type} (f : Rd → Option (α × Rd)) : Nat → Rd → List α × Rd
  | 0, r => ([], r)
  | n + 1, r => match f r with
    | none => ([], r)
    | some (x, r1) => (x :: (loopR f n r1).1, (loopR f n r1).2)
def Rd.tg (r : Rd) : Tg × Rd := (⟨(r.nx 1).1, ((r.nx 1).2.nx 1).1⟩, ((r.nx 1).2.nx 1).2)
def fdR (r : Rd) : Option (Fd × Rd) :=
  if r.ov then none else
    let s := r.sk ⟨#[110, 101, 118, 101, 114]⟩
    some (⟨(s.2.nx 1).1, ((s.2.nx 1).2.nx 1).1, s.1⟩, ((s.2.nx 1).2.nx 1).2)
def chR (r : Rd) : Option (Ch × Rd) := if r.ov then none else some (⟨(r.nx 1).1, ((r.nx 1).2.nx 1).1⟩, ((r.nx 1).2.nx 1).2)
def tgR (r : Rd) : Option (Tg × Rd) := if r.ov then none else some r.tg
def Rd.rq (r : Rd) : Rq × Rd :=
  let a := r.nx 1
  let b := a.2.nx 1
  let c := b.2.nx 1
  let d := c.2.nx 1
  let e := d.2.nx 1
  let f := loopR fdR e.2.l.length e.2
  (⟨a.1, b.1, c.1, d.1, e.1, f.1⟩, f.2)
def Rd.pg (r : Rd) : Pg × Rd :=
  let a := r.nx 1
  let b := a.2.nx 1
  let c := b.2.nu
  let d := c.2.nx 1
  let f := loopR chR d.2.l.length d.2
  (⟨a.1, b.1, c.1, d.1, f.1⟩, f.2)
def Rd.ru (r : Rd) : Ru × Rd :=
  let f := loopR tgR r.tg.2.l.length r.tg.2
  (⟨r.tg.1, f.1⟩, f.2)
def nServer : ByteArray := ⟨#[115, 101, 114, 118, 101, 114]⟩
def nClient : ByteArray := ⟨#[99, 108, 105, 101, 110, 116]⟩
def nConf : ByteArray := ⟨#[99, 111, 110, 102]⟩
def nPage : ByteArray := ⟨#[112, 97, 103, 101]⟩
def nRule : ByteArray := ⟨#[114, 117, 108, 101]⟩
def nOrigin : ByteArray := ⟨#[111, 114, 105, 103, 105, 110]⟩
def nEnd : ByteArray := ⟨#[101, 110, 100]⟩
def pgR (r : Rd) : Option (Pg × Rd) := if (r.sk nPage).1 then some ((r.sk nPage).2.pg.1, (r.sk nPage).2.pg.2.el) else none
def ruR (r : Rd) : Option (Ru × Rd) := if (r.sk nRule).1 then some ((r.sk nRule).2.ru.1, (r.sk nRule).2.ru.2.el) else none
def ogR (r : Rd) : Option (ByteArray × Rd) := if (r.sk nOrigin).1 then some (((r.sk nOrigin).2.nx 1).1, ((r.sk nOrigin).2.nx 1).2.el) else none
def Rd.wo (r : Rd) : Wo × Rd :=
  let a := (r.nm nServer).si
  let b := (a.2.el.nm nClient).si
  let c := (b.2.el.nm nConf).nu
  let d := c.2.nu
  let e := d.2.nu
  let f := e.2.nu
  let r1 := f.2.el
  let p := loopR pgR r1.l.length r1
  let u := loopR ruR p.2.l.length p.2
  let o := loopR ogR u.2.l.length u.2
  (⟨a.1, b.1, c.1, d.1, e.1, f.1, p.1, u.1, o.1⟩, o.2.nm nEnd)
/-- the kinds' names -/
def kindL : List (List UInt8) := [[], "world".toUTF8.data.toList, [], "rounds".toUTF8.data.toList, "answers".toUTF8.data.toList, "log".toUTF8.data.toList, "cache".toUTF8.data.toList, "pipes".toUTF8.data.toList, "still".toUTF8.data.toList, "dead".toUTF8.data.toList, "trace".toUTF8.data.toList]
def moveL : List (List UInt8) := [[], "ask".toUTF8.data.toList, "cancel".toUTF8.data.toList, "server".toUTF8.data.toList, "client".toUTF8.data.toList, "toserver".toUTF8.data.toList, "toclient".toUTF8.data.toList, "tick".toUTF8.data.toList, "put".toUTF8.data.toList, "set".toUTF8.data.toList, "forge".toUTF8.data.toList]
def idxL (l : List (List UInt8)) (s : ByteArray) : Nat := match l.findIdx? (fun x => x == s.data.toList) with | some i => i | none => 0
def kindOf (s : ByteArray) : Nat := idxL kindL s
def moveOf (s : ByteArray) : Nat := idxL moveL s
def Rd.mv (r : Rd) (s : ByteArray) : Mv × Rd :=
  match moveOf s with
  | 0 => ({ Mv.z with k := 0 }, Rd.no)
  | 1 => ({ Mv.z with k := 1, rq := r.rq.1 }, r.rq.2)
  | 8 => ({ Mv.z with k := 8, pg := r.pg.1 }, r.pg.2)
  | 9 => ({ Mv.z with k := 9, si := r.si.1 }, r.si.2)
  | 10 => ({ Mv.z with k := 10, n := r.nu.1, by' := (r.nu.2.nx 1).1 }, (r.nu.2.nx 1).2)
  | k => ({ Mv.z with k := k, n := r.nu.1 }, r.nu.2)
def Cm.of (k : Int) : Cm := ⟨k, Wo.z, Mv.z, 0, false⟩
/-- a command, but for the end of its last line -/
def Rd.cm1 (r : Rd) : Cm × Rd :=
  let a := r.nx 0
  match kindOf a.1 with
  | 0 => ({ Cm.of 2 with m := (a.2.mv a.1).1 }, (a.2.mv a.1).2)
  | 1 => ({ Cm.of 1 with w := a.2.el.wo.1 }, a.2.el.wo.2)
  | 3 => ({ Cm.of 3 with n := a.2.nu.1 }, a.2.nu.2)
  | 10 => ({ Cm.of 10 with sv := (a.2.sk nServer).1 }, if (a.2.sk nServer).1 then (a.2.sk nServer).2 else a.2.nm nClient)
  | k => (Cm.of k, a.2)
def Rd.cm (r : Rd) : Cm × Rd := (r.cm1.1, r.cm1.2.el)
def cmR (r : Rd) : Option (Cm × Rd) := match r.l with | [] => none | _ :: _ => some r.cm
def cmsL (l : List Wd) : List Cm × Bool := ((loopR cmR l.length ⟨l, false⟩).1, !(loopR cmR l.length ⟨l, false⟩).2.bad)
def parseL (s : List UInt8) : List Cm × Int := if longB s then ([], 3) else if (cmsL (wds s)).2 then ((cmsL (wds s)).1, 0) else ([], 260)
end Go.Proofs.YtghppkfopglgaaaGreatDoor
namespace Go.Proofs.YtghppkfopglgaaaGreatDoor
open Go.RowKit
set_option linter.unusedVariables false
set_option linter.unusedSimpArgs false
/-- each round leaves less -/
def Shr {α : Type} (f : Rd → Option (α × Rd)) : Prop := ∀ r x r1, f r = some (x, r1) → r1.l.length < r.l.length
theorem loopR_more {α : Type} {f : Rd → Option (α × Rd)} (h : Shr f) : ∀ (n : Nat) (r : Rd) (m : Nat), r.l.length ≤ n → r.l.length ≤ m → loopR f n r = loopR f m r
  | 0, r, m, h1, h2 => by
    cases m with
    | zero => rfl
    | succ m =>
      unfold loopR
      cases e : f r with
      | none => rfl
      | some p => have := h r p.1 p.2 e; omega
  | n + 1, r, m, h1, h2 => by
    cases m with
    | zero =>
      unfold loopR
      cases e : f r with
      | none => rfl
      | some p => have := h r p.1 p.2 e; omega
    | succ m =>
      unfold loopR
      cases e : f r with
      | none => rfl
      | some p =>
        obtain ⟨x, r1⟩ := p
        have := h r x r1 e
        simp only
        rw [loopR_more h n r1 m (by omega) (by omega)]
/-- the loop, with as many rounds as there can be -/
def lpS {α : Type} (f : Rd → Option (α × Rd)) (r : Rd) : List α × Rd := loopR f r.l.length r
theorem lp_none {α : Type} {f : Rd → Option (α × Rd)} {r : Rd} (h : f r = none) : lpS f r = ([], r) := by
  unfold lpS
  cases r.l.length with
  | zero => rfl
  | succ n => unfold loopR; rw [h]
theorem lp_some {α : Type} {f : Rd → Option (α × Rd)} (h : Shr f) {r r1 : Rd} {x : α} (e : f r = some (x, r1)) : lpS f r = (x :: (lpS f r1).1, (lpS f r1).2) := by
  have := h r x r1 e
  unfold lpS
  obtain ⟨n, hn⟩ : ∃ n, r.l.length = n + 1 := ⟨r.l.length - 1, by omega⟩
  rw [hn]
  conv => lhs; unfold loopR
  rw [e]
  simp only
  rw [loopR_more h n r1 r1.l.length (by omega) (Nat.le_refl _)]
theorem nx_le (r : Rd) (k : Nat) : (r.nx k).2.l.length ≤ r.l.length := by
  unfold Rd.nx
  split
  · simp [Rd.no]
  · split
    · rename_i h _; rw [h]; simp
    · simp [Rd.no]
theorem nx_lt (r : Rd) (k : Nat) (h : r.l ≠ []) : (r.nx k).2.l.length < r.l.length := by
  unfold Rd.nx
  split
  · rename_i h2; exact absurd h2 h
  · split
    · rename_i h _; rw [h]; simp
    · rename_i h _; rw [h]; simp [Rd.no]
theorem nu_le (r : Rd) : r.nu.2.l.length ≤ r.l.length := by
  unfold Rd.nu
  split
  · exact nx_le r 0
  · simp [Rd.no]
theorem sk_le (r : Rd) (s : ByteArray) : (r.sk s).2.l.length ≤ r.l.length := by
  unfold Rd.sk
  split
  · exact Nat.le_refl _
  · split
    · rename_i h _; rw [h]; simp
    · exact Nat.le_refl _
theorem sk_lt (r : Rd) (s : ByteArray) (h : (r.sk s).1 = true) : (r.sk s).2.l.length < r.l.length := by
  unfold Rd.sk at h ⊢
  split at h
  · cases h
  · split at h
    · rename_i h1 h2; rw [h1]; simp [h2]
    · cases h
theorem nm_le (r : Rd) (s : ByteArray) : (r.nm s).l.length ≤ r.l.length := by
  unfold Rd.nm
  split
  · exact sk_le r s
  · simp [Rd.no]
theorem ov_ne {r : Rd} (h : r.ov = false) : r.l ≠ [] := by
  intro e
  unfold Rd.ov at h
  rw [e] at h
  cases h
theorem fd_shr : Shr fdR := fun r x r1 h => by
  unfold fdR at h
  split at h
  · cases h
  · rename_i ho
    simp only [Option.some.injEq, Prod.mk.injEq] at h
    obtain ⟨_, rfl⟩ := h
    have h0 : r.l ≠ [] := ov_ne (by simpa using ho)
    have h1 := sk_le r ⟨#[110, 101, 118, 101, 114]⟩
    have h2 := nx_le (r.sk ⟨#[110, 101, 118, 101, 114]⟩).2 1
    have h3 := nx_le ((r.sk ⟨#[110, 101, 118, 101, 114]⟩).2.nx 1).2 1
    by_cases hs : (r.sk ⟨#[110, 101, 118, 101, 114]⟩).1 = true
    · have := sk_lt r _ hs; omega
    · have e : (r.sk ⟨#[110, 101, 118, 101, 114]⟩).2 = r := by
        unfold Rd.sk at hs ⊢
        split
        · rfl
        · split
          · simp_all
          · rfl
      have := nx_lt r 1 h0
      rw [e] at h1 h2 h3 ⊢
      omega
theorem ch_shr : Shr chR := fun r x r1 h => by
  unfold chR at h
  split at h
  · cases h
  · rename_i ho
    simp only [Option.some.injEq, Prod.mk.injEq] at h
    obtain ⟨_, rfl⟩ := h
    have := nx_lt r 1 (ov_ne (by simpa using ho))
    have := nx_le (r.nx 1).2 1
    omega
theorem tg_shr : Shr tgR := fun r x r1 h => by
  unfold tgR at h
  split at h
  · cases h
  · rename_i ho
    simp only [Option.some.injEq, Rd.tg, Prod.mk.injEq] at h
    obtain ⟨_, rfl⟩ := h
    have := nx_lt r 1 (ov_ne (by simpa using ho))
    have := nx_le (r.nx 1).2 1
    omega
theorem loop_le {α : Type} {f : Rd → Option (α × Rd)} (h : Shr f) : ∀ (n : Nat) (r : Rd), (loopR f n r).2.l.length ≤ r.l.length
  | 0, r => Nat.le_refl _
  | n + 1, r => by
    unfold loopR
    cases e : f r with
    | none => exact Nat.le_refl _
    | some p =>
      have := h r p.1 p.2 e
      have := loop_le h n p.2
      simp only
      omega
theorem lp_le {α : Type} {f : Rd → Option (α × Rd)} (h : Shr f) (r : Rd) : (lpS f r).2.l.length ≤ r.l.length := loop_le h _ r
theorem el_le (r : Rd) : r.el.l.length ≤ r.l.length := nx_le r 2
theorem tgx_le (r : Rd) : r.tg.2.l.length ≤ r.l.length := by
  have := nx_le r 1
  have := nx_le (r.nx 1).2 1
  show ((r.nx 1).2.nx 1).2.l.length ≤ _
  omega
theorem pg_le (r : Rd) : r.pg.2.l.length ≤ r.l.length := by
  have h1 := nx_le r 1
  have h2 := nx_le (r.nx 1).2 1
  have h3 := nu_le ((r.nx 1).2.nx 1).2
  have h4 := nx_le ((r.nx 1).2.nx 1).2.nu.2 1
  have h5 := lp_le ch_shr (((r.nx 1).2.nx 1).2.nu.2.nx 1).2
  show (lpS chR (((r.nx 1).2.nx 1).2.nu.2.nx 1).2).2.l.length ≤ _
  omega
theorem ru_le (r : Rd) : r.ru.2.l.length ≤ r.l.length := by
  have h1 := tgx_le r
  have h5 := lp_le tg_shr r.tg.2
  show (lpS tgR r.tg.2).2.l.length ≤ _
  omega
theorem rq_le (r : Rd) : r.rq.2.l.length ≤ r.l.length := by
  have h1 := nx_le r 1
  have h2 := nx_le (r.nx 1).2 1
  have h3 := nx_le ((r.nx 1).2.nx 1).2 1
  have h4 := nx_le (((r.nx 1).2.nx 1).2.nx 1).2 1
  have h5 := nx_le ((((r.nx 1).2.nx 1).2.nx 1).2.nx 1).2 1
  have h6 := lp_le fd_shr (((((r.nx 1).2.nx 1).2.nx 1).2.nx 1).2.nx 1).2
  show (lpS fdR (((((r.nx 1).2.nx 1).2.nx 1).2.nx 1).2.nx 1).2).2.l.length ≤ _
  omega
theorem si_le (r : Rd) : r.si.2.l.length ≤ r.l.length := by
  have h1 := nu_le r
  have h2 := nu_le r.nu.2
  have h3 := nu_le r.nu.2.nu.2
  have h4 := nu_le r.nu.2.nu.2.nu.2
  have h5 := nu_le r.nu.2.nu.2.nu.2.nu.2
  have h6 := nu_le r.nu.2.nu.2.nu.2.nu.2.nu.2
  show r.nu.2.nu.2.nu.2.nu.2.nu.2.nu.2.l.length ≤ _
  omega
theorem pg_shr : Shr pgR := fun r x r1 h => by
  unfold pgR at h
  split at h
  · rename_i hs
    simp only [Option.some.injEq, Prod.mk.injEq] at h
    obtain ⟨_, rfl⟩ := h
    have := sk_lt r _ hs
    have := pg_le (r.sk nPage).2
    have := el_le (r.sk nPage).2.pg.2
    omega
  · cases h
theorem ru_shr : Shr ruR := fun r x r1 h => by
  unfold ruR at h
  split at h
  · rename_i hs
    simp only [Option.some.injEq, Prod.mk.injEq] at h
    obtain ⟨_, rfl⟩ := h
    have := sk_lt r _ hs
    have := ru_le (r.sk nRule).2
    have := el_le (r.sk nRule).2.ru.2
    omega
  · cases h
theorem og_shr : Shr ogR := fun r x r1 h => by
  unfold ogR at h
  split at h
  · rename_i hs
    simp only [Option.some.injEq, Prod.mk.injEq] at h
    obtain ⟨_, rfl⟩ := h
    have := sk_lt r _ hs
    have := nx_le (r.sk nOrigin).2 1
    have := el_le ((r.sk nOrigin).2.nx 1).2
    omega
  · cases h
set_option maxRecDepth 100000 in
theorem wo_le (r : Rd) : r.wo.2.l.length ≤ r.l.length := by
  have L : ∀ q : Rd, q.nu.2.nu.2.nu.2.nu.2.el.l.length ≤ q.l.length := fun q => by
    have h1 := nu_le q
    have h2 := nu_le q.nu.2
    have h3 := nu_le q.nu.2.nu.2
    have h4 := nu_le q.nu.2.nu.2.nu.2
    have h5 := el_le q.nu.2.nu.2.nu.2.nu.2
    omega
  have M : ∀ q : Rd, ((lpS ogR (lpS ruR (lpS pgR q).2).2).2.nm nEnd).l.length ≤ q.l.length := fun q => by
    have h1 := lp_le pg_shr q
    have h2 := lp_le ru_shr (lpS pgR q).2
    have h3 := lp_le og_shr (lpS ruR (lpS pgR q).2).2
    have h4 := nm_le (lpS ogR (lpS ruR (lpS pgR q).2).2).2 nEnd
    omega
  have S : ∀ (q : Rd) (s : ByteArray), (q.nm s).si.2.el.l.length ≤ q.l.length := fun q s => by
    have h1 := nm_le q s
    have h2 := si_le (q.nm s)
    have h3 := el_le (q.nm s).si.2
    omega
  have e : r.wo.2 = (lpS ogR (lpS ruR (lpS pgR ((((r.nm nServer).si.2.el.nm nClient).si.2.el.nm nConf).nu.2.nu.2.nu.2.nu.2.el)).2).2).2.nm nEnd := rfl
  rw [e]
  have h1 := M ((((r.nm nServer).si.2.el.nm nClient).si.2.el.nm nConf).nu.2.nu.2.nu.2.nu.2.el)
  have h2 := L (((r.nm nServer).si.2.el.nm nClient).si.2.el.nm nConf)
  have h3 := nm_le ((r.nm nServer).si.2.el.nm nClient).si.2.el nConf
  have h4 := S (r.nm nServer).si.2.el nClient
  have h5 := S r nServer
  exact Nat.le_trans h1 (Nat.le_trans h2 (Nat.le_trans h3 (Nat.le_trans h4 h5)))
set_option maxRecDepth 100000 in
theorem mv_le (r : Rd) (s : ByteArray) : (r.mv s).2.l.length ≤ r.l.length := by
  unfold Rd.mv
  split
  · simp [Rd.no]
  · exact rq_le r
  · exact pg_le r
  · exact si_le r
  · exact Nat.le_trans (nx_le _ 1) (nu_le r)
  · exact nu_le r
set_option maxRecDepth 100000 in
theorem cm1_lt (r : Rd) (h : r.l ≠ []) : r.cm1.2.l.length < r.l.length := by
  have h0 := nx_lt r 0 h
  unfold Rd.cm1
  simp only
  split
  · exact Nat.lt_of_le_of_lt (mv_le _ _) h0
  · exact Nat.lt_of_le_of_lt (Nat.le_trans (wo_le _) (el_le _)) h0
  · exact Nat.lt_of_le_of_lt (nu_le _) h0
  · show (if ((r.nx 0).2.sk nServer).1 = true then ((r.nx 0).2.sk nServer).2 else (r.nx 0).2.nm nClient).l.length < _
    split
    · exact Nat.lt_of_le_of_lt (sk_le _ _) h0
    · exact Nat.lt_of_le_of_lt (nm_le _ _) h0
  · exact h0
set_option maxRecDepth 100000 in
theorem cm_shr : Shr cmR := fun r x r1 h => by
  unfold cmR at h
  split at h
  · cases h
  · rename_i hl
    simp only [Option.some.injEq, Rd.cm, Prod.mk.injEq] at h
    obtain ⟨_, rfl⟩ := h
    exact Nat.lt_of_le_of_lt (el_le _) (cm1_lt r (by rw [hl]; simp))
end Go.Proofs.YtghppkfopglgaaaGreatDoor
namespace Go.Proofs.YtghppkfopglgaaaGreatDoor
open Go.RowKit
set_option linter.unusedVariables false
set_option linter.unusedSimpArgs false
/-- a byte within quotes, in its one form -/
def qtC (c : UInt8) : List UInt8 := if isPl c then (if c = 34 ∨ c = 92 then [92, c] else [c]) else [92, 120, hexS.getD (c.toNat / 16) 0, hexS.getD (c.toNat % 16) 0]
def qtS (l : List UInt8) : List UInt8 := 34 :: (l.flatMap qtC ++ [34])
def unqAdd (c : UInt8) (r : List UInt8) : Option (List UInt8 × List UInt8) := (unq r).map fun p => (c :: p.1, p.2)
theorem all_u8 {p : UInt8 → Prop} (h : ∀ n : Fin 256, p (UInt8.ofNat n)) (c : UInt8) : p c := by
  have := h ⟨c.toNat, c.toNat_lt⟩
  simpa using this
theorem unq_c : ∀ c : UInt8, isPl c = true → c ≠ 34 → c ≠ 92 → ∀ r, unq (c :: r) = unqAdd c r := fun c h1 h2 h3 r => by
  unfold unq
  rw [if_neg h2, if_neg (by rw [h1]; simp), if_neg h3]
  rfl
theorem unq_e (c : UInt8) (h : c = 34 ∨ c = 92) (r : List UInt8) : unq (92 :: c :: r) = unqAdd c r := by
  unfold unq
  rw [if_neg (by decide), if_neg (by decide), if_pos rfl]
  simp only
  rw [if_pos h]
  rfl
theorem hex_rt : ∀ n : Fin 256, hexOk (hexS.getD (n.val / 16) 0) (hexS.getD (n.val % 16) 0) = true ∧ hexB (hexS.getD (n.val / 16) 0) (hexS.getD (n.val % 16) 0) = UInt8.ofNat n.val := by decide +kernel
theorem unq_x (c : UInt8) (r : List UInt8) : unq (92 :: 120 :: hexS.getD (c.toNat / 16) 0 :: hexS.getD (c.toNat % 16) 0 :: r) = unqAdd c r := by
  unfold unq
  rw [if_neg (by decide), if_neg (by decide), if_pos rfl]
  simp only
  rw [if_neg (by decide), if_pos (by decide)]
  obtain ⟨h1, h2⟩ := hex_rt ⟨c.toNat, c.toNat_lt⟩
  simp only at h1 h2
  rw [if_pos h1, h2, UInt8.ofNat_toNat]
  rfl
theorem unq_qt : ∀ (s r : List UInt8), unq (s.flatMap qtC ++ 34 :: r) = some (s, r)
  | [], r => by
    rw [List.flatMap_nil, List.nil_append]
    unfold unq
    rw [if_pos rfl]
  | c :: s, r => by
    have ih := unq_qt s r
    rw [List.flatMap_cons, List.append_assoc]
    have : unq (qtC c ++ (s.flatMap qtC ++ 34 :: r)) = unqAdd c (s.flatMap qtC ++ 34 :: r) := by
      unfold qtC
      split
      · split
        · rename_i h; exact unq_e c h _
        · rename_i h1 h2
          exact unq_c c h1 (fun e => h2 (.inl e)) (fun e => h2 (.inr e)) _
      · exact unq_x c _
    rw [this, unqAdd, ih]
    rfl
/-- a word as it is written -/
def wtx (w : Wd) : List UInt8 := if w.k = 1 then qtS w.t.data.toList else w.t.data.toList
def ltx : List Wd → List UInt8
  | [] => []
  | [w] => wtx w
  | w :: v :: l => wtx w ++ 32 :: ltx (v :: l)
/-- a bare word of letters, digits or a minus sign -/
def brC (c : UInt8) : Bool := decide (c.toNat = 45) || decide (48 ≤ c.toNat ∧ c.toNat ≤ 57) || decide (97 ≤ c.toNat ∧ c.toNat ≤ 122)
def GdW (w : Wd) : Prop := w.k = 1 ∨ (w.k = 0 ∧ w.t.data.toList ≠ [] ∧ w.t.data.toList.all brC = true)
theorem bt_data (t : ByteArray) : bt t.data.toList = t := by cases t; rfl
theorem tw_all : ∀ (x r : List UInt8), x.all brC = true → (x ++ 32 :: r).takeWhile (· ≠ 32) = x ∧ (x ++ 32 :: r).dropWhile (· ≠ 32) = 32 :: r
  | [], r, _ => by simp
  | c :: x, r, h => by
    simp only [List.all_cons, Bool.and_eq_true] at h
    have hc : c ≠ 32 := by rintro rfl; exact absurd h.1 (by decide)
    obtain ⟨h1, h2⟩ := tw_all x r h.2
    rw [List.cons_append, List.takeWhile_cons_of_pos (by simpa using hc), List.dropWhile_cons_of_pos (by simpa using hc)]
    exact ⟨by rw [h1], h2⟩
theorem tw_end : ∀ (x : List UInt8), x.all brC = true → x.takeWhile (· ≠ 32) = x ∧ x.dropWhile (· ≠ 32) = []
  | [], _ => by simp
  | c :: x, h => by
    simp only [List.all_cons, Bool.and_eq_true] at h
    have hc : c ≠ 32 := by rintro rfl; exact absurd h.1 (by decide)
    obtain ⟨h1, h2⟩ := tw_end x h.2
    rw [List.takeWhile_cons_of_pos (by simpa using hc), List.dropWhile_cons_of_pos (by simpa using hc)]
    exact ⟨by rw [h1], h2⟩
theorem fw_more (w : Wd) (h : GdW w) (r : List UInt8) : fw (wtx w ++ 32 :: r) = some (w, 32 :: r) := by
  obtain ⟨k, t⟩ := w
  rcases h with rfl | ⟨rfl, hn, ha⟩
  · unfold wtx qtS
    simp only [if_pos]
    unfold fw
    simp only [List.cons_append, if_pos]
    rw [List.append_assoc, List.singleton_append, unq_qt]
    simp only [Option.map_some, bt_data]
  · unfold wtx
    rw [if_neg (by show ¬ (0 = 1); decide)]
    obtain ⟨h1, h2⟩ := tw_all t.data.toList r ha
    cases e : t.data.toList with
    | nil => exact absurd e hn
    | cons c x =>
      rw [e] at h1 h2 ha
      have hc : c ≠ 34 := by rintro rfl; simp [brC] at ha
      unfold fw
      simp only [List.cons_append]
      rw [if_neg hc]
      rw [List.cons_append] at h1 h2
      rw [h1, h2, ← e, bt_data]
theorem fw_end (w : Wd) (h : GdW w) : fw (wtx w) = some (w, []) := by
  obtain ⟨k, t⟩ := w
  rcases h with rfl | ⟨rfl, hn, ha⟩
  · unfold wtx qtS
    simp only [if_pos]
    unfold fw
    simp only [if_pos]
    rw [unq_qt]
    simp only [Option.map_some, bt_data]
  · unfold wtx
    rw [if_neg (by show ¬ (0 = 1); decide)]
    obtain ⟨h1, h2⟩ := tw_end t.data.toList ha
    cases e : t.data.toList with
    | nil => exact absurd e hn
    | cons c x =>
      rw [e] at h1 h2 ha
      have hc : c ≠ 34 := by rintro rfl; simp [brC] at ha
      unfold fw
      simp only
      rw [if_neg hc, h1, h2, ← e, bt_data]
theorem wol_of {l : List UInt8} {w : Wd} (h : fw l = some (w, [])) : wol l = some [w] := by
  rw [wol]
  split
  · rename_i e; rw [h] at e; cases e
  · rename_i e; rw [h] at e; cases e; rfl
  · rename_i e; rw [h] at e; cases e
theorem wol_more {l r : List UInt8} {w : Wd} (h : fw l = some (w, 32 :: r)) : wol l = (wol r).map (w :: ·) := by
  rw [wol]
  split
  · rename_i e; rw [h] at e; cases e
  · rename_i e; rw [h] at e; cases e
  · rename_i e; rw [h] at e; cases e; rw [if_pos rfl]
theorem wol_ltx : ∀ (l : List Wd), l ≠ [] → (∀ w ∈ l, GdW w) → wol (ltx l) = some l
  | [], h, _ => absurd rfl h
  | [w], _, h => wol_of (fw_end w (h w (by simp)))
  | w :: v :: l, _, h => by
    unfold ltx
    rw [wol_more (fw_more w (h w (by simp)) _), wol_ltx (v :: l) (by simp) (fun x hx => h x (by simp [hx]))]
    rfl
theorem lns_line : ∀ (x r : List UInt8), (∀ c ∈ x, c ≠ 10) → lns (x ++ 10 :: r) = (x ++ [10]) :: lns r
  | [], r, _ => by simp [lns]
  | c :: x, r, h => by
    rw [List.cons_append]
    show (if c = 10 then [c] :: lns (x ++ 10 :: r) else addC c (lns (x ++ 10 :: r))) = _
    rw [if_neg (h c (by simp)), lns_line x r (fun y hy => h y (by simp [hy]))]
    rfl
theorem trimN_ln (x : List UInt8) : trimN (x ++ [10]) = x := by
  unfold trimN Lib.trimSuffix Lib.hasSuffix
  rw [if_pos (by simp)]
  simp
theorem br_pl : ∀ c : UInt8, brC c = true → c ≠ 10 ∧ c ≠ 35 := all_u8 (by decide +kernel)
theorem qt_pl : ∀ c : UInt8, ∀ d ∈ qtC c, d ≠ 10 := all_u8 (by decide +kernel)
theorem wtx_10 (w : Wd) (h : GdW w) : ∀ c ∈ wtx w, c ≠ 10 := by
  intro c hc
  unfold wtx at hc
  rcases h with e | ⟨e, _, ha⟩
  · rw [if_pos e] at hc
    unfold qtS at hc
    simp only [List.mem_cons, List.mem_append, List.mem_flatMap, List.not_mem_nil, or_false] at hc
    rcases hc with rfl | ⟨d, _, hd⟩ | rfl
    · decide
    · exact qt_pl d c hd
    · decide
  · rw [if_neg (by rw [e]; decide)] at hc
    exact (br_pl c (List.all_eq_true.1 ha c hc)).1
theorem ltx_10 : ∀ (l : List Wd), (∀ w ∈ l, GdW w) → ∀ c ∈ ltx l, c ≠ 10
  | [], _ => by simp [ltx]
  | [w], h => wtx_10 w (h w (by simp))
  | w :: v :: l, h => fun c hc => by
    unfold ltx at hc
    rcases List.mem_append.1 hc with hc | hc
    · exact wtx_10 w (h w (by simp)) c hc
    · rcases List.mem_cons.1 hc with rfl | hc
      · decide
      · exact ltx_10 (v :: l) (fun x hx => h x (by simp [hx])) c hc
theorem wtx_ne (w : Wd) (h : GdW w) : ∃ c x, wtx w = c :: x ∧ c ≠ 35 := by
  unfold wtx
  rcases h with e | ⟨e, hn, ha⟩
  · rw [if_pos e]; exact ⟨34, _, rfl, by decide⟩
  · rw [if_neg (by rw [e]; decide)]
    cases e2 : w.t.data.toList with
    | nil => exact absurd e2 hn
    | cons c x =>
      refine ⟨c, x, rfl, ?_⟩
      rw [e2] at ha
      simp only [List.all_cons, Bool.and_eq_true] at ha
      exact (br_pl c ha.1).2
theorem ltx_sil (l : List Wd) (hl : l ≠ []) (h : ∀ w ∈ l, GdW w) : silB (ltx l) = false := by
  cases l with
  | nil => exact absurd rfl hl
  | cons w l =>
    obtain ⟨c, x, e, hc⟩ := wtx_ne w (h w (by simp))
    cases l with
    | nil => unfold ltx; rw [e]; unfold silB; simpa using hc
    | cons v l => unfold ltx; rw [e]; unfold silB; simpa using hc
/-- lines of words, as a text -/
def txt (ls : List (List Wd)) : List UInt8 := ls.flatMap fun l => ltx l ++ [10]
theorem lns_txt : ∀ (ls : List (List Wd)), (∀ l ∈ ls, ∀ w ∈ l, GdW w) → lns (txt ls) = ls.map fun l => ltx l ++ [10]
  | [], _ => rfl
  | l :: ls, h => by
    unfold txt
    rw [List.flatMap_cons, List.append_assoc, List.singleton_append, lns_line _ _ (ltx_10 l (h l (by simp)))]
    rw [List.map_cons]
    exact congrArg _ (lns_txt ls fun x hx => h x (by simp [hx]))
/-- the words of such a text -/
theorem wds_txt (ls : List (List Wd)) (h : ∀ l ∈ ls, l ≠ [] ∧ ∀ w ∈ l, GdW w) : wds (txt ls) = ls.flatMap fun l => l ++ [⟨2, noS⟩] := by
  unfold wds
  rw [lns_txt ls (fun l hl => (h l hl).2), List.map_map]
  induction ls with
  | nil => rfl
  | cons l ls ih =>
    rw [List.map_cons, List.flatMap_cons, List.flatMap_cons, ih (fun x hx => h x (by simp [hx]))]
    congr 1
    simp only [Function.comp, trimN_ln]
    obtain ⟨h1, h2⟩ := h l (by simp)
    rw [if_neg (by rw [ltx_sil l h1 h2]; simp), wol_ltx l h1 h2]
    rfl
end Go.Proofs.YtghppkfopglgaaaGreatDoor
