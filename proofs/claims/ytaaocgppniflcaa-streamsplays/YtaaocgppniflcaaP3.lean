/- Births. -/
import Derived.Test.YtaaocgppniflcaaP2
import Derived.Laws.BitsLemmas
import Derived.Laws.Bits64
namespace Go.Proofs.Ytaaocgppniflcaa
open Go.RowKit
set_option linter.unusedVariables false
set_option linter.unusedSimpArgs false

theorem wraps_i64_63 (n : Int) (h₀ : 0 ≤ n) (h₁ : n < 2 ^ 63) : IntKind.i64.wrap n = n := by rw [IntKind.wrap_i64]; omega
/-- of any number: its lower bits -/
theorem and_any (n : Int) (p : Nat) (hp : p ≤ 62) : bits .and .i64 n ((2 ^ p - 1 : Nat) : Int) = n % ((2 ^ p : Nat) : Int) := by
  have hpp : 2 ^ p < 2 ^ 63 := Nat.pow_lt_pow_right (by decide) (by omega)
  have hpos : 0 < 2 ^ p := Nat.two_pow_pos p
  have hd : 2 ^ p ∣ 2 ^ 64 := Nat.pow_dvd_pow 2 (by omega)
  have hb : (BitVec.ofInt 64 ((2 ^ p - 1 : Nat) : Int)).toNat = 2 ^ p - 1 := by
    rw [BitVec.ofInt_natCast, BitVec.toNat_ofNat]; exact Nat.mod_eq_of_lt (by omega)
  have ha : (BitVec.ofInt 64 n).toNat = (n % ((2 ^ 64 : Nat) : Int)).toNat := BitVec.toNat_ofInt n
  have key : (n % ((2 ^ 64 : Nat) : Int)).toNat % 2 ^ p = (n % ((2 ^ p : Nat) : Int)).toNat := by
    have h1 : 0 ≤ n % ((2 ^ 64 : Nat) : Int) := Int.emod_nonneg _ (by decide)
    have h2 : 0 ≤ n % ((2 ^ p : Nat) : Int) := Int.emod_nonneg _ (by omega)
    apply Int.ofNat.inj
    show (((n % ((2 ^ 64 : Nat) : Int)).toNat % 2 ^ p : Nat) : Int) = (((n % ((2 ^ p : Nat) : Int)).toNat : Nat) : Int)
    rw [Int.natCast_emod, Int.toNat_of_nonneg h1, Int.toNat_of_nonneg h2]
    exact Int.emod_emod_of_dvd n (Int.natCast_dvd_natCast.2 hd)
  have h2 : 0 ≤ n % ((2 ^ p : Nat) : Int) := Int.emod_nonneg _ (by omega)
  have h3 : n % ((2 ^ p : Nat) : Int) < ((2 ^ p : Nat) : Int) := Int.emod_lt_of_pos _ (by omega)
  show IntKind.i64.wrap (((BitVec.ofInt 64 n) &&& (BitVec.ofInt 64 ((2 ^ p - 1 : Nat) : Int))).toNat : Int) = _
  rw [BitVec.toNat_and, ha, hb, Nat.and_two_pow_sub_one_eq_mod, key, Int.toNat_of_nonneg h2]
  exact wraps_i64_63 _ h2 (by omega)


theorem and1 (n : Int) : bits .and .i64 n 1 = n % 2 := and_any n 1 (by decide)
theorem odd_pos {id : Int} (h : 1 ≤ id) : odd id = (id % 2 == 1) := by
  unfold odd
  rw [Int.tmod_eq_emod_of_nonneg (by omega), Bool.eq_iff_iff]
  simp
  omega
theorem tmod_pos {id : Int} (h : 1 ≤ id) : (id.tmod 2 == 1) = odd id := by
  rw [odd_pos h, Int.tmod_eq_emod_of_nonneg (by omega)]
theorem and_odd {id : Int} (h : 1 ≤ id) : bits .and .i64 id 1 = if odd id = true then 1 else 0 := by
  rw [and1, odd_pos h]
  by_cases h1 : id % 2 = 1
  · simp [h1]
  · simp [h1]; omega

/-- the greatest that was born, of the even ones and of the odd ones -/
def Tb.top (T : Tb) (o : Bool) : Int := T.last (o == T.cl)
theorem Tb.last_top (T : Tb) (id : Int) : T.last (T.ours id) = T.top (odd id) := rfl
theorem Tb.mv_look {T : Tb} (ok : T.Ok) (id n : Int) (g : Bool) (k x : Int) (hx : x ≠ id) : look (T.mv id n g k).L x = look T.L x := by
  have e : (T.mv id n g k).L = if (n == 6 && !(k == 6 && !g)) = true then dele T.L id else putm T.L id n := rfl
  rw [e]
  split
  · rw [look_dele ok.srt, if_neg hx]
  · rw [look_putm ok.srt, if_neg hx]
structure Bi (T : Tb) (bn : List Int) : Prop where
  nd : bn.Nodup
  born : ∀ x ∈ bn, T.Born x
  all : ∀ x v, look T.L x = some v → x ∈ bn
theorem Bi.new (c : Bool) : Bi (Tb.new c) [] := ⟨List.nodup_nil, (fun x hx => by cases hx), (fun x v h => by cases h)⟩
/-- an event that is no birth -/
theorem Bi.stay {T : Tb} {bn : List Int} (h : Bi T bn) (ok : T.Ok) (id : Int) (g : Bool) (k : Int) (hno : T.st id ≠ 0 ∨ (T.doo id g k).1.st id = 0) : Bi (T.doo id g k).1 bn ∧ (∀ o, (T.doo id g k).1.top o = T.top o) ∧ (((T.doo id g k).1.st id = 0) ↔ T.st id = 0) := by
  rcases T.doo_cases ok id g k with e | ⟨n, a1, a2, a3, a4, a5, a6, a7, a8, e⟩
  · rw [e]; exact ⟨h, fun _ => rfl, Iff.rfl⟩
  · have hs := a6
    have hst : (T.doo id g k).1.st id ≠ 0 := by
      have hb : (T.doo id g k).1.Born id := by
        rw [e]
        refine ⟨hs, ?_⟩
        have ho : (T.mv id n g k).ours id = T.ours id := rfl
        rw [ho, Tb.mv_last]
        simp
        omega
      have := (Tb.doo_ok ok id g k).born_st hb
      omega
    have hw : T.st id ≠ 0 := by
      rcases hno with h | h
      · exact h
      · exact absurd h hst
    have hb := Tb.born_of hs hw
    have hlast : ∀ l, (T.mv id n g k).last l = T.last l := fun l => by
      rw [Tb.mv_last]
      split
      · rename_i hl
        have : T.ours id = l := by simpa using hl
        have h2 := hb.2
        rw [this] at h2
        omega
      · rfl
    refine ⟨⟨h.nd, fun x hx => (h.born x hx).doo ok id g k, fun x v hl => ?_⟩, fun o => ?_, ?_⟩
    · rw [e] at hl
      by_cases hx : x = id
      · subst hx
        cases hl2 : look T.L x with
        | some u => exact h.all x u hl2
        | none =>
          have := (ok.born_st hb).2.2
          rw [hl2] at this
          exact absurd this a4
      · refine h.all x v ?_
        simp only at hl
        rw [Tb.mv_look ok id n g k x hx] at hl
        exact hl
    · rw [e]
      exact hlast _
    · exact ⟨fun h => absurd h hst, fun h => absurd h hw⟩
/-- a birth -/
theorem Bi.bear {T : Tb} {bn : List Int} (h : Bi T bn) (ok : T.Ok) (id : Int) (g : Bool) (k : Int) (h0 : T.st id = 0) (h1 : (T.doo id g k).1.st id ≠ 0) :
    1 ≤ id ∧ id ≤ 2147483647 ∧ T.top (odd id) < id ∧ (odd id = true → (k = 1 ∨ k = 2) ∧ (g != T.cl) = true) ∧ (odd id = false → k = 5 ∧ (g != T.cl) = false) ∧ Bi (T.doo id g k).1 (bn ++ [id]) ∧ (T.doo id g k).1.top (odd id) = id ∧ (T.doo id g k).1.top (!odd id) = T.top (!odd id) ∧ id ∉ bn := by
  rcases T.doo_cases ok id g k with e | ⟨n, a1, a2, a3, a4, a5, a6, a7, a8, e⟩
  · rw [e] at h1; exact absurd h0 h1
  · have hs := isStr_iff.1 a6
    obtain ⟨hB, hmay⟩ := a8 h0
    have hlt : T.last (T.ours id) < id := by
      by_cases hl : T.last (T.ours id) < id
      · exact hl
      · have := (ok.born_st ⟨a6, by omega⟩).1
        omega
    have hni : id ∉ bn := fun hm => by have := (ok.born_st (h.born id hm)).1; omega
    unfold Tb.may at hmay
    have hoo : T.ours id = (odd id == T.cl) := rfl
    refine ⟨hs.1, hs.2, hlt, ?_, ?_, ⟨?_, ?_, ?_⟩, ?_, ?_, hni⟩
    · intro ho
      rw [ho] at hmay
      unfold isB at hB
      simp at hmay hB
      have h5 := hmay.2
      refine ⟨by omega, ?_⟩
      cases hg : g <;> cases hc : T.cl <;> simp_all
    · intro ho
      rw [ho] at hmay
      simp at hmay
      refine ⟨hmay.2, ?_⟩
      cases hg : g <;> cases hc : T.cl <;> simp_all
    · rw [List.nodup_append]
      exact ⟨h.nd, by simp, fun x hx y hy => by simp at hy; subst hy; exact fun e => hni (e ▸ hx)⟩
    · intro x hx
      rcases List.mem_append.1 hx with hx | hx
      · exact (h.born x hx).doo ok id g k
      · simp at hx
        subst hx
        rw [e]
        refine ⟨a6, ?_⟩
        have ho : (T.mv x n g k).ours x = T.ours x := rfl
        rw [ho, Tb.mv_last]
        simp
        omega
    · intro x v hl
      rw [e] at hl
      by_cases hx : x = id
      · simp [hx]
      · refine List.mem_append.2 (.inl ?_)
        simp only at hl
        rw [Tb.mv_look ok id n g k x hx] at hl
        exact h.all x v hl
    · rw [e]
      show (T.mv id n g k).last (odd id == T.cl) = id
      rw [Tb.mv_last, hoo]
      simp
      rw [hoo] at hlt
      omega
    · rw [e]
      show (T.mv id n g k).last ((!odd id) == T.cl) = T.last ((!odd id) == T.cl)
      rw [Tb.mv_last, hoo, if_neg]
      cases odd id <;> cases T.cl <;> simp
/-- a stream below one that was born, itself not: Closed -/
theorem Bi.skipped {T : Tb} {bn : List Int} (h : Bi T bn) {id : Int} (h1 : 1 ≤ id) (h2 : id < T.top (odd id)) (ok : T.Ok) (hn : id ∉ bn) : T.st id = 6 := by
  have hb : T.Born id := ⟨isStr_iff.2 ⟨h1, by have := (ok.bound (T.ours id)).2; rw [T.last_top] at this; omega⟩, by rw [T.last_top]; omega⟩
  rw [(ok.born_st hb).2.2]
  cases hl : look T.L id with
  | none => rfl
  | some v => exact absurd (h.all id v hl) hn
theorem Bi.idle {T : Tb} {bn : List Int} (h : Bi T bn) (ok : T.Ok) {id : Int} (h0 : T.st id = 0) : id ∉ bn := fun hm => by have := (ok.born_st (h.born id hm)).1; omega
theorem Bi.mem_live {T : Tb} {bn : List Int} (h : Bi T bn) (ok : T.Ok) {x : Int} (hx : x ∈ bn) : decide (x ∈ T.live) = !(T.st x == 6) := by
  have e := (ok.born_st (h.born x hx)).2.2
  rw [Bool.eq_iff_iff]
  simp only [decide_eq_true_eq]
  show x ∈ (T.L.filter fun p => !(p.2 == 6)).map (·.1) ↔ _
  rw [mem_keys ok.srt, e]
  cases hl : look T.L x with
  | none => simp
  | some v => simp
/-- how many of a list that is born are as is asked -/
theorem Bi.counted {T : Tb} {bn : List Int} (h : Bi T bn) (ok : T.Ok) (c : Int → Int → Bool) (hc : ∀ x, c x 6 = false) : (bn.filter fun x => c x (T.st x)).length = (T.L.filter fun p => c p.1 p.2).length := by
  have e : ((T.L.filter fun p => c p.1 p.2).map (·.1)).Perm (bn.filter fun x => c x (T.st x)) := by
    refine (List.perm_ext_iff_of_nodup ((rise_keys ok.srt _).imp fun h => by omega) (h.nd.filter _)).2 fun x => ?_
    rw [mem_keys ok.srt, List.mem_filter]
    constructor
    · rintro ⟨v, h1, h2⟩
      have hm := h.all x v h1
      refine ⟨hm, ?_⟩
      rw [(ok.born_st (h.born x hm)).2.2, h1]
      exact h2
    · rintro ⟨hm, h2⟩
      rw [(ok.born_st (h.born x hm)).2.2] at h2
      cases hl : look T.L x with
      | none => rw [hl] at h2; simp [hc] at h2
      | some v => rw [hl] at h2; exact ⟨v, rfl, h2⟩
  rw [← e.length_eq, List.length_map]
/-- Next, by the greatest of ours -/
theorem Tb.Ok.next_says {T : Tb} (h : T.Ok) : T.next.2 = decide (T.lo + 2 ≤ 2147483647) ∧ (T.next.2 = true → T.lo < T.next.1 ∧ T.next.1 ≤ T.lo + 2 ∧ (T.next.1.tmod 2 == 1) = T.cl) := by
  have hlo := h.lo
  unfold Tb.next
  by_cases hc : (T.cl && T.lo == 0) = true
  · simp only [if_pos hc]
    simp at hc
    rw [if_neg (by decide)]
    refine ⟨by simp [hc.2], fun _ => ⟨by simp [hc.2], by simp [hc.2], by simp [hc.1]⟩⟩
  · simp only [if_neg hc]
    by_cases hs : isStr (T.lo + 2) = false
    · rw [if_pos hs]
      have := isStr_not.1 hs
      refine ⟨?_, fun h => by cases h⟩
      simp
      omega
    · rw [if_neg hs]
      have hs' : isStr (T.lo + 2) = true := by simpa using hs
      have := isStr_iff.1 hs'
      refine ⟨by simp; omega, fun _ => ⟨by simp; omega, by simp, ?_⟩⟩
      simp only
      rw [tmod_pos (by omega), odd_pos (by omega)]
      rcases h.plo with e | e
      · rw [e] at hc ⊢
        cases hcl : T.cl
        · decide
        · rw [hcl] at hc; simp at hc
      · have e2 : (odd T.lo == T.cl) = true := e
        by_cases h0 : T.lo = 0
        · rw [h0] at hc ⊢
          cases hcl : T.cl
          · decide
          · rw [hcl] at hc; simp at hc
        · rw [odd_pos (by omega)] at e2
          have e3 : (T.lo % 2 == 1) = T.cl := by simpa using e2
          rw [← e3, Bool.eq_iff_iff]
          simp
end Go.Proofs.Ytaaocgppniflcaa
