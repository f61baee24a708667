/- share, on lists: what each call leaves. -/
import Derived.Test.YtbmaknjeflblcaaS
namespace Go.Proofs.Ytbmaknjeflblcaa
open Go.RowKit
set_option linter.unusedVariables false
set_option linter.unusedSimpArgs false

variable {T : St} {id j c s f : Int} {t : List UInt8} {en : Bool}
theorem no_nil {b : List UInt8} {e : Bool} (h : no b e = true) : b = [] ∧ e = false := by
  unfold no at h
  simp at h
  exact h
theorem St.Ok.is_eq (h : T.Ok) (j : Int) : T.is j = !no (T.b j) (T.e j) := by
  unfold St.is St.b St.e
  cases hl : look T.q j with
  | none => rfl
  | some v => simp only [Option.isSome_some]; rw [h.nz _ (look_mem hl)]; rfl
theorem put_same (h : T.putE id ≠ 0) : T.put id t en = T := by rw [St.put, if_neg h]
theorem put_ok_ov (h : T.putE id = 0) : isId id = true ∧ T.ov id = false := by
  unfold St.putE at h
  cases hi : isId id
  · rw [if_pos hi] at h; cases h
  · rw [if_neg (by rw [hi]; simp)] at h
    cases ho : T.ov id
    · exact ⟨rfl, rfl⟩
    · rw [if_pos ho] at h; cases h
theorem putE_ok (h1 : isId id = true) (h2 : T.ov id = false) : T.putE id = 0 := by
  unfold St.putE
  rw [if_neg (by rw [h1]; simp), if_neg (by rw [h2]; simp)]
theorem putE_arg (h1 : isId id = false) : T.putE id = 1 := by
  unfold St.putE
  rw [if_pos h1]
theorem putE_state (h1 : isId id = true) (h2 : T.ov id = true) : T.putE id = 8 := by
  unfold St.putE
  rw [if_neg (by rw [h1]; simp), if_pos h2]
theorem kp_b (h : Srt T.q) (b : List UInt8) (e : Bool) (o : Mp Unit) : (⟨kp T.q id b e, o⟩ : St).b j = if j = id then b else T.b j := by
  unfold St.b
  simp only
  rw [look_kp h]
  by_cases hj : j = id
  · rw [if_pos hj, if_pos hj]
    cases hn : no b e
    · rfl
    · rw [(no_nil hn).1]; rfl
  · rw [if_neg hj, if_neg hj]
theorem kp_e (h : Srt T.q) (b : List UInt8) (e : Bool) (o : Mp Unit) : (⟨kp T.q id b e, o⟩ : St).e j = if j = id then e else T.e j := by
  unfold St.e
  simp only
  rw [look_kp h]
  by_cases hj : j = id
  · rw [if_pos hj, if_pos hj]
    cases hn : no b e
    · rfl
    · rw [(no_nil hn).2]; rfl
  · rw [if_neg hj, if_neg hj]
theorem put_b (h : T.Ok) (h0 : T.putE id = 0) : (T.put id t en).b j = if j = id then T.b id ++ t else T.b j := by
  rw [St.put, if_pos h0]
  exact kp_b h.sq _ _ _
theorem put_e (h : T.Ok) (h0 : T.putE id = 0) : (T.put id t en).e j = if j = id then en else T.e j := by
  rw [St.put, if_pos h0]
  exact kp_e h.sq _ _ _
theorem put_ov (h : T.Ok) (h0 : T.putE id = 0) : (T.put id t en).ov j = if j = id then en else T.ov j := by
  rw [St.put, if_pos h0]
  have h2 := (put_ok_ov h0).2
  unfold St.ov at h2 ⊢
  simp only
  cases en
  · simp only [Bool.false_eq_true, if_false]
    by_cases hj : j = id
    · rw [if_pos hj, hj]; exact h2
    · rw [if_neg hj]
  · simp only [if_true]
    rw [look_putm h.so]
    by_cases hj : j = id
    · rw [if_pos hj, if_pos hj]; rfl
    · rw [if_neg hj, if_neg hj]
theorem next_same (h : T.nextE id c s f ≠ 0) : T.next id c s f = T := by rw [St.next, if_neg h]
theorem nextP_no (h : T.nextE id c s f ≠ 0) : T.nextP id c s f = [] := by rw [St.nextP, if_neg h]
theorem nextL_no (h : T.nextE id c s f ≠ 0) : T.nextL id c s f = false := by rw [St.nextL, decide_eq_false h]; rfl
theorem next_b (h : T.Ok) (h0 : T.nextE id c s f = 0) : (T.next id c s f).b j = if j = id then (T.b id).drop (T.nextN id c s f) else T.b j := by
  rw [St.next, if_pos h0]
  exact kp_b h.sq _ _ _
theorem next_e (h : T.Ok) (h0 : T.nextE id c s f = 0) : (T.next id c s f).e j = if j = id then (T.e id && !T.nextL id c s f) else T.e j := by
  rw [St.next, if_pos h0]
  exact kp_e h.sq _ _ _
theorem next_ov : (T.next id c s f).ov j = T.ov j := by
  unfold St.next
  split <;> rfl
theorem drop_b (h : T.Ok) : (T.drop id).b j = if j = id then [] else T.b j := by
  unfold St.drop St.b
  simp only
  rw [look_dele h.sq]
  by_cases hj : j = id
  · rw [if_pos hj, if_pos hj]
  · rw [if_neg hj, if_neg hj]
theorem drop_e (h : T.Ok) : (T.drop id).e j = if j = id then false else T.e j := by
  unfold St.drop St.e
  simp only
  rw [look_dele h.sq]
  by_cases hj : j = id
  · rw [if_pos hj, if_pos hj]
  · rw [if_neg hj, if_neg hj]
theorem drop_ov (h : T.Ok) : (T.drop id).ov j = if j = id then false else T.ov j := by
  unfold St.drop St.ov
  simp only
  rw [look_dele h.so]
  by_cases hj : j = id
  · rw [if_pos hj, if_pos hj]; rfl
  · rw [if_neg hj, if_neg hj]
theorem is_not_id (h : T.Ok) (hi : isId id = false) : T.is id = false := by
  cases e : T.is id
  · rfl
  · rw [isId_iff.2 (h.is_id e)] at hi; cases hi
theorem new_b : St.new.b j = [] := rfl
theorem new_e : St.new.e j = false := rfl
theorem new_ov : St.new.ov j = false := rfl
theorem nextE_arg (h : f < 1) : T.nextE id c s f = 1 := by rw [St.nextE, if_pos h]
theorem nextE_none (h : ¬ f < 1) (h2 : T.is id = false) : T.nextE id c s f = 5 := by rw [St.nextE, if_neg h, if_pos h2]
theorem nextE_full (h : ¬ f < 1) (h2 : T.is id = true) (h3 : mg (T.b id) c s = false) : T.nextE id c s f = 6 := by rw [St.nextE, if_neg h, if_neg (by rw [h2]; simp), if_pos h3]
theorem nextE_ok (h : ¬ f < 1) (h2 : T.is id = true) (h3 : mg (T.b id) c s = true) : T.nextE id c s f = 0 := by rw [St.nextE, if_neg h, if_neg (by rw [h2]; simp), if_neg (by rw [h3]; simp)]
/-- no more than there was -/
theorem put_len (h : T.Ok) (id : Int) (t : List UInt8) (en : Bool) (j : Int) : ((T.put id t en).b j).length ≤ (T.b j).length + t.length := by
  by_cases h0 : T.putE id = 0
  · rw [put_b h h0]
    split
    · rename_i e; subst e; simp
    · omega
  · rw [put_same h0]; omega
theorem next_len (h : T.Ok) (id c s f j : Int) : ((T.next id c s f).b j).length ≤ (T.b j).length := by
  by_cases h0 : T.nextE id c s f = 0
  · rw [next_b h h0]
    split
    · rename_i e; subst e; simp
    · omega
  · rw [next_same h0]; omega
end Go.Proofs.Ytbmaknjeflblcaa
