/- share and the document's share keep the same. -/
import Derived.Test.YtbmaknjeflblcaaF4
import Derived.Test.YtbmaknjeflblcaaF6
namespace Go.Proofs.Ytbmaknjeflblcaa
open Go.RowKit
set_option linter.unusedVariables false
set_option linter.unusedSimpArgs false

structure Rl (T : St) (L : List Stm) : Prop where
  ok : T.Ok
  nd : L.Pairwise fun a b => a.id ≠ b.id
  mem : ∀ s ∈ L, isId s.id = true ∧ T.b s.id = s.t.data.toList ∧ T.e s.id = (s.o && !s.g) ∧ T.ov s.id = s.o
  non : ∀ id, (∀ s ∈ L, s.id ≠ id) → T.b id = [] ∧ T.e id = false ∧ T.ov id = false
  inv : ∀ s ∈ L, s.g = true → s.o = true ∧ s.t.size = 0
theorem Rl.new : Rl St.new [] := ⟨St.new_ok, List.Pairwise.nil, by simp, fun _ _ => ⟨rfl, rfl, rfl⟩, by simp⟩
variable {T : St} {L : List Stm} {id c s f : Int}
theorem ix_none (h : ix L id = none) : ∀ s ∈ L, s.id ≠ id := by
  unfold ix at h
  rw [List.findIdx?_eq_none_iff] at h
  intro s hs
  simpa using h s hs
theorem nd_get (h : L.Pairwise fun a b => a.id ≠ b.id) {i j : Nat} (hi : i < L.length) (hj : j < L.length) (e : L[i].id = L[j].id) : i = j := by
  rw [List.pairwise_iff_getElem] at h
  rcases Nat.lt_trichotomy i j with h1 | h1 | h1
  · exact absurd e (h i j hi hj h1)
  · exact h1
  · exact absurd e.symm (h j i hj hi h1)
theorem wN_some {k : Nat} (hk : k < L.length) (h : ix L id = some k) : wN L id = L[k].t.size ∧ wE L id = (L[k].o && !L[k].g) ∧ tOf L id = L[k].t := by
  unfold wN wE tOf
  rw [h]
  simp only [List.getElem?_eq_getElem hk]
  exact ⟨rfl, rfl, rfl⟩
theorem wN_none (h : ix L id = none) : wN L id = 0 ∧ wE L id = false ∧ tOf L id = ⟨#[]⟩ := by
  unfold wN wE tOf
  rw [h]
  exact ⟨rfl, rfl, rfl⟩
theorem Rl.waits (h : Rl T L) (id : Int) : (T.b id).length = wN L id ∧ T.e id = wE L id ∧ T.b id = (tOf L id).data.toList := by
  cases hx : ix L id with
  | none =>
    obtain ⟨a1, a2, a3⟩ := wN_none hx
    obtain ⟨b1, b2, b3⟩ := h.non id (ix_none hx)
    rw [a1, a2, a3, b1, b2]
    exact ⟨rfl, rfl, rfl⟩
  | some k =>
    obtain ⟨hk, hid⟩ := ix_some hx
    obtain ⟨a1, a2, a3⟩ := wN_some hk hx
    obtain ⟨_, b1, b2, b3⟩ := h.mem _ (List.getElem_mem hk)
    rw [hid] at b1 b2
    rw [a1, a2, a3, b1, b2]
    exact ⟨by simp, rfl, rfl⟩
theorem Rl.is (h : Rl T L) (id : Int) : T.is id = rdropB L id := by
  obtain ⟨a1, a2, _⟩ := h.waits id
  rw [h.ok.is_eq]
  unfold rdropB no
  rw [← a1, ← a2]
  cases T.b id <;> simp
theorem Rl.putE (h : Rl T L) (id : Int) : rputE L id = T.putE id := by
  unfold rputE St.putE
  split
  · rfl
  · cases hx : ix L id with
    | none =>
      simp only
      rw [(h.non id (ix_none hx)).2.2]
      rfl
    | some k =>
      obtain ⟨hk, hid⟩ := ix_some hx
      have := (h.mem _ (List.getElem_mem hk)).2.2.2
      rw [hid] at this
      simp only [List.getElem?_eq_getElem hk, Option.map_some, Option.getD_some]
      rw [this]
theorem put_oth (ok : T.Ok) {id j : Int} (hne : j ≠ id) (t : List UInt8) (en : Bool) : (T.put id t en).b j = T.b j ∧ (T.put id t en).e j = T.e j ∧ (T.put id t en).ov j = T.ov j := by
  by_cases h0 : T.putE id = 0
  · exact ⟨by rw [put_b ok h0, if_neg hne], by rw [put_e ok h0, if_neg hne], by rw [put_ov ok h0, if_neg hne]⟩
  · rw [put_same h0]; exact ⟨rfl, rfl, rfl⟩
/-- one stream of the list set anew -/
theorem Rl.set (h : Rl T L) {T' : St} (ok : T'.Ok) {k : Nat} (hk : k < L.length) (x : Stm) (hx : x.id = L[k].id) (hb : T'.b x.id = x.t.data.toList ∧ T'.e x.id = (x.o && !x.g) ∧ T'.ov x.id = x.o) (ho : ∀ j, j ≠ x.id → T'.b j = T.b j ∧ T'.e j = T.e j ∧ T'.ov j = T.ov j) (hi : x.g = true → x.o = true ∧ x.t.size = 0) : Rl T' (L.set k x) := by
  have hmem : ∀ y ∈ L.set k x, y = x ∨ (y ∈ L ∧ y.id ≠ x.id) := fun y hy => by
    obtain ⟨j, hj, rfl⟩ := List.getElem_of_mem hy
    rw [List.getElem_set]
    split
    · exact .inl rfl
    · rename_i hne
      have hj' : j < L.length := by simpa using hj
      refine .inr ⟨List.getElem_mem hj', fun e => ?_⟩
      rw [hx] at e
      exact hne (nd_get h.nd hj' hk e).symm
  refine ⟨ok, ?_, fun y hy => ?_, fun id hno => ?_, fun y hy hg => ?_⟩
  · rw [List.pairwise_iff_getElem]
    intro i j hi' hj' hij
    have hi2 : i < L.length := by simpa using hi'
    have hj2 : j < L.length := by simpa using hj'
    have hid : ∀ (q : Nat) (hq : q < (L.set k x).length) (hq2 : q < L.length), (L.set k x)[q].id = L[q].id := fun q hq hq2 => by
      rw [List.getElem_set]
      split
      · rename_i e; subst e; exact hx
      · rfl
    rw [hid i hi' hi2, hid j hj' hj2]
    exact (List.pairwise_iff_getElem.1 h.nd) i j hi2 hj2 hij
  · rcases hmem y hy with rfl | ⟨hy, hne⟩
    · exact ⟨by rw [hx]; exact (h.mem _ (List.getElem_mem hk)).1, hb⟩
    · obtain ⟨a1, a2, a3⟩ := ho y.id hne
      rw [a1, a2, a3]
      exact h.mem y hy
  · have hxi : x.id ≠ id := hno x (List.mem_iff_getElem.2 ⟨k, by simpa using hk, by simp⟩)
    obtain ⟨a1, a2, a3⟩ := ho id (Ne.symm hxi)
    rw [a1, a2, a3]
    refine h.non id fun y hy e => ?_
    obtain ⟨j, hj, rfl⟩ := List.getElem_of_mem hy
    by_cases hjk : j = k
    · subst hjk; exact hxi (by rw [hx]; exact e)
    · exact hno L[j] (List.mem_iff_getElem.2 ⟨j, by simpa using hj, by rw [List.getElem_set, if_neg (fun e' => hjk e'.symm)]⟩) e
  · rcases hmem y hy with rfl | ⟨hy, _⟩
    · exact hi hg
    · exact h.inv y hy hg
theorem Rl.put (h : Rl T L) (id : Int) (t : ByteArray) (en : Bool) : Rl (T.put id t.data.toList en) (rput L id t en) := by
  have hE := h.putE id
  unfold rput
  by_cases h0 : rputE L id = 0
  · rw [if_pos h0]
    have hT : T.putE id = 0 := by rw [← hE]; exact h0
    cases hx : ix L id with
    | none =>
      simp only
      have hno := ix_none hx
      obtain ⟨b1, b2, b3⟩ := h.non id hno
      refine ⟨h.ok.put _ _ _, ?_, fun y hy => ?_, fun j hj => ?_, fun y hy hg => ?_⟩
      · rw [List.pairwise_append]
        refine ⟨h.nd, by simp, fun a ha b hb => ?_⟩
        rw [List.mem_singleton.1 hb]
        exact hno a ha
      · rcases List.mem_append.1 hy with hy | hy
        · obtain ⟨a1, a2, a3⟩ := put_oth h.ok (hno y hy) t.data.toList en
          rw [a1, a2, a3]
          exact h.mem y hy
        · rw [List.mem_singleton.1 hy]
          refine ⟨(put_ok_ov hT).1, ?_, ?_, ?_⟩
          · rw [put_b h.ok hT, if_pos rfl, b1]; rfl
          · rw [put_e h.ok hT, if_pos rfl]; simp
          · rw [put_ov h.ok hT, if_pos rfl]
      · have hj1 : j ≠ id := fun e => hj ⟨id, t, en, false⟩ (by simp) e.symm
        obtain ⟨a1, a2, a3⟩ := put_oth h.ok hj1 t.data.toList en
        rw [a1, a2, a3]
        exact h.non j fun y hy => hj y (List.mem_append_left _ hy)
      · rcases List.mem_append.1 hy with hy | hy
        · exact h.inv y hy hg
        · rw [List.mem_singleton.1 hy] at hg; cases hg
    | some k =>
      simp only
      obtain ⟨hk, hid⟩ := ix_some hx
      obtain ⟨_, b1, b2, b3⟩ := h.mem _ (List.getElem_mem hk)
      have ho : L[k].o = false := by rw [← b3, hid]; exact (put_ok_ov hT).2
      have hg : L[k].g = false := by
        cases e : L[k].g
        · rfl
        · have := (h.inv _ (List.getElem_mem hk) e).1; rw [ho] at this; cases this
      rw [mod_set hk]
      refine h.set (h.ok.put _ _ _) hk _ rfl ⟨?_, ?_, ?_⟩ (fun j hj => ?_) (fun e => ?_)
      · simp only
        rw [hid, put_b h.ok hT, if_pos rfl]
        rw [hid] at b1
        rw [b1]
        simp [ByteArray.data_append]
      · simp only
        rw [hid, put_e h.ok hT, if_pos rfl, hg]
        simp
      · simp only
        rw [hid, put_ov h.ok hT, if_pos rfl]
      · simp only at hj
        rw [hid] at hj
        exact put_oth h.ok hj _ _
      · simp only at e
        rw [hg] at e; cases e
  · rw [if_neg h0, put_same (by rw [← hE]; exact h0)]
    exact h
theorem Rl.drop (h : Rl T L) (id : Int) : Rl (T.drop id) (rdrop L id) := by
  have hoth : ∀ j, j ≠ id → (T.drop id).b j = T.b j ∧ (T.drop id).e j = T.e j ∧ (T.drop id).ov j = T.ov j := fun j hj => ⟨by rw [drop_b h.ok, if_neg hj], by rw [drop_e h.ok, if_neg hj], by rw [drop_ov h.ok, if_neg hj]⟩
  have hthis : (T.drop id).b id = [] ∧ (T.drop id).e id = false ∧ (T.drop id).ov id = false := ⟨by rw [drop_b h.ok, if_pos rfl], by rw [drop_e h.ok, if_pos rfl], by rw [drop_ov h.ok, if_pos rfl]⟩
  unfold rdrop
  cases hx : ix L id with
  | none =>
    simp only
    have hno := ix_none hx
    refine ⟨h.ok.drop _, h.nd, fun y hy => ?_, fun j hj => ?_, h.inv⟩
    · obtain ⟨a1, a2, a3⟩ := hoth _ (hno y hy)
      rw [a1, a2, a3]
      exact h.mem y hy
    · by_cases e : j = id
      · rw [e]; exact hthis
      · obtain ⟨a1, a2, a3⟩ := hoth _ e
        rw [a1, a2, a3]
        exact h.non j hj
  | some k =>
    simp only
    obtain ⟨hk, hid⟩ := ix_some hx
    have hLk : L = L.take k ++ L[k] :: L.drop (k + 1) := by rw [← List.drop_eq_getElem_cons hk, List.take_append_drop]
    have hnd := h.nd
    rw [hLk, List.pairwise_append, List.pairwise_cons] at hnd
    obtain ⟨n1, ⟨n2, n3⟩, n4⟩ := hnd
    have hsub : ∀ y ∈ L.take k ++ L.drop (k + 1), y ∈ L ∧ y.id ≠ id := fun y hy => by
      rcases List.mem_append.1 hy with hy | hy
      · exact ⟨List.mem_of_mem_take hy, by rw [← hid]; exact n4 y hy _ List.mem_cons_self⟩
      · exact ⟨List.mem_of_mem_drop hy, by rw [← hid]; exact Ne.symm (n2 y hy)⟩
    refine ⟨h.ok.drop _, ?_, fun y hy => ?_, fun j hj => ?_, fun y hy => h.inv y (hsub y hy).1⟩
    · rw [List.pairwise_append]
      exact ⟨n1, n3, fun a ha b hb => n4 a ha b (List.mem_cons_of_mem _ hb)⟩
    · obtain ⟨a1, a2, a3⟩ := hoth _ (hsub y hy).2
      rw [a1, a2, a3]
      exact h.mem y (hsub y hy).1
    · by_cases e : j = id
      · rw [e]; exact hthis
      · obtain ⟨a1, a2, a3⟩ := hoth _ e
        rw [a1, a2, a3]
        refine h.non j fun y hy e' => ?_
        rw [hLk] at hy
        rcases List.mem_append.1 hy with hy | hy
        · exact hj y (List.mem_append_left _ hy) e'
        · rcases List.mem_cons.1 hy with rfl | hy
          · exact e (by rw [← e', hid])
          · exact hj y (List.mem_append_right _ hy) e'
theorem Rl.nextE (h : Rl T L) (id c s f : Int) : rnextE L id c s f = T.nextE id c s f := by
  obtain ⟨a1, a2, _⟩ := h.waits id
  unfold rnextE St.nextE
  split
  · rfl
  · rw [h.ok.is_eq, ← a1, ← a2]
    unfold no mg
    cases hb : T.b id with
    | nil => cases he : T.e id <;> simp
    | cons x r =>
      simp
      by_cases h1 : c ≤ 0
      · simp [h1, show ¬ 0 < c by omega]
      · by_cases h2 : s ≤ 0
        · simp [h2, show ¬ 0 < s by omega]
        · simp [h1, h2, show 0 < c by omega, show 0 < s by omega]
theorem Rl.nextN (h : Rl T L) (id c s f : Int) : rnextN L id c s f = T.nextN id c s f := by
  unfold rnextN St.nextN
  rw [(h.waits id).1]
theorem Rl.nextL (h : Rl T L) (id c s f : Int) : rnextL L id c s f = T.nextL id c s f := by
  unfold rnextL St.nextL
  rw [h.nextE, h.nextN, ← (h.waits id).1, (h.waits id).2.1]
theorem ext_list (t : ByteArray) (n : Nat) : (t.extract 0 n).data.toList = t.data.toList.take n := by
  simp [ByteArray.data_extract]
theorem ext_rest (t : ByteArray) (n : Nat) : (t.extract n t.size).data.toList = t.data.toList.drop n := by
  rw [ByteArray.data_extract, Array.toList_extract]
  simp [List.extract_eq_take_drop]
  rw [List.take_of_length_le (by simp)]
theorem Rl.nextP (h : Rl T L) (id c s f : Int) : Value.string (rnextP L id c s f) = tx (T.nextP id c s f) := by
  unfold rnextP St.nextP
  rw [h.nextE]
  split
  · rw [h.nextN, (h.waits id).2.2]
    unfold tx
    congr 1
    apply ByteArray.ext
    apply Array.toList_inj.1
    rw [ext_list]
  · rfl
theorem Rl.ready (h : Rl T L) (c : Int) (f : Int → Int) : rrd L L c f = T.ready c f := by
  refine rise_ext (rrd_rise L c f L h.nd) (St.ready_rise h.ok c f) fun z => ?_
  rw [mem_rrd, St.mem_ready h.ok, h.is]
  have hw := h.waits z
  have hrd : (rdropB L z = true ∧ mg (T.b z) c (f z) = true) ↔ rdB (wN L z) (wE L z) c (f z) = true := by
    unfold rdropB mg rdB
    rw [← hw.1]
    cases hb : T.b z with
    | nil => simp
    | cons a r => simp
  rw [hrd]
  constructor
  · rintro ⟨s, _, rfl, h2⟩
    exact h2
  · intro h2
    cases hx : ix L z with
    | none =>
      obtain ⟨a1, a2, _⟩ := wN_none hx
      rw [a1, a2] at h2
      simp [rdB] at h2
    | some k =>
      obtain ⟨hk, hid⟩ := ix_some hx
      exact ⟨L[k], List.getElem_mem hk, hid, by rw [hid]; exact h2⟩
theorem Rl.next (h : Rl T L) (id c s f : Int) : Rl (T.next id c s f) (rnext L id c s f) := by
  have hE := h.nextE id c s f
  unfold rnext
  by_cases h0 : rnextE L id c s f = 0
  · rw [if_pos h0]
    have hT : T.nextE id c s f = 0 := by rw [← hE]; exact h0
    cases hx : ix L id with
    | none =>
      exfalso
      obtain ⟨a1, a2, _⟩ := wN_none hx
      unfold rnextE at h0
      rw [a1, a2] at h0
      split at h0
      · cases h0
      · simp at h0
    | some k =>
      simp only
      obtain ⟨hk, hid⟩ := ix_some hx
      obtain ⟨a1, a2, a3⟩ := wN_some hk hx
      obtain ⟨_, b1, b2, b3⟩ := h.mem _ (List.getElem_mem hk)
      rw [hid] at b1 b2 b3
      have hg : L[k].g = false := by
        cases e : L[k].g
        · rfl
        · exfalso
          have hz := (h.inv _ (List.getElem_mem hk) e).2
          unfold rnextE at h0
          rw [a1, a2, hz, e] at h0
          split at h0
          · cases h0
          · simp at h0
      rw [mod_set hk]
      refine h.set (h.ok.next _ _ _ _) hk _ rfl ⟨?_, ?_, ?_⟩ (fun j hj => ?_) (fun e => ?_)
      · simp only
        rw [hid, next_b h.ok hT, if_pos rfl, ext_rest, h.nextN, b1]
      · simp only
        rw [hid, next_e h.ok hT, if_pos rfl, h.nextL, b2, hg]
        simp
      · simp only
        rw [hid, next_ov]
        exact b3
      · simp only at hj
        rw [hid] at hj
        exact ⟨by rw [next_b h.ok hT, if_neg hj], by rw [next_e h.ok hT, if_neg hj], next_ov⟩
      · simp only at e ⊢
        unfold rnextL at e
        rw [a2, a1] at e
        simp at e
        refine ⟨e.1.2.1, ?_⟩
        rw [ByteArray.size_extract]
        omega
  · rw [if_neg h0, next_same (by rw [← hE]; exact h0)]
    exact h
theorem rput_len (L : List Stm) (id : Int) (t : ByteArray) (en : Bool) : (rput L id t en).length ≤ L.length + 1 := by
  unfold rput
  split
  · split
    · simp
    · unfold mo; split <;> simp
  · omega
theorem rnext_len (L : List Stm) (id c s f : Int) : (rnext L id c s f).length ≤ L.length := by
  unfold rnext
  split
  · split
    · unfold mo; split <;> simp
    · omega
  · omega
theorem rdrop_len (L : List Stm) (id : Int) : (rdrop L id).length ≤ L.length := by
  unfold rdrop
  split
  · omega
  · simp; omega
end Go.Proofs.Ytbmaknjeflblcaa
