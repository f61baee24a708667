/- site: what it holds, without places in memory. -/
import Derived.Test.YtcadlpmopplkeaaDoorE5
namespace Go.Proofs.YtcadlpmopplkeaaDoor
open Go.RowKit Go.Maps
open Go.Shelf
set_option linter.unusedVariables false
set_option linter.unusedSimpArgs false

/-- an edition without its place -/
structure Ep where
  s : Int
  n : Int
  v : ByteArray
  l : List Ch
def ep (e : Ed) : Ep := ⟨e.s, e.n, e.v, e.l⟩
def de (e : Ep) : Ed := ⟨e.s, e.n, e.v, (none, 0, 0), e.l⟩
abbrev Fm := Tg → List Ep
def Fm.put (F : Fm) (t : Tg) (e : Ep) : Fm := fun u => if t = u then F t ++ [e] else F u
def kadd (K : List Tg) (t : Tg) : List Tg := if K.any (fun x => decide (x = t)) = true then K else K ++ [t]
theorem kadd_in {K : List Tg} {t : Tg} (h : t ∈ K) : kadd K t = K := by
  unfold kadd
  rw [if_pos (List.any_eq_true.2 ⟨t, h, by simp⟩)]
theorem kadd_not {K : List Tg} {t : Tg} (h : t ∉ K) : kadd K t = K ++ [t] := by
  unfold kadd
  rw [if_neg]
  intro e
  obtain ⟨x, hx, e⟩ := List.any_eq_true.1 e
  exact h (by rw [← of_decide_eq_true e]; exact hx)
theorem edL_upd (L : List Te) (r : Te) (t : Tg) : edL (upd L r) t = if r.t = t then r.l else edL L t := by
  unfold edL
  rw [upd_at]
  by_cases h : r.t = t
  · rw [if_pos h, if_pos h]
  · rw [if_neg h, if_neg h]
theorem map_upd (L : List Te) (r : Te) : (upd L r).map Te.t = kadd (L.map Te.t) r.t := by
  unfold upd kadd
  rw [List.any_map]
  by_cases h : L.any (fun x => decide (x.t = r.t)) = true
  · rw [if_pos h, if_pos (by simpa [Function.comp_def] using h), List.map_map]
    refine List.map_congr_left fun a _ => ?_
    simp only [Function.comp_def]
    split
    · rename_i e; exact e.symm
    · rfl
  · rw [if_neg h, if_neg (by simpa [Function.comp_def] using h), List.map_append]
    rfl
/-- the last edition that is no newer -/
def atE (l : List Ep) (v : Int) : Option Ep := l.reverse.find? (fun e => decide (e.s ≤ v))
theorem atE_nil (v : Int) : atE [] v = none := rfl
theorem atE_snoc (l : List Ep) (e : Ep) (v : Int) : atE (l ++ [e]) v = if e.s ≤ v then some e else atE l v := by
  unfold atE
  rw [List.reverse_append, List.reverse_singleton, List.singleton_append]
  by_cases h : e.s ≤ v
  · rw [if_pos h, List.find?_cons_of_pos (by simpa using h)]
  · rw [if_neg h, List.find?_cons_of_neg (by simpa using h)]
theorem at_ep (l : List Ed) (v : Int) : (atO l v).map ep = atE (l.map ep) v := by
  unfold atO atE
  rw [← List.map_reverse, List.find?_map]
  rfl
theorem atE_mem {l : List Ep} {v : Int} {e : Ep} (h : atE l v = some e) : e ∈ l ∧ e.s ≤ v := by
  unfold atE at h
  refine ⟨by simpa using List.mem_of_find?_eq_some h, by simpa using List.find?_some h⟩
theorem atE_none {l : List Ep} {v : Int} : atE l v = none ↔ ∀ e ∈ l, v < e.s := by
  unfold atE
  rw [List.find?_eq_none]
  constructor
  · intro h e he
    have := h e (by simpa using he)
    simpa using this
  · intro h e he
    have := h e (by simpa using he)
    simp
    omega
/-- what is answered -/
def anN (o : Option Ep) (m : ByteArray) : Int := svN (o.map de) m
def anL (o : Option Ep) (m : ByteArray) (fs : List Fd) : List Fd := svL (o.map de) m fs
def anBd (o : Option Ep) (m : ByteArray) (fs : List Fd) : ByteArray := svB (o.map de) m fs
theorem sv_ep (o : Option Ed) (m : ByteArray) (fs : List Fd) : svN o m = anN (o.map ep) m ∧ svL o m fs = anL (o.map ep) m fs ∧ svB o m fs = anBd (o.map ep) m fs := by
  cases o with
  | none => exact ⟨rfl, rfl, rfl⟩
  | some e => obtain ⟨s, n, v, y, l⟩ := e; exact ⟨rfl, rfl, rfl⟩
/-- of a page that may be -/
theorem pg_z {p : Pg} {cs : List Ch} (h : pgB p cs = true) : (cs ≠ [] ∧ cs.length ≤ 8) ∧ tz (p.a, p.p) ∧ p.v.size ≤ 64 ∧ ∀ c ∈ cs, c.v.size ≤ 4096 ∧ c.b.size ≤ 65536 := by
  unfold pgB at h
  simp only [Bool.and_eq_true] at h
  obtain ⟨h1, ⟨h2, _⟩, _, h3⟩ := h
  unfold txB consB at h1 h2
  simp only [Bool.and_eq_true, decide_eq_true_eq] at h1 h2
  unfold chB at h3
  simp only [Bool.and_eq_true, decide_eq_true_eq] at h3
  obtain ⟨⟨h4, h5⟩, h6⟩ := h3
  refine ⟨⟨fun e => by rw [e] at h4; simp at h4, h5⟩, ⟨by simp only; omega, by simp only; omega⟩, ?_⟩
  split at h6
  · rename_i hv
    have hv' : p.v.size ≤ 64 := by
      unfold noVary at hv
      have e := Lib.size_eq p.v
      have e2 : p.v.toList = p.v.data.toList := Lib.toList_data _
      rw [Bool.or_eq_true] at hv
      rcases hv with hv | hv
      · have := List.isEmpty_iff.1 hv
        rw [← e2, this, List.length_nil] at e
        omega
      · have := eq_of_beq hv
        rw [← e2, this] at e
        simp at e; omega
    refine ⟨hv', ?_⟩
    unfold loneB at h6
    split at h6
    · rename_i c
      simp only [Bool.and_eq_true] at h6
      intro x hx
      obtain rfl := List.mem_singleton.1 hx
      have hb := h6.2
      unfold bdB at hb
      have e := Lib.size_eq x.v
      have e2 : x.v.toList = x.v.data.toList := Lib.toList_data _
      have := List.isEmpty_iff.1 h6.1
      rw [← e2, this, List.length_nil] at e
      exact ⟨by omega, of_decide_eq_true hb⟩
    · cases h6
  · simp only [Bool.and_eq_true] at h6
    have hn := h6.1
    unfold nmB consB at hn
    simp only [Bool.and_eq_true, decide_eq_true_eq] at hn
    refine ⟨by omega, fun c hc => ?_⟩
    obtain ⟨i, hi, e⟩ := List.getElem_of_mem hc
    have hg := List.all_eq_true.1 h6.2 i (List.mem_range.2 hi)
    unfold goodAt at hg
    rw [List.getElem?_eq_getElem hi, e] at hg
    simp only [Bool.and_eq_true] at hg
    have h7 := hg.1.1
    have h8 := hg.1.2
    unfold valB at h7
    unfold bdB at h8
    simp only [Bool.and_eq_true, decide_eq_true_eq] at h7 h8
    exact ⟨h7.1.1, h8⟩
/-- a site of these editions -/
structure Sx (w : World) (lo g N : Nat) (nv : Int) (F : Fm) (K : List Tg) : Prop where
  si : ∃ b L, Si w lo g b N nv L ∧ (∀ t, (edL L t).map ep = F t) ∧ L.map Te.t = K
  ris : ∀ t, (F t).Pairwise (fun x y => x.s < y.s)
  ver : ∀ t, ∀ e ∈ F t, 1 ≤ e.s ∧ e.s ≤ nv
  siz : ∀ t, ∀ e ∈ F t, e.v.size ≤ 64 ∧ ∀ c ∈ e.l, c.b.size ≤ 65536
  len : ∀ t, (F t).length ≤ N
  key : ∀ t, t ∈ K ↔ F t ≠ []
  bnd : 1 ≤ nv ∧ nv ≤ (N : Int) + 1 ∧ N ≤ 1099511627776
theorem Sx.below {w w' : World} {lo g N : Nat} {nv : Int} {F : Fm} {K : List Tg} (h : Sx w lo g N nv F K) (hb : Below w.heap.size w w') : Sx w' lo g N nv F K := by
  obtain ⟨b, L, h1, h2, h3⟩ := h.si
  exact ⟨⟨b, L, h1.below hb, h2, h3⟩, h.ris, h.ver, h.siz, h.len, h.key, h.bnd⟩
theorem Sx.lt {w : World} {lo g N : Nat} {nv : Int} {F : Fm} {K : List Tg} (h : Sx w lo g N nv F K) : g < w.heap.size := by
  obtain ⟨b, L, h1, h2, h3⟩ := h.si
  exact heap_lt h1.hg
theorem ris_of {L : List Te} {t : Tg} {F : Fm} (h2 : (edL L t).map ep = F t) (hr : (F t).Pairwise (fun x y => x.s < y.s)) : Ris (edL L t) := by
  rw [← h2, List.pairwise_map] at hr
  exact hr
def SvP (nv v : Int) (l : List Ep) (m : ByteArray) (fs : List Fd) (w : World) (r : Ending) (w' : World) : Prop :=
  Below w.heap.size w w' ∧ ((ivB nv v = false ∧ r = .returned (.tuple #[.agg (rsv 0 (.slice none 0 0) ⟨#[]⟩), .int .i64 5])) ∨
    (ivB nv v = true ∧ ∃ u, r = .returned (.tuple #[u, .int .i64 0]) ∧ RsNew w (anN (atE l v) m) (anL (atE l v) m fs) (anBd (atE l v) m fs) u w'))
theorem Sx.serve {w : World} {lo g N : Nat} {nv : Int} {F : Fm} {K : List Tg} (h : Sx w lo g N nv F K) (v : Int) (m s a p : ByteArray) (x : SV) (bd : ByteArray) (fs : List Fd) (hI : In EFd w (sv x) fs) (ht : Tab w) (htz : tz (a, p)) :
    Calls Tryd.prog 11 #[.pointer (some ⟨g, 0, none⟩), .int .i64 v, .agg (rqv m s a p (sv x) bd)] w fun r w' => SvP nv v (F (a, p)) m fs w r w' := by
  obtain ⟨b, L, h1, h2, h3⟩ := h.si
  have hl : (edL L (a, p)).length = (F (a, p)).length := by rw [← h2]; simp
  have hb := h.bnd
  have hn := h.len (a, p)
  refine (serve_any lo g b N nv v L m s a p x bd fs w h1 hI ht htz (by omega) (ris_of (h2 _) (h.ris _)) (fun e he => ?_)).mono ?_
  · have hm : ep e ∈ F (a, p) := by rw [← h2]; exact List.mem_map_of_mem he
    have := h.siz _ _ hm
    exact ⟨by have := this.1; simp only [ep] at this; omega, fun c hc => by have := this.2 c hc; omega⟩
  · rintro r w' ⟨hB, hr⟩
    obtain ⟨q1, q2, q3⟩ := sv_ep (atO (edL L (a, p)) v) m fs
    rw [at_ep, h2] at q1 q2 q3
    rcases hr with hr | ⟨hr1, u, hr2, hr3⟩
    · exact ⟨hB, .inl hr⟩
    · rw [q1, q2, q3] at hr3
      exact ⟨hB, .inr ⟨hr1, u, hr2, hr3⟩⟩
theorem Sx.version {w : World} {lo g N : Nat} {nv : Int} {F : Fm} {K : List Tg} (h : Sx w lo g N nv F K) : Calls Tryd.prog 15 #[.pointer (some ⟨g, 0, none⟩)] w fun e w' => e = .returned (.int .i64 nv) ∧ w' = w := by
  obtain ⟨b, L, h1, h2, h3⟩ := h.si
  exact version_any lo g b N nv L w h1
theorem pl_some {l : List Ed} {v : Int} {r : Nat} (hs : Ris l) (h : Pl l v r) : decide (0 < r) = (atE (l.map ep) v).isSome := by
  have := pl_at l v r hs h
  rw [← at_ep, this]
  cases r with
  | zero => rfl
  | succ k =>
    have : k < l.length := by have := h.1; omega
    simp [plO, List.getElem?_eq_getElem this]
theorem Sx.has {w : World} {lo g N : Nat} {nv : Int} {F : Fm} {K : List Tg} (h : Sx w lo g N nv F K) (v : Int) (a p : ByteArray) (htz : tz (a, p)) :
    Calls Tryd.prog 16 #[.pointer (some ⟨g, 0, none⟩), .int .i64 v, .string a, .string p] w fun e w' => e = .returned (.bool ((atE (F (a, p)) v).isSome && ivB nv v)) ∧ Below w.heap.size w w' := by
  obtain ⟨b, L, h1, h2, h3⟩ := h.si
  have hl : (edL L (a, p)).length = (F (a, p)).length := by rw [← h2]; simp
  have hb := h.bnd
  have hn := h.len (a, p)
  refine (has_any lo g b N nv v L (a, p) w h1 htz (by omega)).mono ?_
  rintro e w' ⟨⟨r, hPl, rfl⟩, hB⟩
  rw [pl_some (ris_of (h2 _) (h.ris _)) hPl, h2]
  exact ⟨rfl, hB⟩
def PtP (lo g N : Nat) (nv : Int) (F : Fm) (K : List Tg) (p : Pg) (cs : List Ch) (w : World) (e : Ending) (w' : World) : Prop :=
  (Below lo w w' ∧ Kt w w') ∧ ((pgB p cs = false ∧ e = .returned (.int .i64 170) ∧ Sx w' lo g N nv F K) ∨
    (pgB p cs = true ∧ 64 ≤ K.length ∧ (p.a, p.p) ∉ K ∧ e = .returned (.int .i64 6) ∧ Sx w' lo g N nv F K) ∨
    (pgB p cs = true ∧ (K.length < 64 ∨ (p.a, p.p) ∈ K) ∧ e = .returned (.int .i64 0) ∧ Sx w' lo g (N + 1) (nv + 1) (F.put (p.a, p.p) ⟨nv + 1, p.n, p.v, cs⟩) (kadd K (p.a, p.p))))
theorem Sx.put {w : World} {lo g N : Nat} {nv : Int} {F : Fm} {K : List Tg} (h : Sx w lo g N nv F K) (p : Pg) (cs : List Ch) (hlo : lo ≤ w.heap.size) (hN : N + 1 ≤ 1099511627776) (hI : In ECh w (sv p.ys) cs) (hz : tz (p.a, p.p) ∧ p.v.size ≤ 281474976710656) (hcz : ∀ c ∈ cs, c.v.size ≤ 140737488355328 ∧ c.b.size ≤ 140737488355328) :
    Calls Tryd.prog 14 #[.pointer (some ⟨g, 0, none⟩), .agg (pgv p)] w fun e w' => PtP lo g N nv F K p cs w e w' := by
  obtain ⟨b, L, h1, h2, h3⟩ := h.si
  have hl : (edL L (p.a, p.p)).length = (F (p.a, p.p)).length := by rw [← h2]; simp
  have hb := h.bnd
  have hn := h.len (p.a, p.p)
  have hK : L.length = K.length := by rw [← h3]; simp
  refine (put_any lo g b N nv L p cs w h1 (by unfold maxLen; omega) ⟨hb.1, by omega⟩ hlo hI (fun e => (pg_z e).1) hz hcz (by omega)).mono ?_
  rintro e w' ⟨hB, he⟩
  refine ⟨hB, ?_⟩
  rcases he with ⟨rfl, q1, q2⟩ | ⟨rfl, q1, q2, q3, q4⟩ | ⟨rfl, q1, q2, y, z, q3⟩
  · exact .inl ⟨q1, rfl, ⟨⟨b, L, q2, h2, h3⟩, h.ris, h.ver, h.siz, h.len, h.key, h.bnd⟩⟩
  · refine .inr (.inl ⟨q1, by omega, fun hm => ?_, rfl, ⟨⟨b, L, q4, h2, h3⟩, h.ris, h.ver, h.siz, h.len, h.key, h.bnd⟩⟩)
    have := pl_some (ris_of (h2 _) (h.ris _)) q3
    rw [h2] at this
    have hne := (h.key _).1 hm
    have hno : atE (F (p.a, p.p)) nv = none := by
      cases e : atE (F (p.a, p.p)) nv with
      | none => rfl
      | some x => rw [e] at this; simp at this
    have hall := atE_none.1 hno
    cases hF : F (p.a, p.p) with
    | nil => exact hne hF
    | cons x r =>
      have h5 := hall x (by rw [hF]; simp)
      have h6 := h.ver _ x (by rw [hF]; simp)
      omega
  · refine .inr (.inr ⟨q1, ?_, rfl, ⟨⟨b, _, q3, fun t => ?_, ?_⟩, fun t => ?_, fun t e he => ?_, fun t e he => ?_, fun t => ?_, fun t => ?_, ?_⟩⟩)
    · rcases q2 with q2 | ⟨r, q2⟩
      · exact .inl (by omega)
      · refine .inr ((h.key _).2 fun e0 => ?_)
        have := q2.1
        rw [hl, e0] at this
        simp at this
    · rw [edL_upd]
      unfold Fm.put
      by_cases e : (p.a, p.p) = t
      · rw [if_pos e, if_pos e, List.map_append, h2]
        rfl
      · rw [if_neg e, if_neg e, h2]
    · rw [map_upd, h3]
    · unfold Fm.put
      by_cases e : (p.a, p.p) = t
      · rw [if_pos e]
        refine List.pairwise_append.2 ⟨h.ris _, List.pairwise_singleton _ _, fun x hx y hy => ?_⟩
        rw [List.mem_singleton.1 hy]
        have := h.ver _ x hx
        simp only
        omega
      · rw [if_neg e]; exact h.ris t
    · unfold Fm.put at he
      by_cases e' : (p.a, p.p) = t
      · rw [if_pos e'] at he
        rcases List.mem_append.1 he with he | he
        · have := h.ver _ e he; omega
        · rw [List.mem_singleton.1 he]; simp only; omega
      · rw [if_neg e'] at he; have := h.ver _ e he; omega
    · unfold Fm.put at he
      by_cases e' : (p.a, p.p) = t
      · rw [if_pos e'] at he
        rcases List.mem_append.1 he with he | he
        · exact h.siz _ e he
        · rw [List.mem_singleton.1 he]
          have := pg_z q1
          exact ⟨this.2.2.1, fun c hc => (this.2.2.2 c hc).2⟩
      · rw [if_neg e'] at he; exact h.siz _ e he
    · unfold Fm.put
      by_cases e' : (p.a, p.p) = t
      · rw [if_pos e']; simp; omega
      · rw [if_neg e']; have := h.len t; omega
    · unfold Fm.put
      by_cases e' : (p.a, p.p) = t
      · rw [if_pos e']
        refine ⟨fun _ => by simp, fun _ => ?_⟩
        by_cases hm : (p.a, p.p) ∈ K
        · rw [kadd_in hm, ← e']; exact hm
        · rw [kadd_not hm, ← e']; simp
      · rw [if_neg e', ← h.key]
        by_cases hm : (p.a, p.p) ∈ K
        · rw [kadd_in hm]
        · rw [kadd_not hm]
          simp [Ne.symm e']
    · omega
end Go.Proofs.YtcadlpmopplkeaaDoor
