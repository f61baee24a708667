/- Rules in another order; a list written over. -/
import Derived.Test.YtldnibkgdpeocaaS3
namespace Go.Proofs.Ytldnibkgdpeocaa
open Go.RowKit
set_option linter.unusedVariables false
set_option linter.unusedSimpArgs false

theorem nmP_mem {ps : List Pu} (hn : (ps.map Prod.fst).Nodup) {p : Pu} (h : p ∈ ps) : nmP ps p.1 = p.2 := by
  unfold nmP
  induction ps with
  | nil => cases h
  | cons q ps ih =>
    rw [List.map_cons, List.nodup_cons] at hn
    rcases List.mem_cons.1 h with rfl | h
    · rw [List.find?_cons_of_pos (by simp)]
    · have hne : q.1 ≠ p.1 := fun e => hn.1 (e ▸ List.mem_map_of_mem h)
      rw [List.find?_cons_of_neg (by simpa using hne)]
      exact ih hn.2 h
theorem nmP_none {ps : List Pu} {t : Tg} (h : ∀ p ∈ ps, p.1 ≠ t) : nmP ps t = [] := by
  unfold nmP
  rw [List.find?_eq_none.2 fun p hp => by simpa using h p hp]
/-- what targets name hangs on the rules as a set -/
theorem nmP_set {ps qs : List Pu} (h1 : (ps.map Prod.fst).Nodup) (h2 : (qs.map Prod.fst).Nodup) (h : ∀ p, p ∈ ps ↔ p ∈ qs) : nmP ps = nmP qs := by
  funext t
  by_cases hp : ∃ p ∈ ps, p.1 = t
  · obtain ⟨p, hp, rfl⟩ := hp
    rw [nmP_mem h1 hp, nmP_mem h2 ((h p).1 hp)]
  · rw [nmP_none (fun p hq e => hp ⟨p, hq, e⟩), nmP_none (fun p hq e => hp ⟨p, (h p).2 hq, e⟩)]

def zR : Ru := ⟨zT, (none, 0, 0), []⟩
/-- the first i of the rules, turned by m, the last first -/
def tn (rs : List Ru) (m i : Nat) : List Ru := ((List.range i).map fun j => rs.getD ((j + m) % rs.length) zR).reverse
theorem tn_succ (rs : List Ru) (m i : Nat) (h : (i + m) % rs.length < rs.length) : tn rs m (i + 1) = [rs[(i + m) % rs.length]] ++ tn rs m i := by
  unfold tn
  rw [List.range_succ, List.map_append, List.reverse_append]
  simp [h]
theorem tn_len (rs : List Ru) (m i : Nat) : (tn rs m i).length = i := by simp [tn]
theorem mod_inj {n a b m : Nat} (hn : 0 < n) (ha : a < n) (hb : b < n) (h : (a + m) % n = (b + m) % n) : a = b := by
  have h1 := Nat.div_add_mod (a + m) n
  have h2 := Nat.div_add_mod (b + m) n
  rw [h] at h1
  rcases Nat.lt_trichotomy ((a + m) / n) ((b + m) / n) with hl | hl | hl
  · have := Nat.mul_le_mul_left n hl
    rw [Nat.mul_succ] at this
    omega
  · rw [hl] at h1
    omega
  · have := Nat.mul_le_mul_left n hl
    rw [Nat.mul_succ] at this
    omega
theorem mod_surj {n j m : Nat} (hn : 0 < n) (hj : j < n) : ∃ i, i < n ∧ (i + m) % n = j := by
  refine ⟨(j + (n - m % n)) % n, Nat.mod_lt _ hn, ?_⟩
  have hm := Nat.mod_lt m hn
  have e : (j + (n - m % n)) + m = j + n * (1 + m / n) := by
    have := Nat.div_add_mod m n
    rw [Nat.mul_add, Nat.mul_one]
    omega
  rw [Nat.mod_add_mod, e, Nat.add_mul_mod_self_left]
  exact Nat.mod_eq_of_lt hj
theorem mem_tn {rs : List Ru} {m : Nat} {r : Ru} : r ∈ tn rs m rs.length ↔ r ∈ rs := by
  unfold tn
  rw [List.mem_reverse, List.mem_map]
  constructor
  · rintro ⟨j, hj, rfl⟩
    have hn : 0 < rs.length := by have := List.mem_range.1 hj; omega
    have := Nat.mod_lt (j + m) hn
    simp [this]
  · intro h
    obtain ⟨j, hj, rfl⟩ := List.getElem_of_mem h
    obtain ⟨i, hi, e⟩ := mod_surj (m := m) (by omega) hj
    exact ⟨i, List.mem_range.2 hi, by rw [e]; simp [hj]⟩
theorem tn_nd {rs : List Ru} (m : Nat) (h : (rs.map Ru.t).Nodup) : ((tn rs m rs.length).map Ru.t).Nodup := by
  unfold tn
  rw [List.map_reverse, List.map_map, List.nodup_iff_pairwise_ne, List.pairwise_reverse, List.pairwise_iff_getElem]
  intro i j hi hj hij e'
  have e := e'.symm
  simp only [List.length_map, List.length_range] at hi hj
  have hn : 0 < rs.length := by omega
  have a := Nat.mod_lt (i + m) hn
  have b := Nat.mod_lt (j + m) hn
  simp [a, b] at e
  have h' := List.pairwise_iff_getElem.1 (List.nodup_iff_pairwise_ne.1 h)
  have : (i + m) % rs.length = (j + m) % rs.length := by
    rcases Nat.lt_trichotomy ((i + m) % rs.length) ((j + m) % rs.length) with hl | hl | hl
    · exact absurd (by rw [List.getElem_map, List.getElem_map]; exact e) (h' _ _ (by simpa using a) (by simpa using b) hl)
    · exact hl
    · exact absurd (by rw [List.getElem_map, List.getElem_map]; exact e.symm) (h' _ _ (by simpa using b) (by simpa using a) hl)
  have := mod_inj hn hi hj this
  omega
theorem tn_ok {ps : List Pu} (h : OkP ps) {rs : List Ru} (e : rs.map puR = ps) (m : Nat) : OkP ((tn rs m rs.length).map puR) ∧ nmP ((tn rs m rs.length).map puR) = nmP ps := by
  have hnd : (rs.map Ru.t).Nodup := by
    have := h.nd
    rw [← e, List.map_map] at this
    exact this
  have hn2 : (((tn rs m rs.length).map puR).map Prod.fst).Nodup := by
    rw [List.map_map]
    exact tn_nd m hnd
  have hm : ∀ p, p ∈ (tn rs m rs.length).map puR ↔ p ∈ ps := fun p => by
    rw [← e, List.mem_map, List.mem_map]
    constructor
    · rintro ⟨r, hr, rfl⟩; exact ⟨r, mem_tn.1 hr, rfl⟩
    · rintro ⟨r, hr, rfl⟩; exact ⟨r, mem_tn.2 hr, rfl⟩
  refine ⟨⟨?_, fun p hp => h.each p ((hm p).1 hp), hn2⟩, nmP_set hn2 h.nd hm⟩
  rw [List.length_map, tn_len]
  have := h.len
  rw [← e, List.length_map] at this
  exact this

theorem R.front {w : World} {base : Option Addr} {cap : Nat} {l r : List Tg} (h : R ET w (.slice base (l.length + r.length) cap) (l ++ r)) : R ET w (.slice base l.length cap) l := by
  obtain ⟨h1, h2⟩ := h
  refine ⟨okT.length l, ?_⟩
  rcases h2 with ⟨hv, h0⟩ | ⟨g, cap', cur, hv, hb, hg, hn, hm, hs, ht⟩
  · injection hv with e1 e2 e3
    rw [List.length_append] at h0
    have : l.length = 0 := by omega
    exact .inl ⟨by rw [e1, e3, this], this⟩
  · injection hv with e1 e2 e3
    subst e1
    subst e3
    rw [List.length_append] at hn ht
    refine .inr ⟨g, cap, cur, rfl, hb, hg, by omega, hm, hs, ?_⟩
    have e : cur.toList.take (l.length * ET.sz) = (cur.toList.take ((l.length + r.length) * ET.sz)).take (l.length * ET.sz) := by rw [List.take_take, Nat.min_eq_left (Nat.mul_le_mul_right _ (by omega))]
    rw [e, ht, El.cs_append, List.take_append_of_le_length (by rw [okT.length]; exact Nat.le_refl _), List.take_of_length_le (by rw [okT.length]; exact Nat.le_refl _)]
/-- append of one target: what is told, and what it was appended to -/
theorem app_both (w : World) (o : Value) (l : List Tg) (hR : R ET w o l) (B : Nat) (x : Tg) (hc : w.heap[B]? = some (.cells (tgv x) 26)) (hlen : (l.length + 1) * 32 ≤ 140737488355328) :
    ∃ base cap w', (Builtin.append_ #[27, 27] 27 #[o, .slice (some ⟨B, 0, none⟩) 1 1]).run Try.prog w = .ok (.slice base (l.length + 1) cap) w' ∧ R ET w' (.slice base (l.length + 1) cap) (l ++ [x]) ∧ R ET w' o l ∧ Gr w w' o (.slice base (l.length + 1) cap) := by
  obtain ⟨base, cap, w', hrun, hP, hG⟩ := app okT w o l hR (.slice (some ⟨B, 0, none⟩) 1 1) [x] (in_one (E := ET) _ _ x _ _ _ hc rfl) (by simpa [ET] using hlen)
  refine ⟨base, cap, w', hrun, hP, ?_, hG⟩
  replace hrun : (Builtin.append_ #[27, 27] 27 #[o, .slice (some ⟨B, 0, none⟩) 1 1]).run Try.prog w = .ok (.slice base (l.length + 1) cap) w' := hrun
  rcases hR.2 with ⟨rfl, h0⟩ | ⟨g, cap0, cur, rfl, _, hgg, hnc, _, hcs, _⟩
  · obtain rfl := List.eq_nil_of_length_eq_zero h0
    exact R.nil ET _
  · obtain ⟨i0, z, hi0, hz0, hz1, hz2, hz3⟩ := info_z okT
    have hcell : ∀ j u, ([.string x.1, .string x.2] : List Value)[j]? = some u → w.cell? ((⟨B, 0, none⟩ : Addr).add j) = some u := by
      intro j u hj
      rw [Addr.add_lit, cell_blk hc, Nat.zero_add]
      simpa [tgv] using hj
    have hone : ∀ u ∈ ([.string x.1, .string x.2] : List Value), u.oneCell' = true := by simp [Value.oneCell']
    by_cases hroom : l.length + 1 ≤ cap0
    · have hr := run_append_room (P := Try.prog) w 27 27 26 i0 Try.underlying27 hi0 g l.length cap0 cur hgg ⟨B, 0, none⟩ 1 1 [.string x.1, .string x.2] (by rw [hz1]; rfl) hcell hone hroom (by rw [hcs, hz1]; simp [ET]; omega)
      rw [hrun] at hr
      injection hr with hr _
      injection hr with e1 e2 e3
      subst e1
      subst e3
      exact R.front (r := [x]) hP
    · have hr := run_append_grow (P := Try.prog) w 27 27 26 i0 z Try.underlying27 hi0 hz0 ⟨g, 0, none⟩ l.length cap0 (ET.cs l) (by rw [okT.length, hz1]) (World.ownsRow.cells hR (g := g) rfl) ⟨B, 0, none⟩ 1 1 [.string x.1, .string x.2] (by rw [hz1]; rfl) hcell (by omega) (by omega) (growslice_fits (by omega) (by rw [hz2]; simp [ET]; omega))
      rw [hrun] at hr
      injection hr with hr hw
      subst hw
      refine hR.stays fun k hk hlt => ?_
      rw [heap_al, if_neg (by rw [size_dr]; omega), heap_dr]
end Go.Proofs.Ytldnibkgdpeocaa
