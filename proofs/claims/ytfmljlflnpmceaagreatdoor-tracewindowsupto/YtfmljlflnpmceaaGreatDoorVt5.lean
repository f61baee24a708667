import Derived.Test.YtfmljlflnpmceaaGreatDoorVa
import Derived.Shelf.SortM.Plain
import Derived.Shelf.SortM.SortNone
import Derived.Ground.SlgmProg
import Derived.Sort.OwnSortedInts
import Derived.Shelf.SlGeneric
import Derived.Test.YtfmljlflnpmceaaGreatDoorTK3
/- slices.Sort at []int64, by the shelf's contract. -/
namespace Go.Proofs.YtfmljlflnpmceaaGreatDoor
open Go.RowKit Go.Sort Go.Shelf

def laidSort_ren : Go.Shelf.Ren := ⟨fun | 5 => 120 | 8 => 139 | 7 => 138 | 19 => 154 | 20 => 155 | 10 => 145 | 11 => 146 | 12 => 147 | 13 => 148 | 14 => 149 | 15 => 150 | 16 => 151 | 17 => 152 | 18 => 153 | 30 => 156 | 31 => 157 | 32 => 158 | 33 => 159 | 34 => 160 | 35 => 161 | 40 => 162 | n => n, fun | 23 => 36 | 25 => 2 | 3 => 3 | 32 => 82 | 22 => 36 | 0 => 0 | 44 => 171 | 46 => 173 | 4 => 4 | 36 => 164 | 35 => 163 | 41 => 136 | 5 => 5 | 9 => 9 | 53 => 174 | 57 => 178 | 63 => 180 | 64 => 181 | n => n, fun | n => n⟩
theorem laidSort : Go.Proofs.SlLaysM.n5 Tryz.prog laidSort_ren := {
  mixed := by kernel_rfl
  f5 := ⟨Tryz.f120.name, by decide, Tryz.func120.trans (congrArg some (by kernel_rfl))⟩
  f7 := ⟨Tryz.f138.name, by decide, Tryz.func138.trans (congrArg some (by kernel_rfl))⟩
  f8 := Tryz.func139.trans (congrArg some (by kernel_rfl))
  f10 := ⟨Tryz.f145.name, by decide, Tryz.func145.trans (congrArg some (by kernel_rfl))⟩
  f11 := ⟨Tryz.f146.name, by decide, Tryz.func146.trans (congrArg some (by kernel_rfl))⟩
  f12 := ⟨Tryz.f147.name, by decide, Tryz.func147.trans (congrArg some (by kernel_rfl))⟩
  f13 := ⟨Tryz.f148.name, by decide, Tryz.func148.trans (congrArg some (by kernel_rfl))⟩
  f14 := ⟨Tryz.f149.name, by decide, Tryz.func149.trans (congrArg some (by kernel_rfl))⟩
  f15 := ⟨Tryz.f150.name, by decide, Tryz.func150.trans (congrArg some (by kernel_rfl))⟩
  f16 := ⟨Tryz.f151.name, by decide, Tryz.func151.trans (congrArg some (by kernel_rfl))⟩
  f17 := ⟨Tryz.f152.name, by decide, Tryz.func152.trans (congrArg some (by kernel_rfl))⟩
  f18 := ⟨Tryz.f153.name, by decide, Tryz.func153.trans (congrArg some (by kernel_rfl))⟩
  f19 := Tryz.func154.trans (congrArg some (by kernel_rfl))
  f20 := Tryz.func155.trans (congrArg some (by kernel_rfl))
  f30 := ⟨Tryz.f156.name, by decide, Tryz.func156.trans (congrArg some (by kernel_rfl))⟩
  f31 := Tryz.func157.trans (congrArg some (by kernel_rfl))
  f32 := Tryz.func158.trans (congrArg some (by kernel_rfl))
  f33 := ⟨Tryz.f159.name, by decide, Tryz.func159.trans (congrArg some (by kernel_rfl))⟩
  f34 := ⟨Tryz.f160.name, by decide, Tryz.func160.trans (congrArg some (by kernel_rfl))⟩
  f35 := ⟨Tryz.f161.name, by decide, Tryz.func161.trans (congrArg some (by kernel_rfl))⟩
  f40 := ⟨Tryz.f162.name, by decide, Tryz.func162.trans (congrArg some (by kernel_rfl))⟩
  t0 := Tryz.underlying0
  a0 := Tryz.isAgg0
  z0 := Tryz.sizeOf0
  v0 := Tryz.zeroValue0
  t3 := Tryz.underlying3
  a3 := Tryz.isAgg3
  z3 := Tryz.sizeOf3
  v3 := Tryz.zeroValue3
  t4 := Tryz.underlying4
  a4 := Tryz.isAgg4
  z4 := Tryz.sizeOf4
  v4 := Tryz.zeroValue4
  t5 := Tryz.underlying5
  a5 := Tryz.isAgg5
  z5 := Tryz.sizeOf5
  v5 := Tryz.zeroValue5
  t9 := Tryz.underlying9
  a9 := Tryz.isAgg9
  z9 := Tryz.sizeOf9
  v9 := Tryz.zeroValue9
  t22 := Tryz.underlying36
  a22 := Tryz.isAgg36
  z22 := Tryz.sizeOf36
  v22 := Tryz.zeroValue36
  t23 := Tryz.underlying36
  a23 := Tryz.isAgg36
  z23 := Tryz.sizeOf36
  v23 := Tryz.zeroValue36
  t25 := Tryz.underlying2
  a25 := Tryz.isAgg2
  z25 := Tryz.sizeOf2
  v25 := Tryz.zeroValue2
  t32 := Tryz.underlying82
  a32 := Tryz.isAgg82
  z32 := Tryz.sizeOf82
  v32 := Tryz.zeroValue82
  t35 := Tryz.underlying163
  a35 := Tryz.isAgg163
  z35 := Tryz.sizeOf163
  v35 := Tryz.zeroValue163
  t36 := Tryz.underlying164
  a36 := Tryz.isAgg164
  z36 := Tryz.sizeOf164
  v36 := Tryz.zeroValue164
  t41 := Tryz.underlying136
  a41 := Tryz.isAgg136
  z41 := Tryz.sizeOf136
  v41 := Tryz.zeroValue136
  t44 := Tryz.underlying171
  a44 := Tryz.isAgg171
  z44 := Tryz.sizeOf171
  v44 := Tryz.zeroValue171
  t46 := Tryz.underlying173
  a46 := Tryz.isAgg173
  z46 := Tryz.sizeOf173
  v46 := Tryz.zeroValue173
  t53 := Tryz.underlying174
  a53 := Tryz.isAgg174
  z53 := Tryz.sizeOf174
  v53 := Tryz.zeroValue174
  t57 := Tryz.underlying178
  a57 := Tryz.isAgg178
  z57 := Tryz.sizeOf178
  v57 := Tryz.zeroValue178
  t63 := Tryz.underlying180
  a63 := Tryz.isAgg180
  z63 := Tryz.sizeOf180
  v63 := Tryz.zeroValue180
  t64 := Tryz.underlying181
  a64 := Tryz.isAgg181
  z64 := Tryz.sizeOf181
  v64 := Tryz.zeroValue181 }

theorem sort_any (blk off cap : Nat) (zs : List Int) (w : World) (hH : Holds (Value.int .i64) w blk off zs.toArray) (hblk : blk < w.heap.size) (hsz : zs.length < 4611686018427387904) :
    Calls Tryz.prog 120 #[.slice (some ⟨blk, off, none⟩) zs.length cap] w fun e w' =>
      e = .returned (.tuple #[]) ∧ ∃ n os, w' = grow (putRow (Value.int .i64) (Sort.ahead w n) blk off (zs.mergeSort fun x y => decide (x ≤ y)).toArray) os :=
  AnyM.slices_Sort_int laidSort blk off cap zs w hH hblk hsz
theorem sort_none (p : Option Addr) (cap : Nat) (w : World) : Calls Tryz.prog 120 #[.slice p 0 cap] w fun e w' => e = .returned (.tuple #[]) ∧ w' = w :=
  AnyM.slices_Sort_int_none laidSort p cap w
end Go.Proofs.YtfmljlflnpmceaaGreatDoor
/- Count, Live. -/
namespace Go.Proofs.YtfmljlflnpmceaaGreatDoor
open Go.RowKit Go.Maps
set_option linter.unusedVariables false
set_option linter.unusedSimpArgs false

def ky (x : Int) : Lit := .int .i64 x
/-- what has been met, of what is asked -/
def met (L : Mp) (c : Int × Int → Bool) (left : Lit → Bool) : Mp := L.filter fun p => c p && !left (ky p.1)
theorem met_start (L : Mp) (c : Int × Int → Bool) : met L c (Maps.has (mD L)) = [] := by
  refine List.filter_eq_nil_iff.2 fun p hp => ?_
  have : Maps.has (mD L) (ky p.1) = true := by
    unfold ky
    rw [has_mD]
    cases h : look L p.1 with
    | none => exact absurd rfl (look_none h p hp)
    | some v => rfl
  rw [this]
  simp
theorem met_end (L : Mp) (c : Int × Int → Bool) {left : Lit → Bool} (h : ∀ k, left k = false) : met L c left = L.filter c := by
  refine List.filter_congr fun p _ => ?_
  rw [h]
  simp
theorem met_other {c : Int × Int → Bool} {left : Lit → Bool} {x : Int} {r : Mp} (h : ∀ q ∈ r, q.1 ≠ x) : met r c (fun z => left z && !z.sameKey (ky x)) = met r c left := by
  refine List.filter_congr fun p hp => ?_
  have : (ky p.1).sameKey (ky x) = false := by
    unfold ky
    rw [same_int]
    exact beq_eq_false_iff_ne.2 (h p hp)
  simp [this]
theorem met_step (c : Int × Int → Bool) {left : Lit → Bool} {x v : Int} (hl : left (ky x) = true) : ∀ {L : Mp}, Srt L → (x, v) ∈ L → (met L c (fun z => left z && !z.sameKey (ky x))).Perm (met L c left ++ if c (x, v) = true then [(x, v)] else [])
  | a :: r, hs, hm => by
    have h' := List.pairwise_cons.1 hs
    by_cases e : a.1 = x
    · have ea : a = (x, v) := hs.one List.mem_cons_self hm e
      subst ea
      have hn : ∀ q ∈ r, q.1 ≠ x := fun q hq => by have := h'.1 q hq; simp at this; omega
      have e1 := met_other (c := c) (left := left) hn
      unfold met at e1 ⊢
      simp only [List.filter_cons]
      have e2 : (ky x).sameKey (ky x) = true := by unfold ky; rw [same_int]; simp
      simp only [hl, e2]
      rw [e1]
      cases c (x, v)
      · simp
      · simp
        exact (List.perm_append_singleton _ _).symm
    · have hm' : (x, v) ∈ r := by
        rcases List.mem_cons.1 hm with e2 | h2
        · exact absurd (by rw [← e2]) e
        · exact h2
      have ih := met_step c hl h'.2 hm'
      unfold met at ih ⊢
      simp only [List.filter_cons]
      have e2 : (ky a.1).sameKey (ky x) = false := by unfold ky; rw [same_int]; exact beq_eq_false_iff_ne.2 e
      simp only [e2, Bool.not_false, Bool.and_true]
      split
      · exact (ih.cons a)
      · exact ih
theorem mem_of_at {L : Mp} {x c : Int} (h : ∀ zd, (mD L).atKey (.int .i64 x) zd = .lit (.int .i64 c)) : (x, c) ∈ L := by
  have h1 := h (.lit (.int .i64 (c + 1)))
  rw [at_mD] at h1
  cases hl : look L x with
  | none => rw [hl] at h1; simp at h1; omega
  | some v => rw [hl] at h1; simp at h1; subst h1; exact look_mem hl
theorem met_le (L : Mp) (c : Int × Int → Bool) (left : Lit → Bool) : (met L c left).length ≤ L.length := List.length_filter_le _ _
theorem grow_of {w w' : World} (h : Below w.heap.size w w') : w.grownBy w' none := ⟨h.os, h.tape, h.output, h.size, fun i hi _ => h.block i hi⟩
theorem below_of {w w0 w' : World} {r : Nat} (h : Below w.heap.size w w0) (hg : w0.grownBy w' (some r)) (hr : w.heap.size ≤ r) : Below w.heap.size w w' :=
  ⟨hg.os.trans h.os, hg.tape.trans h.tape, hg.output.trans h.output, Nat.le_trans h.size hg.size, fun i hi => (hg.block i (Nat.lt_of_lt_of_le hi h.size) (fun e => by have := Option.some.inj e; omega)).trans (h.block i hi)⟩
theorem below_none {w w' : World} (hg : w.grownBy w' none) : Below w.heap.size w w' := ⟨hg.os, hg.tape, hg.output, hg.size, fun i hi => hg.block i hi (by simp)⟩

set_option maxRecDepth 100000 in
set_option maxHeartbeats 1000000 in
theorem counts_any (s : Int) (w : World) : Calls Tryz.prog 54 #[.int .i64 s] w fun e w' => e = .returned (.bool (ct s)) ∧ w' = w := by
  by_cases h3 : s = 3
  · subst h3
    go_enter Tryz.func54, Tryz.ntmps54
    go_wp2
    go_ret
    exact ⟨rfl, rfl⟩
  by_cases h4 : s = 4
  · subst h4
    go_enter Tryz.func54, Tryz.ntmps54
    go_wp2
    go_ret
    exact ⟨rfl, rfl⟩
  by_cases h5 : s = 5
  · subst h5
    go_enter Tryz.func54, Tryz.ntmps54
    go_wp2
    go_ret
    exact ⟨rfl, rfl⟩
  have e3 : (s == 3) = false := beq_eq_false_iff_ne.2 h3
  have e4 : (s == 4) = false := beq_eq_false_iff_ne.2 h4
  have e5 : (s == 5) = false := beq_eq_false_iff_ne.2 h5
  have h : ct s = false := by unfold ct; rw [e3, e4, e5]; rfl
  rw [h]
  clear h h3 h4 h5
  go_enter Tryz.func54, Tryz.ntmps54
  go_wp2
  go_ret
  exact ⟨rfl, rfl⟩

set_option maxRecDepth 100000 in
set_option maxHeartbeats 2000000 in
theorem count_any (w : World) (p b : Nat) (T : Tb) (l : Bool) (h : TI w p b T) : Calls Tryz.prog 75 #[.pointer (some ⟨p, 0, none⟩), .bool l] w fun e w' => e = .returned (.int .i64 (T.count l)) ∧ Below w.heap.size w w' := by
  obtain ⟨c0, c1, c2, c3, hp⟩ := h.cells
  have hown := h.mp
  have hlen := h.ok.length
  have hsrt := h.ok.srt
  have hmlt := h.mlt
  have HT : Hid (TI w p b T) := h
  clear h
  let cc : Int × Int → Bool := fun q => (T.ours q.1 == l) && ct q.2
  have hle : ∀ left, (met T.L cc left).length ≤ 2147483647 := fun left => Nat.le_trans (met_le _ _ _) hlen
  have hfin : ∀ left, (∀ k, left k = false) → (met T.L cc left).length = T.count l := fun left hl => by rw [met_end _ _ hl]; rfl
  have hstep : ∀ (left : Lit → Bool) (x c : Int), left (ky x) = true → (x, c) ∈ T.L → (met T.L cc (fun z => left z && !z.sameKey (ky x))).length = (met T.L cc left).length + if cc (x, c) = true then 1 else 0 := fun left x c h1 h2 => by
    rw [(met_step cc h1 hsrt h2).length_eq, List.length_append]
    congr 1
    split <;> rfl
  have hcc : ∀ x c, cc (x, c) = ((T.ours x == l) && ct c) := fun _ _ => rfl
  have h0 : (met T.L cc (Maps.has (mD T.L))).length = 0 := by rw [met_start]; rfl
  generalize cc = cc at hle hfin hstep hcc h0
  generalize T.count l = N at hfin ⊢
  have HLE : Hid _ := hle
  have HFN : Hid _ := hfin
  have HST : Hid _ := hstep
  have HCC : Hid _ := hcc
  have H0 : Hid _ := h0
  clear hle hfin hstep hcc h0 hlen hsrt
  go_enter Tryz.func75, Tryz.ntmps75
  go_wp2_with (first
    | (at_range; refine wpList_range_own _ rfl _ 83 rfl 2 3 law2 Tryz.underlying83 _ b _ _ rfl hown ?_; intro w0 hrg0 hg0 hs0)
    | go_in)
  go_frame
  go_loopw [5] (fun x wr => ∃ (left : Lit → Bool) (cnt : Nat), x = .int .i64 ((met T.L cc left).length : Int) ∧ wr.ranges Tryz.prog 2 (plainElem Tryz.prog 3) b w.heap.size T.L.length (mD T.L) left cnt ∧ Below w.heap.size w wr)
    (fun _ wr => wr.rangeLeft b w.heap.size)
  case atStart =>
    exact ⟨_, _, by rw [H0.out]; rfl, hrg0, below_none hg0⟩
  case round =>
    obtain ⟨left, cnt, hx, hrg, hB⟩ := hrel
    subst hx
    go_wp2_with (first
      | (at_next; refine wpList_next_ranges_ii _ rfl _ rfl 2 3 .i64 .i64 law2 Tryz.underlying2 Tryz.underlying3 b w.heap.size _ _ _ _ rfl hrg ?_ ?_)
      | go_in)
    · intro hc0 hl0
      have e := HFN.out left hl0
      rw [e]
      go_wp2
      go_ret
      exact ⟨rfl, hB⟩
    · intro x c w1 cnt1 hwx hwc hlx hat hrg1 hlt hg1 hs1 hen
      have hB1 := below_of hB hg1 (Nat.le_refl _)
      have HS : Hid _ := HST.out left x c hlx (mem_of_at hat)
      have HC : Hid _ := HCC.out x c
      have hm := HLE.out left
      generalize (met T.L cc left).length = m at hm HS
      have ht1 := HT.out.below hB1
      clear hs1 hat hlx hwx hwc hg1
      cases e1 : (T.ours x == l)
      · go_wp2_with fail
        refine (isOurs_any _ p b T x ht1).mono ?_
        rintro e w2 ⟨rfl, hB2⟩
        go_wp2_with fail
        have hrg2 := hrg1.kept (grow_of hB2) (by simp) (by simp)
        go_roundw
        case rel =>
          refine ⟨_, cnt1, ?_, hrg2, hB1.trans (hB2.mono hB1.size)⟩
          have := HS.out
          rw [HC.out, e1] at this
          simp only [Bool.false_and, Bool.false_eq_true, if_false, Nat.add_zero] at this
          exact congrArg (fun z : Nat => Value.int .i64 (z : Int)) this.symm
        case measure => rw [hrg2.left_eq, hrg.left_eq]; exact hlt
      · cases e2 : ct c
        · go_wp2_with fail
          refine (isOurs_any _ p b T x ht1).mono ?_
          rintro e w2 ⟨rfl, hB2⟩
          go_wp2_with fail
          refine (counts_any c _).mono ?_
          rintro e w2 ⟨rfl, rfl⟩
          rw [e2]
          go_wp2_with fail
          have hrg2 := hrg1.kept (grow_of hB2) (by simp) (by simp)
          go_roundw
          case rel =>
            refine ⟨_, cnt1, ?_, hrg2, hB1.trans (hB2.mono hB1.size)⟩
            have := HS.out
            rw [HC.out, e1, e2] at this
            simp only [Bool.and_false, Bool.false_eq_true, if_false, Nat.add_zero] at this
            exact congrArg (fun z : Nat => Value.int .i64 (z : Int)) this.symm
          case measure => rw [hrg2.left_eq, hrg.left_eq]; exact hlt
        · go_wp2_with fail
          refine (isOurs_any _ p b T x ht1).mono ?_
          rintro e w2 ⟨rfl, hB2⟩
          go_wp2_with fail
          refine (counts_any c _).mono ?_
          rintro e w2 ⟨rfl, rfl⟩
          rw [e2]
          go_wp2_with fail
          have hrg2 := hrg1.kept (grow_of hB2) (by simp) (by simp)
          go_roundw
          case rel =>
            refine ⟨_, cnt1, ?_, hrg2, hB1.trans (hB2.mono hB1.size)⟩
            have := HS.out
            rw [HC.out, e1, e2] at this
            simp only [Bool.and_true, if_true] at this
            show Value.int .i64 ((m : Int) + 1) = _
            have e3 := congrArg (fun z : Nat => Value.int .i64 (z : Int)) this.symm
            simp only [Int.natCast_add] at e3
            exact e3
          case measure => rw [hrg2.left_eq, hrg.left_eq]; exact hlt

/-- rows of numbers -/
def EI : El Int := ⟨36, 2, 1, 8, fun x => [.int .i64 x]⟩
theorem okI : EI.Ok := ⟨Tryz.underlying36, by kernel_rfl, by decide, by decide, fun _ => rfl, fun a u hu => by
  simp only [EI, List.mem_cons, List.not_mem_nil, or_false] at hu
  rcases hu with rfl <;> rfl⟩
theorem cs_I (l : List Int) : EI.cs l = l.map (Value.int .i64) := by
  induction l with
  | nil => rfl
  | cons a r ih => rw [List.map_cons, ← ih]; rfl
theorem live_rise {T : Tb} (h : T.Ok) : T.live.Pairwise (· < ·) := rise_keys h.srt _
theorem sort_live {T : Tb} (h : T.Ok) {zs : List Int} (hp : zs.Perm T.live) : zs.mergeSort (fun x y => decide (x ≤ y)) = T.live := by
  refine List.Perm.eq_of_pairwise (le := fun a b : Int => decide (a ≤ b) = true) (fun a b _ _ h1 h2 => by simp at h1 h2; omega) (List.pairwise_mergeSort (fun a b c h1 h2 => by simp at *; omega) (fun a b => by simp; omega) zs) ((live_rise h).imp fun h => by simp; omega) ((List.mergeSort_perm _ _).trans hp)
theorem ranges_stays {w w' : World} {b r n cnt : Nat} {D : DataW Unit} {left : Lit → Bool} (h : w.ranges Tryz.prog 2 (plainElem Tryz.prog 3) b r n D left cnt) (hb : w'.heap[b]? = w.heap[b]?) (hr : w'.heap[r]? = w.heap[r]?) : w'.ranges Tryz.prog 2 (plainElem Tryz.prog 3) b r n D left cnt := by
  obtain ⟨es, clock, since, seen, c0, h1, h2, h3, h4, h5, rest⟩ := h
  exact ⟨es, clock, since, seen, c0, hb.trans h1, h2, h3, h4, hr.trans h5, rest⟩

set_option maxRecDepth 100000 in
set_option maxHeartbeats 2000000 in
theorem live_any (w : World) (p b : Nat) (T : Tb) (h : TI w p b T) : Calls Tryz.prog 111 #[.pointer (some ⟨p, 0, none⟩)] w fun e w' => ∃ v, e = .returned v ∧ R EI w' v T.live ∧ (∀ k, v.ownBlock = some k → w.heap.size ≤ k) ∧ Below w.heap.size w w' := by
  obtain ⟨c0, c1, c2, c3, hp⟩ := h.cells
  have hown := h.mp
  have hlen := h.ok.length
  have hsrt := h.ok.srt
  have hmlt := h.mlt
  have HSL : Hid (∀ zs : List Int, zs.Perm T.live → zs.mergeSort (fun x y => decide (x ≤ y)) = T.live) := fun zs hz => sort_live h.ok hz
  clear h
  let cc : Int × Int → Bool := fun q => !(q.2 == 6)
  have hle : ∀ left, (met T.L cc left).length ≤ 2147483647 := fun left => Nat.le_trans (met_le _ _ _) hlen
  have hfin : ∀ left, (∀ k, left k = false) → (met T.L cc left).map (·.1) = T.live := fun left hl => by rw [met_end _ _ hl]; rfl
  have hstep : ∀ (left : Lit → Bool) (x c : Int), left (ky x) = true → (x, c) ∈ T.L → (met T.L cc (fun z => left z && !z.sameKey (ky x))).Perm (met T.L cc left ++ if cc (x, c) = true then [(x, c)] else []) := fun left x c h1 h2 => met_step cc h1 hsrt h2
  have hcc : ∀ x c, cc (x, c) = !(c == 6) := fun _ _ => rfl
  have h0 : met T.L cc (Maps.has (mD T.L)) = [] := met_start _ _
  generalize cc = cc at hle hfin hstep hcc h0
  generalize T.live = lv at hfin HSL ⊢
  have HLE : Hid _ := hle
  have HFN : Hid _ := hfin
  have HST : Hid _ := hstep
  have HCC : Hid _ := hcc
  have H0 : Hid _ := h0
  clear hle hfin hstep hcc h0 hlen hsrt
  go_enter Tryz.func111, Tryz.ntmps111
  go_wp2_with (first
    | (at_range; refine wpList_range_own _ rfl _ 83 rfl 2 3 law2 Tryz.underlying83 _ b _ _ rfl hown ?_; intro w0 hrg0 hg0 hs0)
    | go_in)
  go_frame
  go_loopw [3] (fun x wr => ∃ (left : Lit → Bool) (cnt : Nat) (zs : List Int), Hid (zs.Perm ((met T.L cc left).map (·.1))) ∧ R EI wr x zs ∧ (∀ k, x.ownBlock = some k → w.heap.size + 1 ≤ k) ∧ wr.ranges Tryz.prog 2 (plainElem Tryz.prog 3) b w.heap.size T.L.length (mD T.L) left cnt ∧ Below w.heap.size w wr ∧ w.heap.size + 1 ≤ wr.heap.size)
    (fun _ wr => wr.rangeLeft b w.heap.size)
  case atStart =>
    exact ⟨_, _, [], by rw [H0.out]; exact List.Perm.nil, R.nil EI _, fun k hk => by simp [Value.ownBlock] at hk, hrg0, below_none hg0, by omega⟩
  case round =>
    obtain ⟨left, cnt, zs, hzs, hR, hnew, hrg, hB, hsz⟩ := hrel
    obtain ⟨ba, ca, hx, _, _⟩ := hR.slice
    subst hx
    go_wp2_with (first
      | (at_next; refine wpList_next_ranges_ii _ rfl _ rfl 2 3 .i64 .i64 law2 Tryz.underlying2 Tryz.underlying3 b w.heap.size _ _ _ _ rfl hrg ?_ ?_)
      | go_in)
    · intro hc0 hl0
      have e := HFN.out left hl0
      have hzs' := hzs.out
      rw [e] at hzs'
      have hms := HSL.out zs hzs'
      have hll : zs.length ≤ 2147483647 := by
        have := HLE.out left
        rw [hzs.out.length_eq]
        simpa using this
      clear hzs hrg hc0 hl0 e
      rcases hR.2 with ⟨hv, hz0⟩ | ⟨gg, cap, cur, hv, h1, h2, h3, h4, h5, h6⟩
      · injection hv with hv1 hv2 hv3
        obtain rfl : zs = [] := List.eq_nil_of_length_eq_zero hz0
        have hlv : lv = [] := by rw [← hms]; simp
        clear hms HSL
        subst hv1 hv3
        subst hlv
        go_wp2_with fail
        refine (sort_none none 0 _).mono ?_
        rintro e w2 ⟨rfl, rfl⟩
        go_wp2
        go_ret
        exact ⟨_, rfl, hR, fun k hk => by simp [Value.ownBlock] at hk, hB⟩
      · injection hv with hv1 hv2 hv3
        subst hv1 hv3
        have hcur : cur.toList.take zs.length = zs.map (Value.int .i64) := by
          rw [cs_I] at h6
          have : zs.length * EI.sz = zs.length := Nat.mul_one _
          rw [this] at h6
          exact h6
        have hg1 := hnew gg rfl
        have hsa := sort_any gg 0 ca zs _ (holds_of_blockI h2 hcur) (heap_lt h2) (by omega)
        rw [hms] at hsa
        go_wp2_with fail
        refine hsa.mono ?_
        rintro e w2 ⟨rfl, n2, os2, rfl⟩
        have hll2 : lv.length = zs.length := hzs'.length_eq.symm
        have how := ownsRow_sortedI (n := n2) (os := os2) (base := 0) hll2 (Nat.zero_le _) h2 h3 h4 h5
        have hgr := grownBy_sortedI (w := ‹World›) (g := gg) (n := n2) (os := os2) lv.toArray
        go_wp2
        go_ret
        refine ⟨_, rfl, ?_, ?_, ?_⟩
        · unfold R
          rw [cs_I, hll2]
          exact how
        · intro k hk
          simp [Value.ownBlock] at hk
          omega
        · exact below_of hB hgr (by omega)
    · intro x c w1 cnt1 hwx hwc hlx hat hrg1 hlt hg1 hs1 hen
      have hB1 := below_of hB hg1 (Nat.le_refl _)
      have HS : Hid _ := HST.out left x c hlx (mem_of_at hat)
      have HC : Hid _ := HCC.out x c
      have hR1 : R EI w1 (.slice ba zs.length ca) zs := hR.stays fun k hk hkl => hg1.block k hkl (fun e => by have := hnew k hk; have := Option.some.inj e; omega)
      have hsz1 : w.heap.size + 1 ≤ w1.heap.size := by have := hg1.size; omega
      have hll : zs.length ≤ 2147483647 := by
        have := HLE.out left
        rw [hzs.out.length_eq]
        simpa using this
      clear hs1 hat hlx hwx hwc hg1
      cases e1 : (c == 6)
      · obtain ⟨base, cap, w3, hrun, hR3, hG3⟩ := app okI (w1.alloc (.cells #[.int .i64 x] 2)) (.slice ba zs.length ca) zs (hR1.below (bel1 _ _)) (.slice (some ⟨w1.heap.size, 0, none⟩) 1 1) [x] (in_one _ _ x _ _ _ (heap_alloc_new _ _) rfl) (by
          simp [EI]; omega)
        have hRR : Hid (R EI w3 (.slice base (zs.length + [x].length) cap) (zs ++ [x])) := hR3
        have hGG : Hid _ := hG3
        clear hR3 hG3
        have hrun : Hid ((Builtin.append_ #[36, 36] 36 #[.slice ba zs.length ca, .slice (some ⟨w1.heap.size, 0, none⟩) 1 1]).run Tryz.prog (w1.alloc (.cells #[.int .i64 x] 2)) = .ok (.slice base (zs.length + 1) cap) w3) := hrun
        go_wp2_with (at_builtin; refine Lib.wpList_append_run _ rfl (.tmp 18) (.tmp 20) 36 36 rfl _ _ rfl rfl _ _ hrun.out ?_)
        have hG := hGG.out
        have hrg2 : w3.ranges Tryz.prog 2 (plainElem Tryz.prog 3) b w.heap.size T.L.length (mD T.L) (fun z => left z && !z.sameKey (.int .i64 x)) cnt1 :=
          ranges_stays (hrg1.alloc _) (hG.block _ (by simp; have := hrg1.owns.lt; omega) (fun e => by have := hnew _ e; omega)) (hG.block _ (by simp; omega) (fun e => by have := hnew _ e; omega))
        go_roundw
        case rel =>
          refine ⟨_, cnt1, zs ++ [x], ?_, hRR.out, ?_, hrg2, ?_, ?_⟩
          · have h2 := HS.out
            rw [HC.out, e1] at h2
            simp only [Bool.not_false, if_true] at h2
            have h3 := h2.map (·.1)
            rw [List.map_append] at h3
            exact (hzs.out.append_right [x]).trans h3.symm
          · intro k hk
            rcases hG.own k hk with e | e
            · exact hnew k e
            · simp at e; omega
          · exact hB1.trans ((((bel1 w1 _).mono hB1.size)).trans (hG.belowB (by simp; omega) fun k hk => by have := hnew k hk; omega))
          · have := hG.size; simp at this; omega
        case measure => rw [hrg2.left_eq, hrg.left_eq]; exact hlt
      · go_wp2_with fail
        go_roundw
        case rel =>
          refine ⟨_, cnt1, zs, ?_, hR1, hnew, hrg1, hB1, hsz1⟩
          have h2 := HS.out
          rw [HC.out, e1] at h2
          simp only [Bool.not_true, Bool.false_eq_true, if_false, List.append_nil] at h2
          exact hzs.out.trans (h2.symm.map _)
        case measure => rw [hrg1.left_eq, hrg.left_eq]; exact hlt
end Go.Proofs.YtfmljlflnpmceaaGreatDoor
