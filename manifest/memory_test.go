package manifest_test

import (
	"slices"
	"strings"
	"testing"
	"unsafe"

	"herald/api"
	"herald/lists"
	"herald/manifest"
)

// watchedRules is the rules in lists with room behind them, their Pushes too, and
// a look at whether any of that is as it was.
func watchedRules(l []api.Rule) ([]api.Rule, func() bool) {
	var room []api.Rule
	var looks []func() bool
	for _, r := range append(ownRules(l), rule("spare x y"), rule("x spare"), api.Rule{}) {
		push, unchanged := lists.Watched(r.Push, at("spare"), at("x"), api.Target{})
		r.Push = push
		room, looks = append(room, r), append(looks, unchanged)
	}
	before := slices.Clone(room)
	return room[:len(l)], func() bool {
		for i, r := range room {
			if !samePlace(r, before[i]) || !looks[i]() {
				return false
			}
		}
		return true
	}
}

// samePlace tells whether two rules are the same, their Pushes in one place.
func samePlace(a, b api.Rule) bool {
	return a.Of == b.Of && len(a.Push) == len(b.Push) && cap(a.Push) == cap(b.Push) && unsafe.SliceData(a.Push) == unsafe.SliceData(b.Push)
}

// scribbleRules writes over the rules, their Pushes, and the room behind all.
func scribbleRules(l []api.Rule) {
	for _, r := range l[:cap(l)] {
		lists.Scribble(r.Push, at("over"))
	}
	lists.Scribble(l, rule("x over"))
}

// TestRulesStay: P18.5, neither rules nor their Pushes nor the room behind them
// is changed, by Of or later, and what becomes of them later isn't seen.
func TestRulesStay(t *testing.T) {
	wrong := rule("x y")
	wrong.Push[0].Path = "y"
	refused := [][]api.Rule{someRules(65), rules("x 1 2 3 4 5 6 7 8 9"), rules("x y y"), rules("x", "y", "x"), {wrong}, {rule("z"), {}}}
	for _, l := range append(someManifests(), refused...) {
		given, unchanged := watchedRules(l)
		b := holdOf(t, given)
		if b != nil {
			b.look(t, at("none"), at("spare"), at("over"))
		}
		if !unchanged() {
			t.Errorf("P18.5: %s or the room behind it was changed", shownRules(l))
		}
		scribbleRules(given)
		if b != nil {
			b.look(t, at("none"), at("spare"), at("over"))
		}
	}
}

// TestSharedPush: rules whose Pushes are one list, or pieces of one, and a list of
// rules that makes two manifests.
func TestSharedPush(t *testing.T) {
	push := somePush(8)
	l := []api.Rule{{Of: at("x"), Push: push}, {Of: at("y"), Push: push[:3]}, {Of: at("z"), Push: push[2:5]}, {Of: push[0], Push: push[4:]}}
	first := wantManifest(t, l)
	push[0], l[1].Of = at("x"), at("w")
	second := wantManifest(t, l)
	lists.Scribble(push, at("over"))
	lists.Scribble(l, rule("over x"))
	first.wantPlan(t, at("y"), 2, []api.Target{somePush(1)[0], somePush(5)[4]})
	first.wantPlan(t, at("w"), 8, nil)
	second.wantPlan(t, at("w"), 2, []api.Target{at("x"), somePush(2)[1]})
	second.wantPlan(t, at("y"), 8, nil)
	first.look(t, at("over"))
	second.look(t, at("over"))
}

// TestSpareRoom: what stands behind a list isn't looked at.
func TestSpareRoom(t *testing.T) {
	all := someRules(70)
	wantManifest(t, all[:64]).wantPaths(t, "64", 8, "")
	wantManifest(t, all[:0]).wantPaths(t, "0", 8, "")
	twice := rules("x y", "x z")
	wantManifest(t, twice[:1]).wantPaths(t, "x", 8, "y")
	long := rule("x 1 2 3 4 5 6 7 8 9 8")
	long.Push = long.Push[:8]
	wantManifest(t, []api.Rule{long}).wantPaths(t, "x", 8, "1 2 3 4 5 6 7 8")
	long.Push = long.Push[:0]
	wantManifest(t, []api.Rule{long}).wantPaths(t, "x", 8, "")
}

// TestAnsweredIsNew: P18.5, a plan can be written over and made longer, without
// being seen in the manifest or in another plan.
func TestAnsweredIsNew(t *testing.T) {
	over := at("over")
	for _, l := range someManifests() {
		b := wantManifest(t, l)
		for _, x := range append(everyTarget(l), at("none")) {
			for _, most := range []int{1, 2, 3, 5, 7, 8, 9} {
				want := modelPlan(l, x, most)
				first, second := b.m.Plan(x, most), b.m.Plan(x, most)
				lists.Scribble(first, over)
				longer := append(first, over, over)
				if !slices.Equal(second, want) {
					t.Errorf("P18.5: with one plan written over the other is %s, want %s", shown(second), shown(want))
				}
				b.holdPlan(t, x, most)
				_ = append(second, at("more"))
				for _, y := range longer {
					if y != over {
						t.Errorf("P18.5: a call writes into an earlier plan: %s", shown(longer))
					}
				}
			}
		}
		b.look(t, over, at("none"))
	}
}

// borrower lends texts in memory that can be written over.
type borrower struct{ all [][]byte }

func (x *borrower) text(s string) string {
	if s == "" {
		return ""
	}
	b := []byte(s)
	x.all = append(x.all, b)
	return unsafe.String(&b[0], len(b))
}

func (x *borrower) target(t api.Target) api.Target {
	return api.Target{Authority: x.text(t.Authority), Path: x.text(t.Path)}
}

func (x *borrower) rule(r api.Rule) api.Rule {
	lent := api.Rule{Of: x.target(r.Of)}
	for _, t := range r.Push {
		lent.Push = append(lent.Push, x.target(t))
	}
	return lent
}

func (x *borrower) writeOver() {
	for _, b := range x.all {
		lists.Scribble(b, '#')
	}
}

// TestTextsAreNotKept: what a manifest keeps stands in no memory of a text that was
// handed in, nor does what it answers.
func TestTextsAreNotKept(t *testing.T) {
	for _, l := range someManifests() {
		var lent borrower
		var given []api.Rule
		for _, r := range l {
			given = append(given, lent.rule(r))
		}
		m, e := manifest.Of(given)
		if e != api.OK {
			t.Fatalf("P18.1: Of(%s): %d", shownRules(l), e)
		}
		plan := m.Plan(lent.target(at("x")), 8)
		lent.writeOver()
		if want := modelPlan(l, at("x"), 8); !slices.Equal(plan, want) {
			t.Errorf("P18.5: with the texts written over the plan is %s, want %s", shown(plan), shown(want))
		}
		b := &both{m, l}
		b.look(t, api.Target{Authority: "#", Path: "##"})
	}
}

// TestTextsAreNotShared: the targets of plans stand in memory of their own.
func TestTextsAreNotShared(t *testing.T) {
	long := strings.Repeat("h", 200)
	x, y, z := api.Target{Authority: long, Path: "/" + long}, api.Target{Authority: long, Path: "/y" + long}, api.Target{Authority: long, Path: "/z" + long}
	b := wantManifest(t, []api.Rule{{Of: x, Push: []api.Target{y, z}}, {Of: y, Push: []api.Target{x, z}}, {Of: z, Push: []api.Target{x, y}}})
	seen := map[*byte]bool{}
	for _, t := range []api.Target{x, y, z} {
		seen[unsafe.StringData(t.Authority)], seen[unsafe.StringData(t.Path)] = true, true
	}
	for _, of := range []api.Target{x, y, z, x} {
		for _, told := range b.m.Plan(of, 8) {
			for _, s := range []string{told.Authority, told.Path} {
				if seen[unsafe.StringData(s)] {
					t.Errorf("R3: a text of the plan of %s has the memory of another", shownTarget(of))
				}
				seen[unsafe.StringData(s)] = true
			}
		}
	}
}
