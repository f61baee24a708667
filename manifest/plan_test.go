package manifest_test

import (
	"fmt"
	"slices"
	"strings"
	"testing"

	"herald/api"
)

// someManifests are of each shape that a walk can meet.
func someManifests() [][]api.Rule {
	other := []api.Rule{
		{Of: api.Target{Authority: "b", Path: "/x"}, Push: []api.Target{at("x"), {Authority: "b", Path: "/y"}}},
		{Of: at("x"), Push: []api.Target{{Authority: "b", Path: "/y"}, at("y")}},
		{Of: api.Target{Authority: "b", Path: "/y"}, Push: []api.Target{{Authority: "b", Path: "/x"}}},
	}
	return [][]api.Rule{
		nil, rules("x"), rules("x x"), rules("x y"), rules("x x y", "y x"), other,
		rules("x y z", "y u", "u x z"),
		rules("x 1 2 3 4 5 6 7 8", "1 9"),
		rules("x 1 2 3", "1 x 2", "2 x 3", "3 x 1"),
		rules("x 1 2", "1 3 4", "2 5 6", "3 7", "4 8", "5 9", "6 10"),
		rules("a b c d e f g h a", "h g f e d c b a", "d a d h"),
		rules("x 1 2 3 4 5 6 7 8", "8 x", "7 8", "6 7", "5 6", "4 5", "3 4", "2 3", "1 2"),
		rules("x", "y x z", "z y"),
		someRules(64),
	}
}

// TestManifests: every target of them, at all numbers.
func TestManifests(t *testing.T) {
	for _, l := range someManifests() {
		b := wantManifest(t, l)
		for _, x := range append(everyTarget(l), at("none"), at(""), api.Target{}, api.Target{Authority: "a"}, api.Target{Path: "/x"}, api.Target{Authority: "A", Path: "/x"}) {
			for _, most := range someMosts {
				b.holdPlan(t, x, most)
			}
		}
	}
}

// TestMost: all numbers, of a walk that is longer than a plan, as long, and
// shorter.
func TestMost(t *testing.T) {
	for n := range 12 {
		b := wantManifest(t, someRules(n))
		var walk []api.Target
		for i := range n {
			walk = append(walk, at(fmt.Sprint(i+1)))
		}
		for _, most := range someMosts {
			b.wantPlan(t, at("0"), most, firstOf(walk, min(most, 8)))
		}
	}
	b := of(t, "x 1 2 3 4 5 6 7 8")
	for most := range 8 {
		b.wantPaths(t, "x", most, strings.Join(strings.Fields("1 2 3 4 5 6 7 8")[:most], " "))
	}
}

// TestCut: one in front takes the place of the last, however deep it stands.
func TestCut(t *testing.T) {
	b := of(t, "x 1 2 3 4 5 6 7 8", "1 9", "2 10", "9 11", "11 12 13")
	b.wantPaths(t, "x", 8, "1 9 11 12 13 2 10 3")
	b.wantPaths(t, "x", 7, "1 9 11 12 13 2 10")
	b.wantPaths(t, "x", 6, "1 9 11 12 13 2")
	b.wantPaths(t, "x", 3, "1 9 11")
	b = of(t, "x 1 2 3 4 5 6 7 8", "8 9", "7 10")
	b.wantPaths(t, "x", 8, "1 2 3 4 5 6 7 10")
	b = of(t, "x 1 2", "1 3 4 5 6 7 8", "2 9")
	b.wantPaths(t, "x", 8, "1 3 4 5 6 7 8 2")
	b = of(t, "x 1 2", "1 3 4 5 6 7 8 9", "2 10")
	b.wantPaths(t, "x", 8, "1 3 4 5 6 7 8 9")
	// What is passed over takes no place.
	b = of(t, "x x 1 2 3 4 5 6 7", "1 x 1 8", "8 1 x 8", "7 1 2 3 4 5 6 x")
	b.wantPaths(t, "x", 8, "1 8 2 3 4 5 6 7")
	b.wantPaths(t, "7", 8, "1 x 2 3 4 5 6 8")
}

func TestSelf(t *testing.T) {
	of(t, "x x").look(t)
	of(t, "x x").wantPaths(t, "x", 8, "")
	b := of(t, "x x y x2", "y y x", "x2 y x x2 z")
	b.wantPaths(t, "x", 8, "y x2 z")
	b.wantPaths(t, "y", 8, "x x2 z")
	b.wantPaths(t, "x2", 8, "y x z")
	b = of(t, "x 1 x 2", "1 1 2", "2 2 x 1 3")
	b.wantPaths(t, "x", 8, "1 2 3")
	b.wantPaths(t, "2", 8, "x 1 3")
}

// TestCircles: of each length, begun at each of their targets.
func TestCircles(t *testing.T) {
	for n := 1; n <= 64; n++ {
		l := someRules(n)
		l[n-1].Push = []api.Target{l[0].Of}
		b := wantManifest(t, l)
		for i := range n {
			var walk []api.Target
			for j := 1; j < n; j++ {
				walk = append(walk, l[(i+j)%n].Of)
			}
			b.wantPlan(t, l[i].Of, 8, firstOf(walk, 8))
			b.wantPlan(t, l[i].Of, 3, firstOf(walk, 3))
		}
	}
	// All name all, themselves too.
	for n := 1; n <= 8; n++ {
		var all []api.Rule
		for i := range n {
			all = append(all, api.Rule{Of: at(fmt.Sprint("push", i)), Push: somePush(n)})
		}
		b := wantManifest(t, all)
		for i := range n {
			b.wantPlan(t, all[i].Of, 8, slices.Concat(somePush(n)[:i], somePush(n)[i+1:]))
		}
	}
}

// TestChains: each target of one, from its beginning to its end.
func TestChains(t *testing.T) {
	b := wantManifest(t, someRules(64))
	for i := range 66 {
		var walk []api.Target
		for j := i + 1; j <= 64; j++ {
			walk = append(walk, at(fmt.Sprint(j)))
		}
		b.wantPlan(t, at(fmt.Sprint(i)), 8, firstOf(walk, 8))
	}
}

// TestSeveralWays: what is met on several ways is told where it is met first,
// going down first.
func TestSeveralWays(t *testing.T) {
	for _, c := range []struct {
		rules []string
		want  string
	}{
		{[]string{"x a b", "a c", "b c"}, "a c b"},
		{[]string{"x a b", "a b"}, "a b"},
		{[]string{"x a b c", "a c b"}, "a c b"},
		{[]string{"x a b c", "b a c", "c b a"}, "a b c"},
		{[]string{"x a b", "a c", "c b", "b d"}, "a c b d"},
		{[]string{"x a b", "b c", "c d", "d a e"}, "a b c d e"},
		{[]string{"x a b c", "a d", "b d e", "c e f", "d g", "e g h", "g x"}, "a d g b e h c f"},
		{[]string{"x a", "a b c", "b c d", "c d e", "d e f", "e f g"}, "a b c d e f g"},
		{[]string{"x a", "a b c", "b d", "c d", "d c"}, "a b d c"},
		{[]string{"a b", "b x", "x c", "c a"}, "c a b"},
	} {
		of(t, c.rules...).wantPaths(t, "x", 8, c.want)
	}
}

// TestOnlyNamed: a target without a rule, and one whose rule names none, lead
// nowhere.
func TestOnlyNamed(t *testing.T) {
	b := of(t, "x y z", "z")
	for _, path := range []string{"y", "z", "none"} {
		b.wantPaths(t, path, 8, "")
	}
	b.wantPaths(t, "x", 8, "y z")
	empty := wantManifest(t, []api.Rule{{Of: at("x"), Push: []api.Target{}}, {Of: at("y")}})
	empty.look(t, at("none"))
	empty.wantPaths(t, "x", 8, "")
}

// TestAllSmall: every manifest of three targets in which each names any of them,
// and some in which the last names another.
func TestAllSmall(t *testing.T) {
	var pushes [][]api.Target
	for _, some := range []string{"", "1", "2", "3", "1 2", "1 3", "2 3", "1 2 3"} {
		pushes = append(pushes, orders(targets(some))...)
	}
	if len(pushes) != 16 {
		t.Fatalf("%d lists, want 16", len(pushes))
	}
	all := targets("1 2 3")
	for _, first := range pushes {
		for _, second := range pushes {
			for _, third := range append(pushes, []api.Target{at("none")}) {
				l := []api.Rule{{Of: all[0], Push: first}, {Of: all[1], Push: second}, {Of: all[2], Push: third}}
				b := wantManifest(t, l)
				for _, x := range all {
					for most := range 4 {
						b.holdPlan(t, x, most)
					}
				}
			}
		}
	}
}

// orders is the list in every order.
func orders[T any](l []T) [][]T {
	if len(l) == 0 {
		return [][]T{nil}
	}
	var all [][]T
	for _, rest := range orders(l[1:]) {
		for i := range len(l) {
			all = append(all, slices.Concat(rest[:i], l[:1], rest[i:]))
		}
	}
	return all
}

// TestOrders: P18.4, the rules in every order, or turned about.
func TestOrders(t *testing.T) {
	for _, l := range someManifests() {
		want := wantManifest(t, l)
		turned := orders(l[:min(len(l), 5)])
		for i := range turned {
			turned[i] = append(turned[i], l[min(len(l), 5):]...)
		}
		reversed := slices.Clone(l)
		slices.Reverse(reversed)
		for i := 1; i < len(l); i += 7 {
			turned = append(turned, slices.Concat(l[i:], l[:i]))
		}
		for _, other := range append(turned, reversed) {
			b := wantManifest(t, other)
			for _, x := range append(everyTarget(l), at("none")) {
				for _, most := range []int{3, 8} {
					if got, plan := b.holdPlan(t, x, most), want.m.Plan(x, most); !slices.Equal(got, plan) {
						t.Errorf("P18.4: Plan(%s, %d) of %s is %s, of %s %s", shownTarget(x), most, shownRules(l), shown(plan), shownRules(other), shown(got))
					}
				}
			}
		}
	}
}

// TestOrderInPush: that of a Push is of account.
func TestOrderInPush(t *testing.T) {
	for _, push := range orders(targets("1 2 3 4")) {
		wantManifest(t, []api.Rule{{Of: at("x"), Push: push}}).wantPlan(t, at("x"), 8, push)
		wantManifest(t, []api.Rule{{Of: at("y"), Push: push}, rule("x y 1")}).wantPlan(t, at("x"), 8, append(targets("y"), push...))
	}
}
