package manifest_test

import (
	"fmt"
	"slices"
	"strings"
	"testing"

	"herald/api"
	"herald/manifest"
)

func TestExampleOne(t *testing.T) {
	b := of(t, "x y z", "y u", "u x z")
	b.wantPaths(t, "x", 8, "y u z")
	b.wantPaths(t, "x", 2, "y u")
	b.wantPaths(t, "y", 8, "u x z")
	b.wantPaths(t, "z", 8, "")
	b.wantPaths(t, "q", 8, "")
	b.wantPaths(t, "x", 0, "")
	b.wantPaths(t, "x", -1, "")
}

func TestExampleTwo(t *testing.T) {
	b := of(t, "x x y", "y x")
	b.wantPaths(t, "x", 8, "y")
	b.wantPaths(t, "y", 8, "x")
}

func TestExampleThree(t *testing.T) {
	of(t, "x 1 2 3 4 5 6 7 8", "1 9").wantPaths(t, "x", 100, "1 9 2 3 4 5 6 7")
}

func TestExampleFour(t *testing.T) {
	wantNone(t, api.ErrLong, someRules(65))
	wantNone(t, api.ErrLong, rules("x 1 2 3 4 5 6 7 8 9"))
	wantNone(t, api.ErrTwice, rules("x y", "x z"))
	wantNone(t, api.ErrTwice, rules("x y y"))
	for _, wrong := range []api.Target{{Authority: "a", Path: "y"}, {Authority: "a"}, {Authority: "a", Path: "/a b"}, {Path: "/y"}} {
		wantNone(t, api.ErrRule, []api.Rule{{Of: wrong}})
		wantNone(t, api.ErrRule, []api.Rule{{Of: at("x"), Push: []api.Target{wrong}}})
	}
	of(t).look(t, at("x"), api.Target{})
	other := api.Target{Authority: "b", Path: "/x"}
	b := wantManifest(t, []api.Rule{rule("x y"), {Of: other, Push: []api.Target{at("x"), other}}})
	b.wantPaths(t, "x", 8, "y")
	b.wantPlan(t, other, 8, targets("x y"))
}

// TestNumbers: the errors and the limits are those that the document has.
func TestNumbers(t *testing.T) {
	if api.ErrLong != longError || api.ErrTwice != twiceError || api.ErrRule != ruleError {
		t.Error("the errors have other numbers")
	}
	if api.MaxRules != mostRules || api.MaxPush != mostPush || api.MaxValue != mostPath {
		t.Error("the limits have other numbers")
	}
}

// TestNumbersOfRules: all of them are there, up to as many as there may be.
func TestNumbersOfRules(t *testing.T) {
	for n := range 70 {
		if n > 64 {
			wantNone(t, api.ErrLong, someRules(n))
			continue
		}
		b := wantManifest(t, someRules(n))
		for i := range n {
			b.wantPaths(t, fmt.Sprint(i), 1, fmt.Sprint(i+1))
		}
		b.wantPaths(t, fmt.Sprint(n), 8, "")
	}
	wantManifest(t, nil).look(t, at("x"))
	wantManifest(t, []api.Rule{}).look(t, at("x"))
	for _, n := range []int{128, 256, 320, 65536, 65537, 1 << 20} {
		wantTooLong(t, make([]api.Rule, n))
		same := make([]api.Rule, n)
		for i := range same {
			same[i] = rule("x y")
		}
		wantTooLong(t, same)
	}
}

// wantTooLong is without the model, which is too slow for lists as long as this.
func wantTooLong(t *testing.T, l []api.Rule) {
	t.Helper()
	if m, e := manifest.Of(l); m != nil || e != longError {
		t.Errorf("P18.1: Of %d rules: %d, nil %v, want ErrLong", len(l), e, m == nil)
	}
}

// TestNumbersOfPush: in the only rule, and in the first, a middle and the last.
func TestNumbersOfPush(t *testing.T) {
	for n := range 12 {
		wide := api.Rule{Of: at("wide"), Push: somePush(n)}
		for _, ahead := range []int{0, 1, 31, 63} {
			for _, l := range [][]api.Rule{append(someRules(ahead), wide), append([]api.Rule{wide}, someRules(ahead)...), slices.Concat(someRules(ahead)[:ahead/2], []api.Rule{wide}, someRules(ahead)[ahead/2:])} {
				if n > 8 {
					wantNone(t, api.ErrLong, l)
					continue
				}
				b := wantManifest(t, l)
				b.wantPlan(t, wide.Of, 8, wide.Push)
				b.wantPlan(t, wide.Of, 100, wide.Push)
			}
		}
	}
	for _, n := range []int{16, 256, 257, 264, 65536, 65544, 1 << 20} {
		wantTooLong(t, []api.Rule{{Of: at("x"), Push: make([]api.Target, n)}})
		wantTooLong(t, append(someRules(63), api.Rule{Of: at("x"), Push: make([]api.Target, n)}))
	}
	// Each by itself, not all together.
	all := someRules(64)
	for i := range all {
		all[i].Push = somePush(8)
	}
	wantManifest(t, all).look(t)
	all[63].Push = somePush(9)
	wantNone(t, api.ErrLong, all)
}

// TestRulesTwice: two rules of one target, wherever they stand, whatever they name.
func TestRulesTwice(t *testing.T) {
	for n := 2; n <= 64; n += 31 {
		for i := range n {
			for j := range i {
				l := someRules(n)
				l[i].Of = l[j].Of
				wantNone(t, api.ErrTwice, l)
				if i-j > 1 {
					l[i].Push = nil
					wantNone(t, api.ErrTwice, l)
					l[j].Push = nil
					wantNone(t, api.ErrTwice, l)
				}
			}
		}
	}
	wantNone(t, api.ErrTwice, rules("x y", "x y"))
	wantNone(t, api.ErrTwice, rules("x", "x"))
	wantNone(t, api.ErrTwice, rules("x", "y", "x y"))
	wantNone(t, api.ErrTwice, rules("x y", "x y", "x y"))
}

// TestPushTwice: at every two places of a Push.
func TestPushTwice(t *testing.T) {
	for n := 2; n <= 8; n++ {
		for i := range n {
			for j := range i {
				twice := api.Rule{Of: at("twice"), Push: somePush(n)}
				twice.Push[i] = twice.Push[j]
				wantNone(t, api.ErrTwice, []api.Rule{twice})
				wantNone(t, api.ErrTwice, append(someRules(3), twice))
				wantNone(t, api.ErrTwice, append([]api.Rule{twice}, someRules(3)...))
				twice.Push[i], twice.Push[j] = twice.Of, twice.Of
				wantNone(t, api.ErrTwice, []api.Rule{twice})
			}
		}
	}
	// In two rules each target may stand.
	of(t, "x y z", "y z x", "z x y", "u x y z u").look(t)
}

// TestTargetsApart: those that are alike but for a byte, or whose bytes are parted
// otherwise, are not the same.
func TestTargetsApart(t *testing.T) {
	long, path := strings.Repeat("h", 254), "/"+strings.Repeat("p", 4094)
	for _, l := range [][]api.Target{
		{at("x"), at("X"), {Authority: "A", Path: "/x"}, {Authority: "A", Path: "/X"}},
		{at("x"), at("x/"), at("/x"), at("x?"), at("%78")},
		{at(""), at("/"), {Authority: "a/", Path: "/"}, {Authority: "/", Path: "/a"}, {Authority: "a/a", Path: "/"}},
		{{Authority: "a", Path: "/b/c"}, {Authority: "a/b", Path: "/c"}, {Authority: "a/b/c", Path: "/"}, {Authority: "a/", Path: "/b/c"}},
		{{Authority: "a", Path: "//x"}, {Authority: "a/", Path: "/x"}, {Authority: "a//x", Path: "/"}},
		{{Authority: "a.test", Path: "/"}, {Authority: "a.test:443", Path: "/"}, {Authority: "a.test.", Path: "/"}, {Authority: "A.test", Path: "/"}},
		{{Authority: long + "1", Path: path + "1"}, {Authority: long + "2", Path: path + "1"}, {Authority: long + "1", Path: path + "2"}, {Authority: long, Path: path}},
	} {
		wantApart(t, l)
	}
}

// wantApart: unlike targets may have a rule each, stand in one Push, and have
// plans of their own.
func wantApart(t *testing.T, l []api.Target) {
	t.Helper()
	var apart []api.Rule
	for i, x := range l {
		apart = append(apart, api.Rule{Of: x, Push: targets(fmt.Sprint("of", i))})
	}
	b := wantManifest(t, apart)
	for i, x := range l {
		b.wantPlan(t, x, 8, targets(fmt.Sprint("of", i)))
		one := wantManifest(t, []api.Rule{{Of: x, Push: l}})
		one.wantPlan(t, x, 8, slices.Concat(l[:i], l[i+1:]))
		for j, y := range l {
			if i != j {
				one.wantPlan(t, y, 8, nil)
				wantNone(t, api.ErrTwice, append(slices.Clone(apart), api.Rule{Of: x}))
			}
		}
	}
}

// TestOrderOfErrors: ErrLong is told ahead of ErrRule, that ahead of ErrTwice,
// in whichever rules and in whichever order they stand.
func TestOrderOfErrors(t *testing.T) {
	wrong := api.Target{Authority: "a", Path: "no"}
	long := rule("l 1 2 3 4 5 6 7 8 9")
	wrongs := []api.Rule{{}, {Of: wrong}, {Of: at("w"), Push: []api.Target{wrong}}, {Of: at("w"), Push: append(somePush(7), wrong)}}
	twices := [][]api.Rule{rules("t y y"), rules("t", "t"), rules("t y", "t z"), {{Of: at("t"), Push: append(somePush(7), at("push0"))}}}
	for _, twice := range twices {
		wantInOrders(t, api.ErrTwice, twice)
		for _, w := range wrongs {
			wantInOrders(t, api.ErrRule, append(slices.Clone(twice), w))
			wantInOrders(t, api.ErrRule, append(slices.Clone(twice), w, w))
			wantInOrders(t, api.ErrLong, append(slices.Clone(twice), w, long))
			wantNone(t, api.ErrLong, slices.Concat(twice, []api.Rule{w}, someRules(64)))
			wantNone(t, api.ErrLong, slices.Concat(someRules(64), []api.Rule{w}, twice))
		}
		wantInOrders(t, api.ErrLong, append(slices.Clone(twice), long))
		wantInOrders(t, api.ErrLong, append(slices.Clone(twice), long, long))
		wantNone(t, api.ErrLong, append(someRules(64), twice...))
	}
	// All of it in one rule.
	for _, push := range [][]api.Target{append(somePush(8), wrong), append([]api.Target{wrong}, somePush(8)...), append(somePush(8), at("push0")), append(somePush(7), wrong, wrong), make([]api.Target, 9)} {
		wantNone(t, api.ErrLong, []api.Rule{{Of: at("x"), Push: push}})
		wantNone(t, api.ErrLong, []api.Rule{{Of: wrong, Push: push}})
		wantNone(t, api.ErrLong, []api.Rule{{Push: push}})
	}
	wantNone(t, api.ErrRule, []api.Rule{{Of: at("x"), Push: []api.Target{wrong, wrong}}})
	wantNone(t, api.ErrRule, []api.Rule{{Of: at("x"), Push: append(targets("y y"), wrong)}})
	wantNone(t, api.ErrRule, []api.Rule{{Of: wrong}, {Of: wrong}})
	wantNone(t, api.ErrLong, make([]api.Rule, 65))
}

// wantInOrders refuses the rules in every order.
func wantInOrders(t *testing.T, want api.Errno, l []api.Rule) {
	t.Helper()
	for _, turned := range orders(l) {
		wantNone(t, want, turned)
	}
}

// TestAlike: R4, a second manifest of the same rules answers what the first did, and
// each again.
func TestAlike(t *testing.T) {
	for _, l := range someManifests() {
		first, second := wantManifest(t, l), wantManifest(t, l)
		for _, x := range append(everyTarget(l), at("none")) {
			for _, most := range someMosts {
				a, b, again := first.holdPlan(t, x, most), second.holdPlan(t, x, most), first.m.Plan(x, most)
				if !slices.Equal(a, b) || !slices.Equal(a, again) {
					t.Errorf("R4: of %s Plan(%s, %d): %s, %s, %s", shownRules(l), shownTarget(x), most, shown(a), shown(b), shown(again))
				}
			}
		}
	}
}
