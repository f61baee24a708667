package manifest_test

import (
	"math"
	"slices"
	"testing"

	"herald/api"
	"herald/manifest"
)

// both are a manifest and its model.
type both struct {
	m     *manifest.Manifest
	rules []api.Rule
}

// holdOf holds Of against the model; nil: there is no such manifest.
func holdOf(t *testing.T, l []api.Rule) *both {
	t.Helper()
	m, e := manifest.Of(l)
	want := modelOf(l)
	if e != want || (m == nil) != (want != api.OK) {
		t.Fatalf("P18.1: Of(%s): %d, nil %v, want %d", shownRules(l), e, m == nil, want)
	}
	if m == nil {
		return nil
	}
	return &both{m, ownRules(l)}
}

func wantManifest(t *testing.T, l []api.Rule) *both {
	t.Helper()
	b := holdOf(t, l)
	if b == nil {
		t.Fatalf("P18.1: Of(%s) is no manifest", shownRules(l))
	}
	return b
}

// of is the manifest of rules as texts.
func of(t *testing.T, texts ...string) *both {
	t.Helper()
	return wantManifest(t, rules(texts...))
}

func wantNone(t *testing.T, want api.Errno, l []api.Rule) {
	t.Helper()
	if m, e := manifest.Of(l); m != nil || e != want {
		t.Errorf("P18.1: Of(%s): %d, nil %v, want %d", shownRules(l), e, m == nil, want)
	}
	holdOf(t, l)
}

// holdPlan holds Plan against the model, and to what every plan is.
func (b *both) holdPlan(t *testing.T, x api.Target, most int) []api.Target {
	t.Helper()
	got := b.m.Plan(x, most)
	if want := modelPlan(b.rules, x, most); !slices.Equal(got, want) {
		t.Errorf("P18.1: of %s Plan(%s, %d) = %s, want %s", shownRules(b.rules), shownTarget(x), most, shown(got), shown(want))
	}
	b.holdNamed(t, x, got)
	if len(got) < mostPush && len(got) < most {
		b.holdAllNamed(t, x, got)
	}
	if want := firstOf(b.m.Plan(x, mostPush), most); !slices.Equal(got, want) {
		t.Errorf("P18.3: of %s Plan(%s, %d) = %s, want the first of %s", shownRules(b.rules), shownTarget(x), most, shown(got), shown(want))
	}
	return got
}

// holdNamed holds that all of a plan are in it for a reason.
func (b *both) holdNamed(t *testing.T, x api.Target, plan []api.Target) {
	t.Helper()
	if isTwice(plan) || has(plan, x) {
		t.Errorf("P18.2: of %s the plan of %s, %s, has a target twice, or that one", shownRules(b.rules), shownTarget(x), shown(plan))
	}
	named := modelNames(b.rules, x)
	for _, y := range plan {
		if !has(named, y) {
			t.Errorf("P18.2: of %s the plan of %s, %s, has %s, which none ahead of it names", shownRules(b.rules), shownTarget(x), shown(plan), shownTarget(y))
		}
		named = slices.Concat(named, modelNames(b.rules, y))
	}
}

// holdAllNamed holds that a plan which isn't cut has all that it leads to.
func (b *both) holdAllNamed(t *testing.T, x api.Target, plan []api.Target) {
	t.Helper()
	known := append(slices.Clone(plan), x)
	for _, y := range known {
		for _, z := range modelNames(b.rules, y) {
			if !has(known, z) {
				t.Errorf("P18.2: of %s the plan of %s, %s, lacks %s, which %s names", shownRules(b.rules), shownTarget(x), shown(plan), shownTarget(z), shownTarget(y))
			}
		}
	}
}

func (b *both) wantPlan(t *testing.T, x api.Target, most int, want []api.Target) {
	t.Helper()
	if got := b.holdPlan(t, x, most); !slices.Equal(got, want) {
		t.Errorf("P18.1: of %s Plan(%s, %d) = %s, want %s", shownRules(b.rules), shownTarget(x), most, shown(got), shown(want))
	}
}

// wantPaths is wantPlan by paths alone.
func (b *both) wantPaths(t *testing.T, path string, most int, want string) {
	t.Helper()
	b.wantPlan(t, at(path), most, targets(want))
}

// someMosts are numbers at and beside each edge.
var someMosts = []int{math.MinInt, math.MinInt + 1, -9, -8, -2, -1, 0, 1, 2, 3, 4, 5, 6, 7, 8, 9, 10, 63, 64, 65, 1 << 31, 1 << 32, 1<<32 + 1, math.MaxInt - 1, math.MaxInt}

// look asks for every target that there is, and for some beside.
func (b *both) look(t *testing.T, beside ...api.Target) {
	t.Helper()
	for _, x := range slices.Concat(everyTarget(b.rules), beside) {
		for _, most := range []int{-1, 0, 1, 2, 7, 8, 9} {
			b.holdPlan(t, x, most)
		}
	}
}
