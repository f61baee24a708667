package manifest_test

import (
	"fmt"
	"math/rand"
	"slices"
	"strings"
	"testing"

	"herald/api"
)

func one[T any](r *rand.Rand, l ...T) T { return l[r.Intn(len(l))] }

// randomTarget is one of so many of one authority, or the same path of another.
func randomTarget(r *rand.Rand, kinds int) api.Target {
	return api.Target{Authority: one(r, "a", "a", "a", "a", "b", "A"), Path: fmt.Sprint("/", r.Intn(kinds))}
}

// randomPush has mostly no target twice.
func randomPush(r *rand.Rand, kinds, n int) []api.Target {
	var l []api.Target
	for range n {
		if x := randomTarget(r, kinds); !has(l, x) || r.Intn(400) == 0 {
			l = append(l, x)
		}
	}
	return l
}

// randomRules are mostly right, and else wrong in one thing.
func randomRules(r *rand.Rand, n, kinds int) []api.Rule {
	var l []api.Rule
	var ofs []api.Target
	for range n {
		of := randomTarget(r, kinds)
		for tries := 0; has(ofs, of) && tries < 20 && r.Intn(300) > 0; tries++ {
			of = randomTarget(r, kinds)
		}
		ofs = append(ofs, of)
		l = append(l, api.Rule{Of: of, Push: randomPush(r, kinds, one(r, 0, 1, 1, 2, 2, 3, 4, 8))})
	}
	if n > 0 && r.Intn(4) == 0 {
		spoil(r, &l[r.Intn(n)])
	}
	return l
}

// spoil does one thing to a rule, which makes most of them wrong.
func spoil(r *rand.Rand, x *api.Rule) {
	if r.Intn(4) == 0 {
		x.Push = somePush(7 + r.Intn(4))
		return
	}
	spoilt := &x.Of
	if len(x.Push) > 0 && r.Intn(2) == 0 {
		spoilt = &x.Push[r.Intn(len(x.Push))]
	}
	switch r.Intn(4) {
	case 0:
		spoilt.Authority = one(r, "", " ", "a b", "~", "\x7f", strings.Repeat("h", 253+r.Intn(6)))
	case 1:
		spoilt.Path = one(r, "", "x", "*", "/ ", "/~", "/"+strings.Repeat("p", 4093+r.Intn(6)))
	default:
		at := r.Intn(len(spoilt.Path) + 1)
		spoilt.Path = spoilt.Path[:at] + string([]byte{byte(r.Intn(256))}) + spoilt.Path[at:]
	}
}

// TestRandomRules: any rules, each of their targets and others asked for.
func TestRandomRules(t *testing.T) {
	r := rand.New(rand.NewSource(181))
	made, told := map[api.Errno]int{}, map[int]int{}
	for range 6000 {
		n := one(r, 0, 1, 2, 3, 5, 8, 12, 20, 40, 63, 64, 65)
		kinds := 1 + r.Intn(n+5)
		l := randomRules(r, n, kinds)
		given, unchanged := watchedRules(l)
		made[modelOf(l)]++
		b := holdOf(t, given)
		if b == nil {
			continue
		}
		for range 20 {
			told[len(b.holdPlan(t, randomTarget(r, kinds+1), one(r, -1, 0, 1, 2, 3, 4, 5, 6, 7, 8, 8, 8, 9, 100)))]++
		}
		if !unchanged() {
			t.Errorf("P18.5: %s or the room behind it was changed", shownRules(l))
		}
		if t.Failed() {
			return
		}
	}
	for _, n := range []int{made[api.OK], made[longError], made[ruleError], made[twiceError], told[0], told[1], told[2], told[5], told[7], told[8]} {
		if n < 100 {
			t.Errorf("Of %v, Plan %v: too few to tell", made, told)
			break
		}
	}
}

// TestRandomOrders: P18.4, the same rules laid otherwise.
func TestRandomOrders(t *testing.T) {
	r := rand.New(rand.NewSource(182))
	tried := 0
	for range 1500 {
		kinds := 3 + r.Intn(20)
		l := randomRules(r, r.Intn(kinds), kinds)
		first := holdOf(t, l)
		r.Shuffle(len(l), func(i, j int) { l[i], l[j] = l[j], l[i] })
		second := holdOf(t, l)
		if first == nil || second == nil {
			continue
		}
		tried++
		for range 10 {
			x, most := randomTarget(r, kinds), r.Intn(10)
			if a, b := first.holdPlan(t, x, most), second.holdPlan(t, x, most); !slices.Equal(a, b) {
				t.Fatalf("P18.4: Plan(%s, %d) of %s is %s, of %s %s", shownTarget(x), most, shownRules(first.rules), shown(a), shownRules(second.rules), shown(b))
			}
		}
	}
	if tried < 500 {
		t.Errorf("%d manifests: too few to tell", tried)
	}
}

// FuzzTargets: any target, in Of and in Push.
func FuzzTargets(f *testing.F) {
	f.Add("a", "/x", "a", "/y", 8)
	f.Add("a", "x", "", "/y", 1)
	f.Add("a b", "/\x7f", "a", "/x", -1)
	f.Add("\xff", "/", "~!", "/~!", 0)
	f.Fuzz(func(t *testing.T, authority, path, otherAuthority, otherPath string, most int) {
		x, y := api.Target{Authority: authority, Path: path}, api.Target{Authority: otherAuthority, Path: otherPath}
		for _, l := range [][]api.Rule{{{Of: x, Push: []api.Target{y, at("x")}}}, {{Of: at("x"), Push: []api.Target{x, y}}, {Of: y, Push: []api.Target{at("x"), at("z")}}}, {{Of: x}, {Of: y, Push: []api.Target{x}}}} {
			given, unchanged := watchedRules(l)
			b := holdOf(t, given)
			if b == nil {
				continue
			}
			b.holdPlan(t, x, most)
			b.holdPlan(t, y, most)
			b.look(t, at("none"))
			if !unchanged() {
				t.Errorf("P18.5: %s or the room behind it was changed", shownRules(l))
			}
		}
	})
}

// FuzzRules: any rules of few targets. Of each byte, the upper half is how a rule
// or a Push goes on, the lower half which target it is.
func FuzzRules(f *testing.F) {
	f.Add("\x01\x12\x13\x02\x14\x04\x11\x13", 8)
	f.Add("\x01\x11\x12\x02\x11", 3)
	f.Add("\x01\x12\x12", 8)
	f.Add("\x01\x01", 8)
	f.Add("\x01\x12\x13\x14\x15\x16\x17\x18\x19\x02\x1a", 100)
	f.Fuzz(func(t *testing.T, s string, most int) {
		var l []api.Rule
		for _, b := range []byte(s) {
			x := at(fmt.Sprint(b & 15))
			if b>>4 == 0 || len(l) == 0 {
				l = append(l, api.Rule{Of: x})
				continue
			}
			last := &l[len(l)-1]
			last.Push = append(last.Push, x)
		}
		if b := holdOf(t, l); b != nil {
			for i := range 16 {
				b.holdPlan(t, at(fmt.Sprint(i)), most)
			}
			b.look(t)
		}
	})
}
