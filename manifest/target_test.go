package manifest_test

import (
	"slices"
	"strings"
	"testing"

	"herald/api"
)

// wantRight: whether a target is right is to be seen wherever it stands, in Of and
// in Push.
func wantRight(t *testing.T, x api.Target, right bool) {
	t.Helper()
	other := api.Target{Authority: "other", Path: "/other"}
	ways := [][]api.Rule{
		{{Of: x}},
		{{Of: x, Push: []api.Target{other}}},
		{{Of: other, Push: []api.Target{x}}},
		{{Of: other, Push: append(somePush(7), x)}},
		{{Of: other, Push: append([]api.Target{x}, somePush(7)...)}},
		{{Of: other}, {Of: x}},
		{{Of: x}, {Of: other}},
		append(someRules(63), api.Rule{Of: x}),
		append(someRules(63), api.Rule{Of: other, Push: []api.Target{x}}),
		{{Of: x, Push: []api.Target{x}}},
	}
	for i, l := range ways {
		if !right {
			wantNone(t, api.ErrRule, l)
			continue
		}
		b := wantManifest(t, l)
		b.holdPlan(t, x, 8)
		switch i {
		case 1:
			b.wantPlan(t, x, 8, []api.Target{other})
		case 2:
			b.wantPlan(t, other, 8, []api.Target{x})
		case 3:
			b.wantPlan(t, other, 8, append(somePush(7), x))
		}
	}
	// Plan takes any target, and what is not right has no rule.
	b := of(t, "x y", "y x")
	if !has(everyTarget(b.rules), x) {
		b.wantPlan(t, x, 8, nil)
	}
}

func withAuthority(s string) api.Target { return api.Target{Authority: s, Path: "/p"} }
func withPath(s string) api.Target      { return api.Target{Authority: "a.test", Path: s} }

func TestLengths(t *testing.T) {
	for _, n := range []int{0, 1, 2, 3, 63, 64, 65, 127, 128, 253, 254, 255, 256, 257, 258, 511, 512, 4095, 4096, 4097, 65536} {
		wantRight(t, withAuthority(strings.Repeat("h", n)), 1 <= n && n <= 255)
	}
	for _, n := range []int{1, 2, 3, 254, 255, 256, 257, 4094, 4095, 4096, 4097, 4098, 8192, 65536, 65537, 1 << 17} {
		wantRight(t, withPath("/"+strings.Repeat("p", n-1)), n <= 4096)
		wantRight(t, withPath(strings.Repeat("/", n)), n <= 4096)
	}
	wantRight(t, withPath(""), false)
	wantRight(t, api.Target{}, false)
	wantRight(t, api.Target{Authority: "a", Path: "/"}, true)
	wantRight(t, api.Target{Authority: strings.Repeat("h", 255), Path: "/" + strings.Repeat("p", 4095)}, true)
	wantRight(t, api.Target{Authority: strings.Repeat("h", 256), Path: "/" + strings.Repeat("p", 4095)}, false)
	wantRight(t, api.Target{Authority: strings.Repeat("h", 255), Path: "/" + strings.Repeat("p", 4096)}, false)
}

// TestEveryByte: alone, and at each place of a short text.
func TestEveryByte(t *testing.T) {
	for b := range 256 {
		x := string([]byte{byte(b)})
		right := 33 <= b && b <= 126
		for _, s := range []string{x, x + "abc", "a" + x + "bc", "ab" + x + "c", "abc" + x, x + x} {
			wantRight(t, withAuthority(s), right)
		}
		for _, s := range []string{"/" + x, "/" + x + "ab", "/a" + x + "b", "/ab" + x, "//" + x} {
			wantRight(t, withPath(s), right)
		}
		for _, s := range []string{x, x + "/", x + "ab", x + "/ab"} {
			wantRight(t, withPath(s), x == "/")
		}
	}
}

// TestEdgesAtEachPlace: the bytes at the edges, at every place of the longest
// texts.
func TestEdgesAtEachPlace(t *testing.T) {
	host, path := strings.Repeat("h", 255), "/"+strings.Repeat("p", 4095)
	for _, b := range []byte{0, 31, 32, 33, 126, 127, 128, 255} {
		right := 33 <= b && b <= 126
		for at := range host {
			wantOnce(t, withAuthority(host[:at]+string([]byte{b})+host[at+1:]), right)
		}
		for at := range path {
			wantOnce(t, withPath(path[:at]+string([]byte{b})+path[at+1:]), right && at > 0)
		}
	}
}

// wantOnce is wantRight in two rules, for texts that are many and long.
func wantOnce(t *testing.T, x api.Target, right bool) {
	t.Helper()
	for _, l := range [][]api.Rule{{{Of: x}}, {{Of: at("x"), Push: []api.Target{at("y"), x}}}} {
		if b := holdOf(t, l); (b != nil) != right {
			t.Errorf("P18.1: Of(%s): a manifest %v, want %v", shownRules(l), b != nil, right)
		}
	}
}

// TestTextsOfAllKinds: what is no host and no path of a URI may be a target, and
// UTF-8 may not.
func TestTextsOfAllKinds(t *testing.T) {
	for _, s := range []string{"A.test", "a:443", "a:", ":", "u@a", "/", "//", "*", "[::1]", "-", "a/b", "%", "\"", "~", "!"} {
		wantRight(t, withAuthority(s), true)
	}
	for _, s := range []string{"/", "//", "/?", "/a?b=c", "/a#b", "/%", "/*", "/..", "/A", "/!~"} {
		wantRight(t, withPath(s), true)
	}
	for _, s := range []string{"*", "a", "a/", "?", "http://a/", "%2f", "\\", ".", "\u2215", "\uff0f", " /", "\t/", "!/", "~/"} {
		wantRight(t, withPath(s), false)
	}
	for _, s := range []string{"\u00e9", "a\u00e9", "\u2028", "a b", "a\n", "a\x00", "\u00a0", "\ufffd", "\U0001f600", "\xc0\xaf", "\xe1\x80", "\xc1\xa1", "a\xed\xa0\x80"} {
		wantRight(t, withAuthority(s), false)
		wantRight(t, withPath("/"+s), false)
		wantRight(t, withPath(s+"/"), false)
	}
}

// TestSeveralGrounds: two at once are no better than one.
func TestSeveralGrounds(t *testing.T) {
	authorities := []string{"", " ", "a b", "\x7f", strings.Repeat("h", 256), strings.Repeat(" ", 256)}
	paths := []string{"", "p", " ", "/ ", "/\x7f", "p" + strings.Repeat("p", 4096), "/" + strings.Repeat(" ", 4096)}
	for _, authority := range authorities {
		wantRight(t, withAuthority(authority), false)
		for _, path := range paths {
			wantRight(t, withPath(path), false)
			wantRight(t, api.Target{Authority: authority, Path: path}, false)
		}
	}
}

// TestWrongAtEachPlace: one target that isn't right is enough, in each rule and at
// each place of its Push.
func TestWrongAtEachPlace(t *testing.T) {
	wrong := withPath("p")
	for i := range 64 {
		l := someRules(64)
		wantManifest(t, l)
		l[i].Of = wrong
		wantNone(t, api.ErrRule, l)
		for j := range 8 {
			l := someRules(64)
			l[i].Push = somePush(8)
			wantManifest(t, l)
			l[i].Push = slices.Concat(l[i].Push[:j], []api.Target{wrong}, l[i].Push[j+1:])
			wantNone(t, api.ErrRule, l)
		}
	}
}
