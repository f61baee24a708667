package site_test

import (
	"fmt"
	"math"
	"strings"
	"testing"

	"herald/api"
)

// wantPage: whether a page is valid is to be seen in New, wherever it stands, and
// in Put, of a new target and of one that is there.
func wantPage(t *testing.T, p api.Page, valid bool) {
	t.Helper()
	other := api.Page{Authority: "other.test", Path: "/other", Status: 200, Choices: choicesOf("", "o")}
	same := api.Page{Authority: p.Authority, Path: p.Path, Status: 404, Choices: choicesOf("", "same")}
	if !valid {
		wantNoSite(t, api.ErrSite, p)
		wantNoSite(t, api.ErrSite, other, p)
		wantNoSite(t, api.ErrSite, p, other)
		wantNoSite(t, api.ErrSite, p, p)
		wantSite(t).wantPut(t, p, api.ErrSite)
		if modelValid(same) {
			wantSite(t, same).wantPut(t, p, api.ErrSite)
		}
		return
	}
	for _, b := range []*both{wantSite(t, p), wantSite(t, other, p), wantSite(t, p, other), putSite(t, p), putSite(t, p, other), putSite(t, p, same)} {
		v := b.s.Version()
		b.wantHas(t, v, p.Authority, p.Path, true)
		for _, r := range requestsFor(p) {
			b.holdServe(t, v, r)
		}
	}
	wantNoSite(t, api.ErrTwice, p, same)
}

// putSite is a site of some pages with one that was put.
func putSite(t *testing.T, p api.Page, pages ...api.Page) *both {
	t.Helper()
	b := wantSite(t, pages...)
	b.wantPut(t, p, api.OK)
	return b
}

// changed is a page of two choices with something done to it.
func changed(change func(*api.Page)) api.Page {
	p := pageQ()
	change(&p)
	return p
}

func withAuthority(s string) api.Page { return changed(func(p *api.Page) { p.Authority = s }) }
func withPath(s string) api.Page      { return changed(func(p *api.Page) { p.Path = s }) }
func withStatus(n int) api.Page       { return changed(func(p *api.Page) { p.Status = n }) }
func withVary(s string) api.Page      { return changed(func(p *api.Page) { p.Vary = s }) }
func withChoices(l ...string) api.Page {
	return changed(func(p *api.Page) { p.Choices = choicesOf(l...) })
}

func TestLengthsOfTargets(t *testing.T) {
	for _, n := range []int{0, 1, 2, 3, 63, 64, 65, 253, 4094, 4095, 4096, 4097, 4098, 65536, 100000} {
		wantPage(t, withAuthority(strings.Repeat("a", n)), 1 <= n && n <= 4096)
		if n > 0 {
			wantPage(t, withPath("/"+strings.Repeat("p", n-1)), n <= 4096)
		}
	}
	wantPage(t, withPath(""), false)
	both := withAuthority(strings.Repeat("a", 4096))
	both.Path = "/" + strings.Repeat("p", 4095)
	wantPage(t, both, true)
	wantPage(t, api.Page{}, false)
	wantPage(t, api.Page{Authority: "a", Path: "/", Status: 200, Choices: []api.Choice{{}}}, true)
}

// TestEveryByteOfTargets: at each place of a short text, and alone; those at the
// edges at some places of a long one.
func TestEveryByteOfTargets(t *testing.T) {
	for b := range 256 {
		x := string([]byte{byte(b)})
		valid := 33 <= b && b <= 126
		for _, s := range []string{x, x + "abc", "a" + x + "bc", "ab" + x + "c", "abc" + x, x + x} {
			wantPage(t, withAuthority(s), valid)
		}
		for _, s := range []string{"/" + x, "/" + x + "ab", "/a" + x + "b", "/ab" + x, "//" + x} {
			wantPage(t, withPath(s), valid)
		}
		for _, s := range []string{x, x + "/", x + "ab", x + "/ab"} {
			wantPage(t, withPath(s), x == "/")
		}
	}
	for _, b := range []byte{0, 9, 31, 32, 33, 34, 125, 126, 127, 128, 255} {
		for _, at := range []int{1, 2, 2047, 2048, 4094, 4095} {
			text := []byte("/" + strings.Repeat("t", 4095))
			text[at] = b
			valid := 33 <= b && b <= 126
			wantPage(t, withPath(string(text)), valid)
			wantPage(t, withAuthority(string(text)), valid)
			text[0], text[at] = b, 't'
			wantPage(t, withAuthority(string(text)), valid)
			wantPage(t, withPath(string(text)), false)
		}
	}
}

// TestTargetsOfAllKinds: what is no host and no path of a URI may be a target.
func TestTargetsOfAllKinds(t *testing.T) {
	for _, s := range []string{"A.test", "a:443", "a:", ":", "u@a", "/", "//", "*", "[::1]", "-", "a/b", "%", "\"", "~", "!"} {
		wantPage(t, withAuthority(s), true)
	}
	for _, s := range []string{"/", "//", "/?", "/a?b=c", "/a#b", "/%", "/*", "/..", "/A", "/!~"} {
		wantPage(t, withPath(s), true)
	}
	for _, s := range []string{"*", "a", "a/", "?", "http://a/", "%2f", "\\", ".", "\u2215", "\uff0f", " /", "\t/"} {
		wantPage(t, withPath(s), false)
	}
	for _, s := range []string{"\u00e9", "a\u00e9", "\u2028", "a b", "a\n", "a\x00", "\u00a0"} {
		wantPage(t, withAuthority(s), false)
		wantPage(t, withPath("/"+s), false)
	}
}

func TestEveryStatus(t *testing.T) {
	for n := -700; n <= 1300; n++ {
		wantPage(t, withStatus(n), 200 <= n && n <= 599 && n != 204 && n != 205 && n != 304)
	}
	for _, n := range []int{199, 204, 205, 304, 600, 0, -200, math.MaxInt, math.MinInt, 1<<32 + 200, 1<<16 + 200, 256 + 512} {
		wantPage(t, withStatus(n), false)
	}
	for _, n := range []int{200, 201, 203, 206, 300, 303, 305, 404, 500, 598, 599} {
		wantPage(t, withStatus(n), true)
	}
}

// TestVarys: a name, or one of the two that name none; of several choices they
// are none.
func TestVarys(t *testing.T) {
	for _, s := range []string{"accept", "a", "~", "`", "x-1", "0", "**", "*x", "x*", "-", "vary", "connection", "te", "content-length", strings.Repeat("n", 63), strings.Repeat("n", 64), nameBytes} {
		wantPage(t, withVary(s), true)
		wantPage(t, varied("/", s, "x", "1"), true)
		wantPage(t, varied("/", s, "", "1"), true)
	}
	for _, s := range []string{"Accept", "accepT", ":path", ":", "a b", " accept", "accept ", "accept,x", "a,", ",", " ", "\t", "* ", " *", "*,*", "*, accept", "\x00", "a\n", "a:", "\u00e9", "\xff", "a/b", "(", "\"a\"", strings.Repeat("n", 65), strings.Repeat("n", 4096), strings.Repeat("*", 65)} {
		for _, p := range []api.Page{withVary(s), varied("/", s, "x", "1"), varied("/", s, "", "1"), varied("/", s)} {
			wantPage(t, p, false)
		}
	}
	for b := range 256 {
		x := string([]byte{byte(b)})
		valid := strings.Contains(nameBytes, x)
		for _, s := range []string{x + "ab", "a" + x + "b", "ab" + x} {
			wantPage(t, withVary(s), valid)
		}
		wantPage(t, varied("/", x, "", "1"), valid)
		wantPage(t, varied("/", x, "x", "1"), valid && x != "*")
	}
}

// TestLoneChoices: without a name there is one, and its Value is "".
func TestLoneChoices(t *testing.T) {
	for _, vary := range []string{"", "*"} {
		wantPage(t, varied("/", vary, "", ""), true)
		wantPage(t, varied("/", vary, "", "body"), true)
		wantPage(t, varied("/", vary, "", strings.Repeat("b", 65536)), true)
		wantPage(t, varied("/", vary, "", strings.Repeat("b", 65537)), false)
		wantPage(t, varied("/", vary), false)
		for _, value := range []string{"x", "*", "0", "\xff", " ", "\t", "\x00", "a b", strings.Repeat("v", 4096), strings.Repeat("v", 4097)} {
			wantPage(t, varied("/", vary, value, "1"), false)
			wantPage(t, varied("/", vary, value, "1", "", "2"), false)
			wantPage(t, varied("/", vary, "", "1", value, "2"), false)
		}
		wantPage(t, varied("/", vary, "", "1", "", "2"), false)
		wantPage(t, varied("/", vary, "", "", "", "", "", "", "", "", "", "", "", "", "", "", "", ""), false)
	}
}

func TestNumbersOfChoices(t *testing.T) {
	var l []string
	for n := range 20 {
		wantPage(t, withChoices(l...), 1 <= n && n <= 8)
		wantPage(t, withChoices(append(l, "", "last")...), n <= 7)
		l = append(l, fmt.Sprint("v", n), strings.Repeat("b", n))
	}
	for n := 20; n < 3000; n++ {
		l = append(l, fmt.Sprint("v", n), "")
	}
	wantPage(t, withChoices(l...), false)
	none := withChoices()
	none.Choices = []api.Choice{}
	wantPage(t, none, false)
}

// TestValues: each choice's is a value, wherever it stands.
func TestValues(t *testing.T) {
	try := func(s string, valid bool) {
		t.Helper()
		wantPage(t, withChoices(s, "1"), valid)
		wantPage(t, withChoices(s, "1", "other", "2"), valid)
		wantPage(t, withChoices("other", "2", s, "1"), valid)
		wantPage(t, withChoices("other", "2", s, "1", "third", "3"), valid)
	}
	for _, s := range []string{"", "x", "X", "a b", "a\tb", "\xc8", "\u00e9", "\x01", "\x7f", "a,b", ",", "*", ":", "\"", strings.Repeat("v", 4095), strings.Repeat("v", 4096), "a" + strings.Repeat(" ", 4094) + "b"} {
		try(s, true)
	}
	for _, s := range []string{" ", "\t", " x", "x ", "\tx", "x\t", " x ", "a\nb", "a\rb", "a\x00b", "\n", "\r", "\x00", "a\r\n", strings.Repeat("v", 4097), strings.Repeat("v", 65536), strings.Repeat(" ", 4096)} {
		try(s, false)
	}
	for b := range 256 {
		x := string([]byte{byte(b)})
		inner := b != 0 && b != 10 && b != 13
		outer := inner && b != 32 && b != 9
		try(x, outer)
		try(x+"ab", outer)
		try("ab"+x, outer)
		try("a"+x+"b", inner)
	}
}

// TestValuesTwice: no two are the same, byte by byte, wherever they stand.
func TestValuesTwice(t *testing.T) {
	for n := 2; n <= 8; n++ {
		for i := range n {
			for j := range i {
				var l []string
				for k := range n {
					l = append(l, fmt.Sprint("v", k), fmt.Sprint("body ", k))
				}
				wantPage(t, withChoices(l...), true)
				l[2*i] = l[2*j]
				wantPage(t, withChoices(l...), false)
				l[2*i+1] = l[2*j+1] // the same Body too
				wantPage(t, withChoices(l...), false)
				l[2*i], l[2*j] = "", ""
				wantPage(t, withChoices(l...), false)
			}
		}
	}
	// What is alike but for a byte isn't the same; the Bodies may be.
	wantPage(t, withChoices("x", "1", "X", "1", "x1", "1", "1x", "1", "", "1", "x x", "1", "x  x", "1", "\xff", "1"), true)
	wantPage(t, withChoices("\u00e9", "", "e\u0301", "", "\xe9", "", "\ufffd", ""), true)
	long := strings.Repeat("v", 4095)
	wantPage(t, withChoices(long+"1", "1", long+"2", "2", long, "3"), true)
	wantPage(t, withChoices(long+"1", "1", long+"2", "2", long+"1", "3"), false)
}

func TestBodies(t *testing.T) {
	for _, n := range []int{0, 1, 4096, 4097, 65535, 65536, 65537, 65538, 131072, 1 << 20} {
		body := strings.Repeat("b", n)
		valid := n <= 65536
		wantPage(t, withChoices("x", body), valid)
		wantPage(t, withChoices("x", body, "y", ""), valid)
		wantPage(t, withChoices("x", "", "y", body), valid)
		wantPage(t, withChoices("x", "", "y", body, "z", ""), valid)
		wantPage(t, plain("/", body), valid)
	}
	// Each by itself, not all together.
	var l []string
	for i := range 8 {
		l = append(l, fmt.Sprint(i), strings.Repeat(fmt.Sprint(i), 65536))
	}
	wantPage(t, withChoices(l...), true)
	l[15] += "7"
	wantPage(t, withChoices(l...), false)
	for _, body := range []string{"\x00", "\n", " ", "\xff", "\r\n\r\n", "\u00e9"} {
		wantPage(t, withChoices("x", body, "y", body), true)
	}
}

// TestSeveralGrounds: two at once are no better than one.
func TestSeveralGrounds(t *testing.T) {
	wrong := []func(*api.Page){
		func(p *api.Page) { p.Authority = "" }, func(p *api.Page) { p.Path = "x" }, func(p *api.Page) { p.Path = "" }, func(p *api.Page) { p.Status = 99 },
		func(p *api.Page) { p.Vary = "A" }, func(p *api.Page) { p.Vary = "" }, func(p *api.Page) { p.Choices = nil }, func(p *api.Page) { p.Choices = choicesOf("x", "", "x", "") },
		func(p *api.Page) { p.Choices = choicesOf("\n", "") },
	}
	for _, first := range wrong {
		for _, second := range wrong {
			wantPage(t, changed(func(p *api.Page) { first(p); second(p) }), false)
		}
	}
}
