package site_test

import (
	"fmt"
	"math"
	"strings"
	"testing"

	"herald/api"
	"herald/lists"
	"herald/site"
)

// The pages of the chapter's examples.
func pageP() api.Page { return plain("/", "hi") }
func pageQ() api.Page { return varied("/q", "accept", "x", "1", "y", "22") }

func TestExampleOne(t *testing.T) {
	wantSite(t).wantServe(t, 1, asked("GET", "/"), 404, "", "content-length", "0")
	b := wantSite(t, pageP(), pageQ())
	b.wantServe(t, 1, asked("GET", "/"), 200, "hi", "content-length", "2")
	b.wantServe(t, 1, asked("HEAD", "/"), 200, "", "content-length", "2")
	b.wantServe(t, 1, asked("POST", "/"), 405, "", "content-length", "0", "allow", "GET, HEAD")
	b.wantServe(t, 1, asked("POST", "/none"), 404, "", "content-length", "0")
}

func TestExampleTwo(t *testing.T) {
	b := wantSite(t, pageP(), pageQ())
	b.wantServe(t, 1, asked("GET", "/q", "accept", "x"), 200, "1", "content-length", "1", "vary", "accept")
	for _, l := range [][]string{{"accept", "y", "accept", "x"}, {"accept", "z"}, nil, {"Accept", "x"}} {
		b.wantServe(t, 1, asked("GET", "/q", l...), 200, "22", "content-length", "2", "vary", "accept")
	}
}

func TestExampleThree(t *testing.T) {
	b := wantSite(t, pageP(), pageQ())
	b.wantPut(t, plain("/", "new"), api.OK)
	if v := b.s.Version(); v != 2 {
		t.Errorf("P17.1: Version() = %d, want 2", v)
	}
	b.wantServe(t, 1, asked("GET", "/"), 200, "hi", "content-length", "2")
	b.wantServe(t, 2, asked("GET", "/"), 200, "new", "content-length", "3")
	b.wantNoVersion(t, 0, asked("GET", "/"))
	b.wantNoVersion(t, 3, asked("GET", "/"))
	b.wantHas(t, 1, "a.test", "/q", true)
	b.wantHas(t, 3, "a.test", "/q", false)
	b.wantHas(t, 1, "A.test", "/q", false)
}

func TestExampleFour(t *testing.T) {
	for _, change := range []func(*api.Page){
		func(p *api.Page) { p.Path = "q" },
		func(p *api.Page) { p.Status = 204 }, func(p *api.Page) { p.Status = 199 }, func(p *api.Page) { p.Status = 600 },
		func(p *api.Page) { p.Choices = nil }, func(p *api.Page) { p.Vary = "" }, func(p *api.Page) { p.Vary = "*" },
		func(p *api.Page) { p.Choices = choicesOf("x", "1", "x", "2") }, func(p *api.Page) { p.Choices[0].Value = " x" },
		func(p *api.Page) { p.Vary = "Accept" },
	} {
		p := pageQ()
		change(&p)
		wantNoSite(t, api.ErrSite, p)
		wantSite(t, pageP()).wantPut(t, p, api.ErrSite)
	}
	wantNoSite(t, api.ErrTwice, pageP(), pageP())
	many := somePages(65)
	wantNoSite(t, api.ErrFull, many...)
	many[40].Status = 204
	wantNoSite(t, api.ErrSite, many...)
}

// TestNumbers: the errors and the limits are those that the document has.
func TestNumbers(t *testing.T) {
	if api.ErrNone != noneError || api.ErrFull != fullError || api.ErrTwice != twiceError || api.ErrSite != siteError {
		t.Error("the errors have other numbers")
	}
	if api.MaxPages != mostPages || api.MaxChoices != mostChoices || api.MaxBody != mostBody {
		t.Error("the limits have other numbers")
	}
}

// TestNew: of no pages, of as many as there may be, of more.
func TestNew(t *testing.T) {
	for _, none := range [][]api.Page{nil, {}} {
		b := wantSite(t, none...)
		b.look(t, pageP(), api.Page{})
		b.wantPut(t, pageP(), api.OK)
		b.look(t)
	}
	for _, n := range []int{1, 2, 3, 8, 9, 63, 64} {
		b := wantSite(t, somePages(n)...)
		b.look(t, plain("/none", ""))
		b.wantHas(t, 1, "a.test", fmt.Sprint("/", n-1), true)
		b.wantHas(t, 1, "a.test", fmt.Sprint("/", n), false)
	}
	for _, n := range []int{65, 66, 128, 1000} {
		wantNoSite(t, api.ErrFull, somePages(n)...)
	}
}

// TestTwice: two pages with one target, wherever they stand, whatever else they have.
func TestTwice(t *testing.T) {
	for _, n := range []int{2, 3, 7, 64} {
		for i := range n {
			for j := range i {
				l := somePages(n)
				l[i].Path = l[j].Path
				if i%2 == 0 {
					l[i] = varied(l[j].Path, "accept", "x", "1")
				}
				wantNoSite(t, api.ErrTwice, l...)
			}
		}
	}
	l := somePages(64)
	for i := range l {
		l[i].Path = "/"
	}
	wantNoSite(t, api.ErrTwice, l...)
}

// TestWhichError: the first that holds of a list where several do.
func TestWhichError(t *testing.T) {
	wrong := pageP()
	wrong.Authority = ""
	full := somePages(65)
	fullTwice := somePages(65)
	fullTwice[64] = fullTwice[0]
	wantNoSite(t, api.ErrFull, full...)
	wantNoSite(t, api.ErrFull, fullTwice...)
	for _, l := range [][]api.Page{nil, {pageP()}, {pageP(), pageP()}, full, fullTwice, somePages(64), {wrong, wrong}} {
		for _, at := range []int{0, len(l) / 2, len(l)} {
			with := append(append(ownPages(l[:at]), wrong), l[at:]...)
			wantNoSite(t, api.ErrSite, with...)
		}
	}
	twice := somePages(63)
	wantNoSite(t, api.ErrTwice, append(twice, twice[62])...)
	wantNoSite(t, api.ErrFull, append(twice, twice[62], twice[62])...)
	wantNoSite(t, api.ErrFull, append(somePages(64), plain("/0", ""))...)
}

// TestPut: of a new target and of one that is there, up to the limit and at it.
func TestPut(t *testing.T) {
	b := wantSite(t)
	for i, p := range somePages(64) {
		b.wantHas(t, int64(i)+1, p.Authority, p.Path, false)
		b.wantPut(t, p, api.OK)
		b.wantHas(t, int64(i)+1, p.Authority, p.Path, false)
		b.wantHas(t, int64(i)+2, p.Authority, p.Path, true)
	}
	wrong := plain("/5", "")
	wrong.Status = 304
	other := plain("/5", "")
	other.Authority = "b.test"
	newWrong := plain("/new", "")
	newWrong.Choices = nil
	for range 3 {
		b.wantPut(t, plain("/new", ""), api.ErrFull)
		b.wantPut(t, other, api.ErrFull)
		b.wantPut(t, wrong, api.ErrSite)
		b.wantPut(t, newWrong, api.ErrSite)
		b.wantPut(t, plain("/5", "five"), api.OK)
		b.wantPut(t, plain("/5", "five"), api.OK)
		b.wantPut(t, varied("/63", "x", "1", "one", "", "none"), api.OK)
	}
	if v := b.s.Version(); v != 74 {
		t.Errorf("P17.1: Version() = %d, want 74", v)
	}
	b.look(t, plain("/new", ""), other)
}

// TestRefusedPut: it leaves the site as it was, the next one's number too.
func TestRefusedPut(t *testing.T) {
	for _, n := range []int{0, 1, 63, 64} {
		b := wantSite(t, somePages(n)...)
		for _, path := range []string{"/0", "/none", "none", ""} {
			wrong := plain(path, "wrong")
			wrong.Status = 600
			b.wantPut(t, wrong, api.ErrSite)
		}
		b.look(t, plain("/none", ""))
		if n == 64 {
			b.wantPut(t, plain("/none", ""), api.ErrFull)
			b.look(t, plain("/none", ""))
			b.wantPut(t, plain("/0", "again"), api.OK)
		} else {
			b.wantPut(t, plain("/none", "now"), api.OK)
		}
		b.look(t, plain("/none", ""))
	}
}

// TestPutChanges: each part of a page that is put is answered, none of the old one.
func TestPutChanges(t *testing.T) {
	b := wantSite(t, pageP(), pageQ())
	b.wantPut(t, varied("/", "accept", "x", "ex", "", "none"), api.OK)
	b.wantServe(t, 2, asked("GET", "/", "accept", "x"), 200, "ex", "content-length", "2", "vary", "accept")
	b.wantServe(t, 1, asked("GET", "/", "accept", "x"), 200, "hi", "content-length", "2")
	missing := plain("/q", "gone")
	missing.Status = 410
	b.wantPut(t, missing, api.OK)
	b.wantServe(t, 3, asked("GET", "/q", "accept", "x"), 410, "gone", "content-length", "4")
	b.wantServe(t, 2, asked("GET", "/q", "accept", "x"), 200, "1", "content-length", "1", "vary", "accept")
	b.wantPut(t, varied("/q", "x-a", "x", "3", "y", ""), api.OK)
	b.wantServe(t, 4, asked("GET", "/q", "accept", "x"), 200, "", "content-length", "0", "vary", "x-a")
	b.wantServe(t, 4, asked("GET", "/q", "accept", "y", "x-a", "x"), 200, "3", "content-length", "1", "vary", "x-a")
	b.look(t, plain("/none", ""))
}

// TestNoVersion: below, beside, and far from those that there are, with the site's
// targets and with others, whatever the request is.
func TestNoVersion(t *testing.T) {
	b := wantSite(t, pageP(), pageQ())
	for newest := int64(1); newest <= 5; newest++ {
		for _, v := range []int64{0, -1, -newest, newest + 1, newest + 2, 1000, 1 << 32, 1<<32 + 1, math.MaxInt32, math.MinInt32, math.MaxInt64, math.MinInt64, math.MinInt64 + 1} {
			for _, r := range []api.Request{asked("GET", "/"), asked("HEAD", "/q"), asked("POST", "/"), asked("GET", "/none"), asked("", ""), {}} {
				b.wantNoVersion(t, v, r)
			}
		}
		for v := int64(1); v <= newest; v++ {
			b.wantHas(t, v, "a.test", "/", true)
			b.wantHas(t, v, "a.test", "/none", false)
		}
		b.wantPut(t, plain("/", fmt.Sprint(newest)), api.OK)
	}
}

// TestTargets: a target is two texts, byte by byte.
func TestTargets(t *testing.T) {
	const authority, path = "a.test", "/q"
	b := wantSite(t, pageQ())
	others := []api.Target{
		{Authority: "A.test", Path: path}, {Authority: "a.TEST", Path: path}, {Authority: authority, Path: "/Q"}, {Authority: authority, Path: "/"},
		{Authority: authority, Path: "/q/"}, {Authority: authority, Path: "//q"}, {Authority: authority, Path: "/q?"}, {Authority: authority, Path: "/%71"}, {Authority: authority, Path: "q"},
		{Authority: authority, Path: ""}, {Authority: "", Path: path}, {Authority: "", Path: authority + path}, {Authority: authority + path, Path: ""},
		{Authority: authority + "/", Path: "q"}, {Authority: "a", Path: ".test/q"}, {Authority: path, Path: authority}, {Authority: authority + ":443", Path: path},
		{Authority: authority + " ", Path: path}, {Authority: authority, Path: path + "\x00"}, {Authority: "\x00" + authority, Path: path}, {Authority: authority, Path: "*"}, {},
		{Authority: strings.Repeat("a", 100000), Path: path}, {Authority: authority, Path: "/" + strings.Repeat("q", 100000)},
	}
	for _, o := range others {
		b.wantHas(t, 1, o.Authority, o.Path, false)
		b.wantServe(t, 1, api.Request{Method: "GET", Authority: o.Authority, Path: o.Path}, 404, "", "content-length", "0")
	}
	b.wantHas(t, 1, authority, path, true)

	// The same bytes, parted otherwise, are other targets.
	var l []api.Page
	for i, o := range []api.Target{{Authority: "a", Path: "/b/c"}, {Authority: "a/b", Path: "/c"}, {Authority: "A", Path: "/b/c"}, {Authority: "a", Path: "/b/C"}, {Authority: "a", Path: "/b"}, {Authority: "a/b/c", Path: "/"}} {
		l = append(l, api.Page{Authority: o.Authority, Path: o.Path, Status: 500 + i, Choices: choicesOf("", fmt.Sprint(i))})
	}
	b = wantSite(t, l...)
	for i, p := range l {
		b.wantServe(t, 1, api.Request{Method: "GET", Authority: p.Authority, Path: p.Path}, l[i].Status, fmt.Sprint(i), "content-length", "1")
	}
}

// TestMethods: just these two, in these letters; there is no page is said ahead of
// the method is wrong.
func TestMethods(t *testing.T) {
	b := wantSite(t, pageP(), pageQ())
	for _, method := range []string{"", "get", "Get", "GEt", "head", "Head", "GE", "GETS", " GET", "GET ", "GET\x00", "GETHEAD", "GET, HEAD", "HEADGET", "HEA", "HEADS", "POST", "PUT", "DELETE", "OPTIONS", "CONNECT", "TRACE", "PATCH", "*", "\xff", strings.Repeat("GET", 30000)} {
		for _, path := range []string{"/", "/q"} {
			b.wantServe(t, 1, asked(method, path), 405, "", "content-length", "0", "allow", "GET, HEAD")
			b.wantServe(t, 1, asked(method, path, "accept", "x", "allow", "PUT"), 405, "", "content-length", "0", "allow", "GET, HEAD")
		}
		for _, path := range []string{"/none", "", "*"} {
			b.wantServe(t, 1, asked(method, path), 404, "", "content-length", "0")
		}
	}
	for _, path := range []string{"/none", "", "*"} {
		b.wantServe(t, 1, asked("GET", path), 404, "", "content-length", "0")
		b.wantServe(t, 1, asked("HEAD", path), 404, "", "content-length", "0")
	}
}

// TestLengths: content-length is the Body's bytes, of GET and of HEAD.
func TestLengths(t *testing.T) {
	for _, n := range []int{0, 1, 9, 10, 11, 99, 100, 101, 999, 1000, 9999, 10000, 65535, 65536} {
		body := strings.Repeat("b", n)
		b := wantSite(t, plain("/", body), varied("/q", "accept", "x", "", "y", body))
		b.wantServe(t, 1, asked("GET", "/"), 200, body, "content-length", fmt.Sprint(n))
		b.wantServe(t, 1, asked("HEAD", "/"), 200, "", "content-length", fmt.Sprint(n))
		b.wantServe(t, 1, asked("GET", "/q"), 200, body, "content-length", fmt.Sprint(n), "vary", "accept")
		b.wantServe(t, 1, asked("HEAD", "/q"), 200, "", "content-length", fmt.Sprint(n), "vary", "accept")
		b.wantServe(t, 1, asked("HEAD", "/q", "accept", "x"), 200, "", "content-length", "0", "vary", "accept")
	}
	// Bytes, not letters; a Body may have any.
	for _, body := range []string{"\u00e9", "\U0001f600", "\x00", "\xff\xfe", "\r\n", " "} {
		b := wantSite(t, plain("/", body))
		b.wantServe(t, 1, asked("GET", "/"), 200, body, "content-length", fmt.Sprint(len(body)))
	}
}

// TestStatuses: each one that a page may have is answered as it is.
func TestStatuses(t *testing.T) {
	for status := 200; status <= 599; status++ {
		if status == 204 || status == 205 || status == 304 {
			continue
		}
		p := varied("/", "*", "", "b")
		p.Status = status
		b := wantSite(t, p)
		b.wantServe(t, 1, asked("GET", "/"), status, "b", "content-length", "1", "vary", "*")
		b.wantServe(t, 1, asked("HEAD", "/"), status, "", "content-length", "1", "vary", "*")
		b.wantServe(t, 1, asked("PUT", "/"), 405, "", "content-length", "0", "allow", "GET, HEAD")
	}
}

// TestAlike: R4, the same calls on new sites answer the same, and two sites go
// their own ways.
func TestAlike(t *testing.T) {
	for range 20 {
		a, b := wantSite(t, somePages(20)...), wantSite(t, somePages(20)...)
		for i := range 10 {
			p := plain(fmt.Sprint("/", 3*i), "put")
			a.wantPut(t, p, api.OK)
			b.wantPut(t, p, api.OK)
		}
		b.wantPut(t, plain("/0", "b alone"), api.OK)
		for _, p := range somePages(30) {
			for v := int64(1); v <= 11; v++ {
				first, e := a.holdServe(t, v, asked("GET", p.Path))
				second, f := b.holdServe(t, v, asked("GET", p.Path))
				if !lists.SameResponse(first, second) || e != f {
					t.Errorf("R4: %s at version %d: %s, and %s", p.Path, v, lists.ShownResponse(first), lists.ShownResponse(second))
				}
			}
		}
		a.wantNoVersion(t, 12, asked("GET", "/0"))
		b.wantServe(t, 12, asked("GET", "/0"), 200, "b alone", "content-length", "7")
	}
	if s, e := site.New(nil); s == nil || e != api.OK {
		t.Errorf("P17.1: New(nil): nil %v, %d", s == nil, e)
	}
}
