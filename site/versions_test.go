package site_test

import (
	"fmt"
	"testing"

	"herald/api"
	"herald/lists"
)

// told is all that a site answered for some pages' targets at a version.
type told struct {
	has       []bool
	responses []api.Response
}

// tell asks without the model: what was told once is what must be told again.
func (b *both) tell(v int64, pages []api.Page) told {
	var x told
	for _, p := range pages {
		x.has = append(x.has, b.s.Has(v, p.Authority, p.Path))
		for _, r := range requestsFor(p) {
			a, _ := b.s.Serve(v, r)
			x.responses = append(x.responses, a)
		}
	}
	return x
}

func sameTold(a, b told) bool {
	if len(a.has) != len(b.has) || len(a.responses) != len(b.responses) {
		return false
	}
	for i := range a.has {
		if a.has[i] != b.has[i] {
			return false
		}
	}
	for i := range a.responses {
		if !lists.SameResponse(a.responses[i], b.responses[i]) {
			return false
		}
	}
	return true
}

// newerPages are pages to put, one behind another: few targets, so that each is put
// often, and every part of a page changes.
func newerPages(n int) []api.Page {
	var l []api.Page
	for i := range n {
		p := varied(fmt.Sprint("/", i*i%7), "accept", "x", fmt.Sprint("ex ", i), "y", fmt.Sprint("why ", i))
		switch i % 4 {
		case 1:
			p = plain(p.Path, fmt.Sprint("plain ", i))
		case 2:
			p.Vary, p.Status = "x-v", 404
		case 3:
			p.Authority = "b.test"
		}
		l = append(l, p)
	}
	return l
}

// TestVersionsStay: every version is asked for everything behind each Put, and from
// one to the next nothing but what was put is answered otherwise.
func TestVersionsStay(t *testing.T) {
	for _, n := range []int{0, 1, 5, 60, 64} {
		b := wantSite(t, somePages(n)...)
		targets := append(newerPages(8), plain("/none", ""), plain("/63", ""))
		before := []told{b.tell(1, targets)}
		taken := 0
		for i, p := range newerPages(40) {
			if b.holdPut(t, p) != api.OK {
				continue
			}
			taken++
			newest := b.s.Version()
			for v, was := range before {
				if !sameTold(b.tell(int64(v)+1, targets), was) {
					t.Fatalf("P17.3: with %d pages, behind Put %d (%s), version %d is another", n, i, shown(p), v+1)
				}
			}
			var others []api.Page
			for _, q := range targets {
				if !isOneTarget(p, q) {
					others = append(others, q)
				}
			}
			if !sameTold(b.tell(newest, others), b.tell(newest-1, others)) {
				t.Fatalf("P17.3: with %d pages Put %d (%s) changes other targets", n, i, shown(p))
			}
			before = append(before, b.tell(newest, targets))
		}
		b.look(t, targets...)
		if taken < 20 || len(before) != taken+1 || b.s.Version() != int64(taken)+1 {
			t.Errorf("P17.3: with %d pages %d Puts were taken, version %d", n, taken, b.s.Version())
		}
	}
}

// TestSamePagePut: a page that is put again as it is makes a version too.
func TestSamePagePut(t *testing.T) {
	b := wantSite(t, pageP(), pageQ())
	for v := int64(2); v <= 20; v++ {
		b.wantPut(t, pageQ(), api.OK)
		if got := b.s.Version(); got != v {
			t.Errorf("P17.1: Version() = %d, want %d", got, v)
		}
	}
	b.look(t, plain("/none", ""))
}

// TestFirstAndLast: a page that comes at a version is not in the ones ahead of it,
// and stays in all behind it.
func TestFirstAndLast(t *testing.T) {
	b := wantSite(t)
	for i := range 30 {
		b.wantPut(t, plain(fmt.Sprint("/", i), fmt.Sprint(i)), api.OK)
	}
	for i := range int64(30) {
		path := fmt.Sprint("/", i)
		for v := int64(1); v <= 31; v++ {
			b.wantHas(t, v, "a.test", path, v >= i+2)
			if v < i+2 {
				b.wantServe(t, v, asked("GET", path), 404, "", "content-length", "0")
			} else {
				b.wantServe(t, v, asked("GET", path), 200, fmt.Sprint(i), "content-length", fmt.Sprint(len(fmt.Sprint(i))))
			}
		}
	}
}

// TestManyVersions: thousands, of one target and of many, each asked behind them all.
func TestManyVersions(t *testing.T) {
	const many = 20000
	b := wantSite(t, plain("/", "first"), plain("/still", "still"))
	for i := range many {
		path := "/"
		if i%5 == 0 {
			path = fmt.Sprint("/", i%50)
		}
		if e := b.s.Put(plain(path, fmt.Sprint("at ", i+2))); e != api.OK {
			t.Fatalf("P17.1: Put %d: %d", i, e)
		}
	}
	if v := b.s.Version(); v != many+1 {
		t.Fatalf("P17.1: Version() = %d, want %d", v, many+1)
	}
	last := map[string]string{"/": "first", "/still": "still"}
	for v := int64(1); v <= many+1; v++ {
		if i := v - 2; i >= 0 && i%5 == 0 {
			last[fmt.Sprint("/", i%50)] = fmt.Sprint("at ", v)
		} else if i >= 0 {
			last["/"] = fmt.Sprint("at ", v)
		}
		for _, path := range []string{"/", "/still", "/0", "/45"} {
			want, is := last[path]
			a, e := b.s.Serve(v, asked("GET", path))
			if a.Body != want || e != api.OK || b.s.Has(v, "a.test", path) != is {
				t.Fatalf("P17.3: %s at version %d of %d: %s, %d, want %q", path, v, many+1, lists.ShownResponse(a), e, want)
			}
		}
	}
}
