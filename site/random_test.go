package site_test

import (
	"fmt"
	"math/rand"
	"slices"
	"strings"
	"testing"

	"herald/api"
	"herald/lists"
)

func one[T any](r *rand.Rand, l ...T) T { return l[r.Intn(len(l))] }

func randomAuthority(r *rand.Rand) string { return one(r, "a.test", "a.test", "b.test", "A.test", "a") }
func randomPath(r *rand.Rand) string {
	return one(r, "/", "/q", "/Q", "/q/", fmt.Sprint("/", r.Intn(20)))
}
func randomVary(r *rand.Rand) string  { return one(r, "", "*", "accept", "accept", "x-v", "x-v") }
func randomValue(r *rand.Rand) string { return one(r, "", "x", "y", "X", "x y", "*", "1", "2", "3") }

// randomPage is right most of the time, and else wrong in one thing.
func randomPage(r *rand.Rand, wrongs int) api.Page {
	p := api.Page{Authority: randomAuthority(r), Path: randomPath(r), Status: one(r, 200, 200, 203, 206, 301, 404, 599), Vary: randomVary(r)}
	p.Choices = choicesOf("", fmt.Sprint("lone ", r.Intn(1000)))
	if p.Vary != "" && p.Vary != "*" {
		p.Choices = nil
		for range 1 + r.Intn(8) {
			c := api.Choice{Value: randomValue(r), Body: strings.Repeat("b", r.Intn(30)) + fmt.Sprint(r.Intn(100))}
			if !slices.ContainsFunc(p.Choices, func(other api.Choice) bool { return other.Value == c.Value }) {
				p.Choices = append(p.Choices, c)
			}
		}
	}
	if wrongs > 0 && r.Intn(wrongs) == 0 {
		spoil(r, &p)
	}
	return p
}

// spoil does one thing to a page, which makes most of them wrong.
func spoil(r *rand.Rand, p *api.Page) {
	i := r.Intn(len(p.Choices))
	switch r.Intn(10) {
	case 0:
		p.Authority = one(r, "", "a b", "\x7f", strings.Repeat("a", 4095+r.Intn(4)))
	case 1:
		p.Path = one(r, "", "q", "/ ", "*", "/"+strings.Repeat("p", 4094+r.Intn(4)))
	case 2:
		p.Status = one(r, 0, 100, 199, 200, 204, 205, 304, 599, 600, r.Intn(1000)-100)
	case 3:
		p.Vary = one(r, "", "*", "Accept", " ", ":", "a,b", strings.Repeat("n", 63+r.Intn(4)))
	case 4:
		p.Choices = nil
	case 5:
		p.Choices = append(p.Choices, p.Choices[i])
	case 6:
		p.Choices[i].Value = one(r, " ", "\n", "x\t", "x", "", strings.Repeat("v", 4095+r.Intn(4)))
	case 7:
		p.Choices[i].Body = strings.Repeat("B", 65535+r.Intn(4))
	case 8:
		for k := range one(r, 3, 7, 8, 9) {
			p.Choices = append(p.Choices, api.Choice{Value: fmt.Sprint("more ", k)})
		}
	case 9:
		at := r.Intn(len(p.Path) + 1)
		p.Path = p.Path[:at] + string([]byte{byte(r.Intn(256))}) + p.Path[at:]
	}
}

// randomPages are mostly without one target twice.
func randomPages(r *rand.Rand, n int) []api.Page {
	var l []api.Page
	for range n {
		p := randomPage(r, 150)
		for range 20 {
			if r.Intn(200) == 0 || !slices.ContainsFunc(l, func(other api.Page) bool { return isOneTarget(p, other) }) {
				break
			}
			p.Path = fmt.Sprint("/", r.Intn(200))
		}
		l = append(l, p)
	}
	return l
}

func randomAsked(r *rand.Rand) api.Request {
	q := api.Request{Method: one(r, "GET", "GET", "GET", "HEAD", "HEAD", "POST", "get", ""), Scheme: one(r, "https", "http", ""), Authority: randomAuthority(r), Path: randomPath(r), Body: one(r, "", "", "b")}
	for range r.Intn(5) {
		q.Fields = append(q.Fields, api.Field{Name: one(r, "accept", "accept", "x-v", "x-v", "Accept", "*", "", "z"), Value: randomValue(r), Never: r.Intn(4) == 0})
	}
	if r.Intn(50) == 0 {
		q.Path = one(r, "", "*", "q", "\xff")
	}
	return q
}

// TestRandomCalls: any calls on sites, each version asked again at the end.
func TestRandomCalls(t *testing.T) {
	r := rand.New(rand.NewSource(171))
	news, puts := map[api.Errno]int{}, map[api.Errno]int{}
	statuses, had := map[int]int{}, map[bool]int{}
	for range 1500 {
		pages := randomPages(r, one(r, 0, 1, 2, 5, 20, 40, 62, 63, 64, 65, 66))
		news[modelNew(pages)]++
		b := holdNew(t, pages)
		if b == nil {
			continue
		}
		for range 60 {
			v := int64(r.Intn(len(b.versions)+3)) - 1
			switch r.Intn(6) {
			case 0, 1:
				puts[b.holdPut(t, randomPage(r, 8))]++
			case 2:
				had[b.holdHas(t, v, randomAuthority(r), randomPath(r))]++
			default:
				a, _ := b.holdServe(t, v, randomAsked(r))
				statuses[a.Status]++
			}
		}
		for v := range int64(len(b.versions)) + 2 {
			b.holdServe(t, v, randomAsked(r))
			b.holdHas(t, v, randomAuthority(r), randomPath(r))
		}
		if t.Failed() {
			return
		}
	}
	for _, n := range []int{news[api.OK], news[siteError], news[fullError], news[twiceError], puts[api.OK], puts[siteError], puts[fullError], statuses[0], statuses[200], statuses[404], statuses[405], had[true], had[false]} {
		if n < 40 {
			t.Errorf("New %v, Put %v, Serve %v, Has %v: too few to tell", news, puts, statuses, had)
			break
		}
	}
}

// TestRandomPages: any pages, right and wrong, against the model.
func TestRandomPages(t *testing.T) {
	r := rand.New(rand.NewSource(172))
	valid := map[bool]int{}
	for range 20000 {
		p := randomPage(r, 2)
		valid[modelValid(p)]++
		b := holdNew(t, []api.Page{p})
		if b == nil {
			b = wantSite(t)
		}
		b.holdPut(t, p)
		b.holdServe(t, b.s.Version(), api.Request{Method: "GET", Authority: p.Authority, Path: p.Path, Fields: lists.Of(p.Vary, randomValue(r))})
	}
	if valid[true] < 5000 || valid[false] < 5000 {
		t.Errorf("of the random pages %d are valid, %d not: too few to tell", valid[true], valid[false])
	}
}

// TestRandomPairs: P17.2, requests that differ just in what an answer may not hang
// on, and P17.4, of each a HEAD.
func TestRandomPairs(t *testing.T) {
	r := rand.New(rand.NewSource(173))
	for range 300 {
		b := wantSite(t)
		for range 10 {
			b.wantPut(t, randomPage(r, 0), api.OK)
		}
		for range 10 {
			q, v := randomAsked(r), int64(1+r.Intn(11))
			want, _ := b.holdServe(t, v, q)
			for _, other := range unlike(q, varyAt(b, v, q)) {
				if a, e := b.holdServe(t, v, other); !lists.SameResponse(a, want) || e != api.OK {
					t.Fatalf("P17.2: at version %d %s and %s: %s and %s, %d", v, lists.ShownRequest(q), lists.ShownRequest(other), lists.ShownResponse(want), lists.ShownResponse(a), e)
				}
			}
			q.Method = "HEAD"
			b.holdServe(t, v, q)
		}
	}
}

// FuzzPages: any page of two choices, made and put, and asked for.
func FuzzPages(f *testing.F) {
	f.Add("a.test", "/", 200, "", "", "hi", "x", "1")
	f.Add("a.test", "/q", 203, "accept", "x", "1", "y", "22")
	f.Add("a.test", "q", 204, "*", "", "", " x", "")
	f.Add("", "/\xff", -1, "Accept", "x", "", "x", "")
	f.Fuzz(func(t *testing.T, authority, path string, status int, vary, value, body, otherValue, otherBody string) {
		l := choicesOf(value, body, otherValue, otherBody)
		for n := range len(l) + 1 {
			p := api.Page{Authority: authority, Path: path, Status: status, Vary: vary, Choices: l[:n]}
			pages, unchanged := watchedPages([]api.Page{p, pageQ()})
			b := holdNew(t, pages)
			if b == nil {
				b = wantSite(t, pageQ())
			}
			b.holdPut(t, pages[0])
			b.holdPut(t, plain(path, otherBody))
			b.look(t, p, plain(path, ""))
			if !unchanged() {
				t.Errorf("P17.1: %s or the room behind it was changed", shown(p))
			}
		}
	})
}

// FuzzServe: any request to a site of three versions.
func FuzzServe(f *testing.F) {
	f.Add(int64(1), "GET", "a.test", "/", "accept", "x", "accept", "y")
	f.Add(int64(2), "HEAD", "a.test", "/q", "Accept", "x", "x-v", "")
	f.Add(int64(3), "POST", "a.test", "/q", "", "", "*", "1")
	f.Add(int64(0), "", "", "", "", "", "", "")
	f.Fuzz(func(t *testing.T, v int64, method, authority, path, name, value, otherName, otherValue string) {
		b := wantSite(t, pageP(), pageQ())
		b.wantPut(t, varied("/q", "x-v", "1", "one", "", "none"), api.OK)
		b.wantPut(t, varied("/", "*", "", "star"), api.OK)
		r := api.Request{Method: method, Scheme: value, Authority: authority, Path: path, Fields: lists.Of(name, value, otherName, otherValue, name, otherValue), Body: otherValue}
		for _, at := range []int64{v, 1, 2, 3} {
			b.holdServe(t, at, r)
			b.holdHas(t, at, authority, path)
			for _, known := range []string{"/", "/q"} {
				r := r
				r.Authority, r.Path = "a.test", known
				b.holdServe(t, at, r)
				r.Method = "HEAD"
				b.holdServe(t, at, r)
			}
		}
	})
}
