package site_test

import (
	"slices"
	"strings"
	"testing"
	"unsafe"

	"herald/api"
	"herald/lists"
	"herald/site"
)

// somePagesOfAllKinds are with and without Vary, of one choice and of as many as
// there may be.
func somePagesOfAllKinds() []api.Page {
	other := varied("/q", "x-v", "", "none", "1", "one", "22", "two")
	other.Authority, other.Status = "b.test", 404
	return []api.Page{
		plain("/", "hi"), plain("/empty", ""), varied("/star", "*", "", "star"), pageQ(), other,
		varied("/all", "accept", "1", "a", "2", "b", "3", "c", "4", "d", "5", "e", "6", "f", "7", "g", "8", "h"),
	}
}

// watchedPages is the pages in lists with room behind them, their choices too, and
// a look at whether any of that is as it was.
func watchedPages(pages []api.Page) ([]api.Page, func() bool) {
	spare := api.Page{Authority: "spare", Path: "/spare", Status: 200, Choices: choicesOf("", "spare")}
	var room []api.Page
	var looks []func() bool
	for _, p := range append(ownPages(pages), spare, spare, api.Page{}) {
		l, unchanged := lists.Watched(p.Choices, choicesOf("spare", "room", "", "")...)
		p.Choices = l
		room, looks = append(room, p), append(looks, unchanged)
	}
	before := slices.Clone(room)
	return room[:len(pages)], func() bool {
		for i, p := range room {
			if !samePlace(p, before[i]) || !looks[i]() {
				return false
			}
		}
		return true
	}
}

// samePlace tells whether two pages are the same, their choices in one place.
func samePlace(a, b api.Page) bool {
	return isOneTarget(a, b) && a.Status == b.Status && a.Vary == b.Vary && len(a.Choices) == len(b.Choices) && cap(a.Choices) == cap(b.Choices) && unsafe.SliceData(a.Choices) == unsafe.SliceData(b.Choices)
}

// TestPagesStay: neither pages nor their choices nor the room behind them is
// changed, by New, by Put, or later.
func TestPagesStay(t *testing.T) {
	all := somePagesOfAllKinds()
	wrong := plain("/wrong", "")
	wrong.Status = 204
	for _, l := range [][]api.Page{nil, {}, all[:1], all, somePages(64), somePages(65), {all[0], all[0]}, append(somePages(3), wrong)} {
		pages, unchanged := watchedPages(l)
		b := holdNew(t, pages)
		if b != nil {
			b.holdPut(t, plain("/new", "new"))
			b.look(t, all...)
		}
		if !unchanged() {
			t.Errorf("P17.1: New changes %s or the room behind them", shown(l...))
		}
	}
	puts, unchanged := watchedPages(append(all, wrong, plain("/", "again"), plain("/new", "")))
	b := wantSite(t, all[0])
	for _, p := range puts {
		b.holdPut(t, p)
		b.look(t, all...)
	}
	full := wantSite(t, somePages(64)...)
	for _, p := range puts {
		full.holdPut(t, p)
	}
	if !unchanged() {
		t.Error("P17.1: Put changes its pages or the room behind their choices")
	}
}

// scribblePages writes over the choices and the pages, and over the room behind them.
func scribblePages(l []api.Page) {
	for _, p := range l {
		lists.Scribble(p.Choices, api.Choice{Value: "over", Body: "over and over"})
	}
	lists.Scribble(l, api.Page{Authority: "over", Path: "/over", Status: 500, Vary: "over", Choices: choicesOf("", "over")})
}

// TestPagesAreNotKept: with the pages written over the site is as it was, whether
// they came by New or by Put.
func TestPagesAreNotKept(t *testing.T) {
	all := somePagesOfAllKinds()
	over := api.Page{Authority: "over", Path: "/over"}
	pages, _ := watchedPages(all)
	b := wantSite(t, pages...)
	scribblePages(pages)
	b.look(t, over)
	b.wantPut(t, plain("/new", "new"), api.OK)
	b.look(t, over)

	b = wantSite(t)
	pages, _ = watchedPages(all)
	for _, p := range pages {
		b.wantPut(t, p, api.OK)
		lists.Scribble(p.Choices, api.Choice{Value: "over", Body: "over and over"})
		b.look(t, over)
	}
	scribblePages(pages)
	b.look(t, over)

	// One page in two sites, and twice in one.
	p := pageQ()
	a, c := wantSite(t, p), wantSite(t)
	c.wantPut(t, p, api.OK)
	p.Choices[0].Body = "other"
	c.wantPut(t, p, api.OK)
	p.Choices[0].Body = "third"
	a.look(t)
	c.look(t)
	c.wantServe(t, 2, asked("GET", "/q", "accept", "x"), 200, "1", "content-length", "1", "vary", "accept")
	c.wantServe(t, 3, asked("GET", "/q", "accept", "x"), 200, "other", "content-length", "5", "vary", "accept")
}

// TestSpareRoom: what stands behind a list isn't looked at.
func TestSpareRoom(t *testing.T) {
	all := somePages(70)
	wantSite(t, all[:64]...).wantHas(t, 1, "a.test", "/64", false)
	wantSite(t, all[:0]...).wantHas(t, 1, "a.test", "/0", false)
	twice := []api.Page{pageP(), pageP()}
	wantSite(t, twice[:1]...)
	p := varied("/", "accept", "x", "1", "y", "2", "x", "3")
	p.Choices = p.Choices[:2]
	wantBody(t, p, "2", lists.Of("accept", "none")...)
	p.Choices = p.Choices[:1]
	wantBody(t, p, "1", lists.Of("accept", "y")...)
	fields := lists.Of("b", "1", "accept", "x")
	wantBody(t, pageQ(), "22", fields[:1]...)
	wantBody(t, pageQ(), "1", fields...)
}

// TestRequestsStay: the fields of a request and the room behind them are neither
// changed nor kept.
func TestRequestsStay(t *testing.T) {
	all := somePagesOfAllKinds()
	b := wantSite(t, all...)
	for _, fields := range [][]api.Field{nil, lists.Of("accept", "x"), lists.Of("b", "1", "accept", "y", "accept", "x"), lists.Filled(lists.Of("x-v", "1"), 64)} {
		for _, p := range append(all, plain("/none", "")) {
			for _, method := range []string{"GET", "HEAD", "POST"} {
				for v := int64(0); v <= 2; v++ {
					b.holdRequestStays(t, v, api.Request{Method: method, Authority: p.Authority, Path: p.Path, Fields: fields})
				}
			}
		}
	}
}

func (b *both) holdRequestStays(t *testing.T, v int64, r api.Request) {
	t.Helper()
	want, _ := modelServe(b.versions, v, r)
	l, unchanged := lists.Guarded(r.Fields)
	r.Fields = l
	a, _ := b.holdServe(t, v, r)
	lists.Scribble(a.Fields, api.Field{Name: "over"})
	if !unchanged() {
		t.Errorf("P17.1: Serve(%d, %s) changes the fields or the room behind them", v, lists.ShownRequest(r))
	}
	kept, _ := b.holdServe(t, v, r)
	lists.Scribble(r.Fields, api.Field{Name: "accept", Value: "over"})
	if !lists.SameResponse(kept, want) {
		t.Errorf("P17.1: with the fields written over the answer is %s, want %s", lists.ShownResponse(kept), lists.ShownResponse(want))
	}
}

// TestAnsweredIsNew: an answer's fields can be written over and made longer,
// without being seen in the site or in another answer.
func TestAnsweredIsNew(t *testing.T) {
	all := somePagesOfAllKinds()
	b := wantSite(t, all...)
	b.wantPut(t, varied("/", "accept", "x", "1"), api.OK)
	over := api.Field{Name: "over", Value: "over", Never: true}
	for _, p := range append(all, plain("/none", "")) {
		for _, r := range requestsFor(p) {
			for v := int64(1); v <= 2; v++ {
				want, _ := modelServe(b.versions, v, r)
				first, _ := b.s.Serve(v, r)
				second, _ := b.s.Serve(v, r)
				lists.Scribble(first.Fields, over)
				longer := append(first.Fields, over, over)
				if !lists.SameResponse(second, want) {
					t.Errorf("P17.1: with one answer written over the other is %s, want %s", lists.ShownResponse(second), lists.ShownResponse(want))
				}
				b.holdServe(t, v, r)
				_ = append(second.Fields, api.Field{Name: "more"})
				for _, f := range longer {
					if f != over {
						t.Errorf("P17.1: a call writes into an earlier answer: %s", lists.Shown(longer))
					}
				}
			}
		}
	}
	b.look(t)
}

// borrower lends texts in memory that can be written over.
type borrower struct{ all [][]byte }

func (x *borrower) text(s string) string {
	if s == "" {
		return ""
	}
	b := []byte(s)
	x.all = append(x.all, b)
	return unsafe.String(&b[0], len(b))
}

func (x *borrower) page(p api.Page) api.Page {
	p = ownPage(p)
	p.Authority, p.Path, p.Vary = x.text(p.Authority), x.text(p.Path), x.text(p.Vary)
	for i, c := range p.Choices {
		p.Choices[i] = api.Choice{Value: x.text(c.Value), Body: x.text(c.Body)}
	}
	return p
}

func (x *borrower) writeOver() {
	for _, b := range x.all {
		lists.Scribble(b, '#')
	}
}

// TestTextsAreNotKept: what a site keeps stands in no memory of a text that was
// handed in, nor does what it answers.
func TestTextsAreNotKept(t *testing.T) {
	all := somePagesOfAllKinds()
	var lent borrower
	var pages []api.Page
	for _, p := range all {
		pages = append(pages, lent.page(p))
	}
	s, e := site.New(pages)
	if e != api.OK {
		t.Fatalf("P17.1: New: %d", e)
	}
	b := &both{s, [][]api.Page{all}}
	for _, p := range []api.Page{varied("/", "accept", "x", "1st", "y", "2nd"), plain("/new", "new")} {
		next, _ := modelPut(b.versions[len(b.versions)-1], p)
		b.versions = append(b.versions, next)
		if e := s.Put(lent.page(p)); e != api.OK {
			t.Fatalf("P17.1: Put: %d", e)
		}
	}
	r := asked("GET", "/q", lent.text("accept"), lent.text("x"))
	r.Method, r.Authority, r.Path = lent.text(r.Method), lent.text(r.Authority), lent.text(r.Path)
	a, _ := s.Serve(1, r)
	lent.writeOver()
	if want := (api.Response{Status: 200, Fields: lists.Of("content-length", "1", "vary", "accept"), Body: "1"}); !lists.SameResponse(a, want) {
		t.Errorf("R3: with the texts written over the answer is %s, want %s", lists.ShownResponse(a), lists.ShownResponse(want))
	}
	b.look(t, api.Page{Authority: "######", Path: "#"})
}

// TestTextsAreNotShared: two answers stand in memory of their own.
func TestTextsAreNotShared(t *testing.T) {
	body := strings.Repeat("b", 1000)
	s, _ := site.New([]api.Page{varied("/q", "accept", "x", body)})
	first, _ := s.Serve(1, asked("GET", "/q"))
	second, _ := s.Serve(1, asked("GET", "/q"))
	if unsafe.StringData(first.Body) == unsafe.StringData(second.Body) || unsafe.StringData(first.Fields[1].Value) == unsafe.StringData(second.Fields[1].Value) {
		t.Error("R3: two answers of Serve share a text")
	}
}
