package server_test

import (
	"runtime"
	"slices"
	"strings"
	"testing"
	"unsafe"

	"herald/api"
	"herald/lists"
	"herald/server"
)

var (
	overField  = api.Field{Name: "over", Value: "written", Never: true}
	overChoice = api.Choice{Value: "over", Body: "over and over"}
	overPage   = api.Page{Authority: "over", Path: "/over", Status: 500, Choices: []api.Choice{overChoice}}
	overTarget = api.Target{Authority: "over", Path: "/over"}
	overRule   = api.Rule{Of: overTarget, Push: []api.Target{overTarget}}
)

// world is pages and rules in lists with room behind them, the inner ones too, and a
// look at whether any of that is as it was.
type world struct {
	pages []api.Page
	rules []api.Rule
	looks []func() bool
}

func lentWorld(pages []api.Page, rules []api.Rule) *world {
	w := &world{}
	for _, p := range append(ownPages(pages), ownPage(overPage)) {
		l, unchanged := lists.Watched(p.Choices, overChoice, api.Choice{})
		p.Choices = l
		w.pages, w.looks = append(w.pages, p), append(w.looks, unchanged)
	}
	for _, r := range append(ownRules(rules), overRule) {
		l, unchanged := lists.Watched(r.Push, overTarget, target("/b"), api.Target{})
		r.Push = l
		w.rules, w.looks = append(w.rules, r), append(w.looks, unchanged)
	}
	pagesBefore, rulesBefore := slices.Clone(w.pages), slices.Clone(w.rules)
	w.looks = append(w.looks, func() bool {
		return slices.EqualFunc(w.pages[:cap(w.pages)][:len(pagesBefore)], pagesBefore, samePage) && slices.EqualFunc(w.rules[:cap(w.rules)][:len(rulesBefore)], rulesBefore, sameRule)
	})
	w.pages, w.rules = w.pages[:len(pages)], w.rules[:len(rules)]
	return w
}

// samePage wants the same choices in the same place.
func samePage(a, b api.Page) bool {
	return a.Authority == b.Authority && a.Path == b.Path && a.Status == b.Status && a.Vary == b.Vary && len(a.Choices) == len(b.Choices) && unsafe.SliceData(a.Choices) == unsafe.SliceData(b.Choices)
}

func sameRule(a, b api.Rule) bool {
	return a.Of == b.Of && len(a.Push) == len(b.Push) && unsafe.SliceData(a.Push) == unsafe.SliceData(b.Push)
}

func (w *world) isUnchanged() bool {
	return !slices.ContainsFunc(w.looks, func(unchanged func() bool) bool { return !unchanged() })
}

// writeOver writes over all of it, and over the room behind it.
func (w *world) writeOver() {
	for _, p := range w.pages[:cap(w.pages)] {
		lists.Scribble(p.Choices, overChoice)
	}
	for _, r := range w.rules[:cap(w.rules)] {
		lists.Scribble(r.Push, overTarget)
	}
	lists.Scribble(w.pages, overPage)
	lists.Scribble(w.rules, overRule)
}

func memoryWorld() ([]api.Page, []api.Rule) {
	return append(abc(), varied("/v", "accept", "x", "for x", "", "for none")), []api.Rule{rule("/a /b /c /v"), rule("/c /a")}
}

// lifeOf asks for all pages of the memory tests' world, and lets all be sent.
func lifeOf(b *both) {
	b.t.Helper()
	b.recv(api.Preface + bytes(settingsFrame()))
	for _, path := range []string{"/a", "/b", "/c", "/v", "/over", "/none"} {
		b.ask("GET", path, api.Field{Name: "accept", Value: "x"})
	}
	for !b.s.Idle() {
		b.step(1)
	}
	b.whole()
}

// TestWorldIsNotChanged: neither pages nor rules nor what stands in them or behind them.
func TestWorldIsNotChanged(t *testing.T) {
	pages, rules := memoryWorld()
	wrong := standard()
	wrong.Frame = 0
	w := lentWorld(pages, rules)
	b := newBoth(t, standard(), w.pages, w.rules)
	server.New(wrong, w.pages, w.rules)
	lifeOf(b)
	if !w.isUnchanged() {
		t.Error("P22.6: New, or what comes behind it, changes pages or rules, or the room behind them")
	}
	for _, bad := range []*world{lentWorld(append(pages, pages[0]), rules), lentWorld(append(pages, api.Page{}), rules), lentWorld(pages, append(rules, rules[0])), lentWorld(pages, append(rules, api.Rule{}))} {
		if s, e := server.New(standard(), bad.pages, bad.rules); s != nil || e == api.OK {
			t.Errorf("P22.1: New takes wrong pages or rules")
		}
		if !bad.isUnchanged() {
			t.Error("P22.6: a New that is refused changes pages or rules")
		}
	}
}

// TestWorldIsNotKept: with it written over the server is as it was.
func TestWorldIsNotKept(t *testing.T) {
	pages, rules := memoryWorld()
	w := lentWorld(pages, rules)
	b := newBoth(t, standard(), w.pages, w.rules)
	w.writeOver()
	b.whole()
	lifeOf(b)
}

// TestPutPages: neither changed nor kept, taken or refused.
func TestPutPages(t *testing.T) {
	b := begun(t)
	for i, p := range []api.Page{page("/c", "new"), varied("/v", "accept", "x", "1", "y", "2"), {Authority: "x", Path: "/wrong", Status: 204, Choices: []api.Choice{{}}}} {
		l, unchanged := lists.Watched(p.Choices, overChoice, api.Choice{})
		p.Choices = l
		b.ask("GET", "/a")
		b.put(p)
		if !unchanged() {
			t.Errorf("P22.6: Put changes page %d", i)
		}
		lists.Scribble(l, overChoice)
		b.whole()
		b.ask("GET", p.Path)
		for !b.s.Idle() {
			b.step(-1)
		}
		b.whole()
	}
}

// borrower lends texts in memory that can be written over.
type borrower struct{ all [][]byte }

func (x *borrower) text(s string) string {
	if s == "" {
		return ""
	}
	b := []byte(s)
	x.all = append(x.all, b)
	return unsafe.String(&b[0], len(b))
}

func (x *borrower) page(p api.Page) api.Page {
	lent := api.Page{Authority: x.text(p.Authority), Path: x.text(p.Path), Status: p.Status, Vary: x.text(p.Vary)}
	for _, c := range p.Choices {
		lent.Choices = append(lent.Choices, api.Choice{Value: x.text(c.Value), Body: x.text(c.Body)})
	}
	return lent
}

func (x *borrower) target(t api.Target) api.Target {
	return api.Target{Authority: x.text(t.Authority), Path: x.text(t.Path)}
}

func (x *borrower) rule(r api.Rule) api.Rule {
	lent := api.Rule{Of: x.target(r.Of)}
	for _, t := range r.Push {
		lent.Push = append(lent.Push, x.target(t))
	}
	return lent
}

func (x *borrower) writeOver() {
	for _, b := range x.all {
		lists.Scribble(b, '#')
	}
}

// TestTextsAreNotKept: of pages, of rules, of a request, and bytes that came.
func TestTextsAreNotKept(t *testing.T) {
	pages, rules := memoryWorld()
	var lent borrower
	var lentPages []api.Page
	var lentRules []api.Rule
	for _, p := range pages {
		lentPages = append(lentPages, lent.page(p))
	}
	for _, r := range rules {
		lentRules = append(lentRules, lent.rule(r))
	}
	s, e := server.New(standard(), lentPages, lentRules)
	m, _ := newModel(standard(), pages, rules)
	if e != api.OK {
		t.Fatal(e)
	}
	lent.writeOver()
	b := &both{t: t, s: s, m: m, ear: newEar(), last: -1}
	came := api.Preface + bytes(settingsFrame(param(api.SetWindow, 1)), headersFrame(1, request("GET", "/a", api.Field{Name: "accept", Value: "x"}), true),
		headersFrame(3, request("GET", "/v", api.Field{Name: "accept", Value: "x"}, length("4")), false), dataFrame(3, "bo", false), dataFrame(3, "dy", true), headersFrame(5, request("GET", "/c"), true))
	for at := 0; at < len(came); at += 7 {
		piece := came[at:min(at+7, len(came))]
		s.Recv(lent.text(piece))
		lent.writeOver()
		m.recv(piece)
		b.look()
	}
	for range 4 {
		b.step(0)
	}
	p := varied("/v", "accept", "x", "new")
	s.Put(lent.page(p))
	lent.writeOver()
	m.put(p)
	for range 20 {
		b.step(1)
	}
	r := api.Request{Method: lent.text("GET"), Scheme: "https", Authority: lent.text("x"), Path: lent.text("/v"), Fields: []api.Field{{Name: lent.text("accept"), Value: lent.text("x")}}}
	a, e := s.Serve(2, r)
	shown := lists.ShownResponse(a)
	lent.writeOver()
	if e != api.OK || a.Body != "new" || lists.ShownResponse(a) != shown {
		t.Errorf("P22.6: Serve answers %s, then %s", shown, lists.ShownResponse(a))
	}
	finish(b)
}

// TestAnswersAreNewMemory: they can be written over and made longer without harm.
func TestAnswersAreNewMemory(t *testing.T) {
	b := story(t)
	b.mustPut(varied("/v", "accept", "x", "for x"))
	for n := range len(storyUnits()) {
		goOn(b, n, 1)
		for range 2 {
			log, ready, trace := b.s.Log(), b.s.Ready(), b.s.Trace()
			for i := range trace {
				lists.Scribble(trace[i].F.Params, param(77, 77))
				_ = append(trace[i].F.Params, param(78, 78))
			}
			lists.Scribble(log, served(99, 99))
			lists.Scribble(ready, 99)
			lists.Scribble(trace, api.Entry{Sent: true, F: api.Frame{Type: 99}})
			_ = append(append(log[:len(log)-1], served(98, 98)), served(97, 97))
			_ = append(ready, 98, 97)
			_ = append(trace[:1], api.Entry{}, api.Entry{})
			b.whole()
		}
		r := api.Request{Method: "GET", Authority: "x", Path: "/v", Fields: lists.Of("accept", "x")}
		a, _ := b.s.Serve(2, r)
		lists.Scribble(a.Fields, overField)
		_ = append(a.Fields[:1], overField, overField, overField)
		b.whole()
	}
	b.wantIdle()
	b.whole()
}

// TestAnswersStay: what was answered isn't touched by what comes later, nor does it
// share memory with another answer.
func TestAnswersStay(t *testing.T) {
	b := story(t)
	var texts, copies []string
	var logs, logCopies [][]api.Serve
	var readies, readyCopies [][]int64
	for i := range 14 {
		if i%3 == 0 {
			b.ask("GET", "/p")
		}
		text := b.s.Step(i)
		b.m.step(i)
		b.recv(bytes(windowFrame(0, 1)))
		texts, copies = append(texts, text), append(copies, strings.Clone(text))
		log, ready := b.s.Log(), b.s.Ready()
		logs, logCopies = append(logs, log), append(logCopies, slices.Clone(log))
		readies, readyCopies = append(readies, ready), append(readyCopies, slices.Clone(ready))
	}
	for i := range logs {
		if texts[i] != copies[i] || !slices.Equal(logs[i], logCopies[i]) || !slices.Equal(readies[i], readyCopies[i]) {
			t.Errorf("P22.6: what was answered in call %d has changed", i)
		}
		lists.Scribble(logs[i], served(99, 99))
		lists.Scribble(readies[i], 99)
	}
	b.looked = 0
	b.look()
}

// TestRequestOfServe: its fields are neither changed nor kept.
func TestRequestOfServe(t *testing.T) {
	pages, rules := memoryWorld()
	b := begunWith(t, pages, rules)
	for _, path := range []string{"/a", "/v", "/none"} {
		fields, unchanged := lists.Guarded(lists.Of("b", "c", "accept", "x", "accept", ""))
		r := api.Request{Method: "GET", Authority: "x", Path: path, Fields: fields}
		a, _ := b.s.Serve(1, r)
		shown := lists.ShownResponse(a)
		if !unchanged() {
			t.Errorf("P22.6: Serve of %s changes the request's fields", path)
		}
		lists.Scribble(fields, overField)
		if lists.ShownResponse(a) != shown {
			t.Errorf("P22.6: Serve of %s answers %s, then %s", path, shown, lists.ShownResponse(a))
		}
		b.whole()
	}
}

// heap is how much memory is in use.
func heap() int64 {
	var m runtime.MemStats
	runtime.GC()
	runtime.ReadMemStats(&m)
	return int64(m.HeapAlloc)
}

// loaded is a server that is to send a great body on each of n streams, to a client
// that takes none yet.
func loaded(n int) *server.Server {
	s, _ := server.New(standard(), []api.Page{page("/big", long(65536))}, nil)
	text := api.Preface + bytes(settingsFrame(param(api.SetWindow, 0)))
	for i := range n {
		text += bytes(headersFrame(int64(2*i+1), request("GET", "/big"), true))
	}
	s.Recv(text)
	s.Step(0)
	return s
}

// TestWhatIsGoneIsNotKept: neither the works of streams that were reset, nor those of
// a dead server.
func TestWhatIsGoneIsNotKept(t *testing.T) {
	const many, each = 20, 40
	resets := ""
	for i := range each {
		resets += bytes(resetFrame(int64(2*i+1), cancel))
	}
	for name, last := range map[string]string{"reset": resets, "dead": raw(0, 0, 0, "")} {
		before := heap()
		var all []*server.Server
		for range many {
			all = append(all, loaded(each))
		}
		if n := heap() - before; n < many*each*65536 {
			t.Fatalf("%d bytes are kept: the test is wrong", n)
		}
		for _, s := range all {
			s.Recv(last)
			if len(s.Ready()) != 0 {
				t.Fatalf("P22.1: %s: Ready() = %v", name, s.Ready())
			}
		}
		if n := heap() - before; n > many*each*65536/4 {
			t.Errorf("P22.6: %s: %d bytes are kept", name, n)
		}
		runtime.KeepAlive(all)
	}
}

// TestMessagesThatAreOverAreNotKept: neither of requests that were served, refused or
// reset, nor of a dead server. (What came stands in the trace; of a message under way
// the server has its body beside that.)
func TestMessagesThatAreOverAreNotKept(t *testing.T) {
	const many, each, size = 20, 20, 4 * 15000
	begin := []string{api.Preface + bytes(settingsFrame())}
	var end, resets, seconds, tooLong string
	for i := range each {
		id := int64(2*i + 1)
		begin = append(begin, bytes(headersFrame(id, request("POST", "/a"), false)))
		for range 4 {
			begin = append(begin, bytes(dataFrame(id, long(size/4), false)))
		}
		end += bytes(dataFrame(id, "", true))
		resets += bytes(resetFrame(id, cancel))
		seconds += bytes(headersFrame(id, nil, true))
		tooLong += bytes(dataFrame(id, long(6000), false))
	}
	for name, last := range map[string]string{"served": end, "reset": resets, "a second head": seconds, "too long": tooLong, "dead": raw(0, 0, 0, "")} {
		var all []*server.Server
		for range many {
			s := newServer()
			for _, text := range begin { // one by one, so that no great chunk is kept beside
				s.Recv(text)
			}
			all = append(all, s)
		}
		before := heap()
		for _, s := range all {
			s.Recv(last)
		}
		came := int64(many * len(last))
		if n := before + came - heap(); n < many*each*size*3/4 {
			t.Errorf("P22.6: %s: %d bytes less are kept", name, n)
		}
		runtime.KeepAlive(all)
	}
}

// TestALongLife: many requests, each with a push; nothing is left of what is over.
func TestALongLife(t *testing.T) {
	s, _ := server.New(standard(), abc(), abcRules())
	s.Recv(api.Preface + bytes(settingsFrame()))
	sent := 0
	for i := range int64(1500) {
		s.Recv(bytes(headersFrame(2*i+1, request("GET", "/a"), true), windowFrame(0, 3)))
		for !s.Idle() {
			s.Step(int(i))
			if sent++; sent > 20000 {
				t.Fatal("P22.5: it doesn't come to an end")
			}
		}
	}
	if log := s.Log(); len(log) != 4500 || log[4499] != servedPush(6000, 1) {
		t.Errorf("P22.2: %d lines, the last %v", len(log), log[len(log)-1])
	}
	if code, dead := s.Dead(); dead {
		t.Errorf("P22.1: it is dead: %d", code)
	}
}
