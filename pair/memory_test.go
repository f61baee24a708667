package pair_test

import (
	"reflect"
	"runtime"
	"slices"
	"strings"
	"testing"
	"time"
	"unsafe"

	"herald/api"
	"herald/lists"
	"herald/pair"
)

// borrower lends texts, and lists with room behind them, in memory that can be
// written over.
type borrower struct {
	texts [][]byte
	watch []func() bool
	over  []func()
}

func (x *borrower) text(s string) string {
	if s == "" {
		return ""
	}
	b := []byte(s)
	x.texts = append(x.texts, b)
	return unsafe.String(&b[0], len(b))
}

// lend is a list with something in the room behind it.
func lend[T comparable](x *borrower, l []T, spare ...T) []T {
	lent, unchanged := lists.Watched(l, spare...)
	x.watch = append(x.watch, unchanged)
	x.over = append(x.over, func() { lists.Scribble(lent, spare[0]) })
	return lent
}

// lendAll is a list, of what holds lists itself, with room behind it.
func lendAll[T any](x *borrower, l []T, spare T) []T {
	room := append(slices.Clone(l), spare, spare)
	before := slices.Clone(room)
	x.watch = append(x.watch, func() bool { return reflect.DeepEqual(room, before) })
	x.over = append(x.over, func() { lists.Scribble(room, spare) })
	return room[:len(l)]
}

func (x *borrower) page(p api.Page) api.Page {
	var choices []api.Choice
	for _, c := range p.Choices {
		choices = append(choices, api.Choice{Value: x.text(c.Value), Body: x.text(c.Body)})
	}
	return api.Page{Authority: x.text(p.Authority), Path: x.text(p.Path), Status: p.Status, Vary: x.text(p.Vary), Choices: lend(x, choices, api.Choice{Value: "spare", Body: "spare"})}
}

func (x *borrower) target(t api.Target) api.Target {
	return api.Target{Authority: x.text(t.Authority), Path: x.text(t.Path)}
}

func (x *borrower) world(w api.World) api.World {
	lent := w
	lent.Pages, lent.Rules, lent.Origins = nil, nil, nil
	for _, p := range w.Pages {
		lent.Pages = append(lent.Pages, x.page(p))
	}
	for _, r := range w.Rules {
		var push []api.Target
		for _, t := range r.Push {
			push = append(push, x.target(t))
		}
		lent.Rules = append(lent.Rules, api.Rule{Of: x.target(r.Of), Push: lend(x, push, target("/spare"))})
	}
	for _, o := range w.Origins {
		lent.Origins = append(lent.Origins, x.text(o))
	}
	lent.Origins = lend(x, lent.Origins, "https://spare")
	lent.Pages = lendAll(x, lent.Pages, page("/spare", "spare"))
	lent.Rules = lendAll(x, lent.Rules, rule("/spare", "/a"))
	return lent
}

func (x *borrower) move(m api.Move) api.Move {
	lent := m
	lent.Bytes = x.text(m.Bytes)
	r := m.Request
	lent.Request = api.Request{Method: x.text(r.Method), Scheme: x.text(r.Scheme), Authority: x.text(r.Authority), Path: x.text(r.Path), Body: x.text(r.Body)}
	var fields []api.Field
	for _, f := range r.Fields {
		fields = append(fields, api.Field{Name: x.text(f.Name), Value: x.text(f.Value), Never: f.Never})
	}
	lent.Request.Fields = lend(x, fields, api.Field{Name: "spare", Value: "spare", Never: true})
	lent.Page = x.page(m.Page)
	return lent
}

// back looks at what was lent, and writes over it.
func (x *borrower) back(t *testing.T) {
	t.Helper()
	for _, unchanged := range x.watch {
		if !unchanged() {
			t.Fatal("R3: what was handed in is changed")
		}
	}
	for _, over := range x.over {
		over()
	}
	for _, b := range x.texts {
		lists.Scribble(b, '#')
	}
	*x = borrower{}
}

// TestHandedIn: worlds and moves, refused ones too, stay as they were, and aren't kept.
func TestHandedIn(t *testing.T) {
	w, moves := talk()
	moves = append(moves, forge(0, "\x00\x00\x08\x06\x00\x00\x00\x00\x00pingpong"), move(moveToClient, 4), forge(1, sheet), put(api.Page{Path: "wrong", Choices: []api.Choice{{Value: "1"}}}), ask(get("/a", lists.Of("Wrong", "1")...)), api.Move{Kind: 77, Request: get("/a", lists.Of("a", "b")...), Page: varied("/v"), Bytes: "bytes"}, forge(9, "nowhere"))
	moves = append(moves, oneRound()...)
	var x borrower
	p, e := pair.New(x.world(w))
	if e != 0 {
		t.Fatalf("P25.1: New: %d", e)
	}
	x.back(t)
	m, _ := newModel(w)
	for i, mv := range moves {
		got := p.Do(x.move(mv))
		x.back(t)
		if want := m.do(mv); got != want {
			t.Fatalf("P25.1: %s: %d, want %d", shownMove(mv), got, want)
		}
		if wrong := unlike(look(p), look(m)); wrong != "" {
			t.Fatalf("R3: behind move %d, %s, what was handed in is kept: %s", i, shownMove(mv), wrong)
		}
	}
	for _, wrong := range append(wrongServers(), wrongClients()...) {
		if p, e := pair.New(x.world(worldWith(wrong.change))); p != nil || e != wrong.e {
			t.Errorf("P25.1: %s: %d", wrong.name, e)
		}
		x.back(t)
	}
}

// deface writes over all that was told.
func deface(s seen) {
	for i := range s.Answers {
		lists.Scribble(s.Answers[i].Response.Fields, api.Field{Name: "over"})
	}
	lists.Scribble(s.Answers, api.Answer{Number: 99, Code: 99})
	lists.Scribble(s.Log, api.Serve{Stream: 99})
	lists.Scribble(s.Ready, 99)
	for _, l := range [][]api.Entry{s.ServerTrace, s.UserTrace} {
		for i := range l {
			lists.Scribble(l[i].F.Params, api.Param{ID: 99})
		}
		lists.Scribble(l, api.Entry{F: api.Frame{Type: 99}})
	}
}

// TestToldIsNew: what was told can be written over without harm, and isn't changed by
// what comes later.
func TestToldIsNew(t *testing.T) {
	w, moves := talk()
	p, e := pair.New(w)
	if e != 0 {
		t.Fatal(e)
	}
	m, _ := newModel(w)
	type told struct{ toServer, toClient, wantServer, wantClient string }
	var all []told
	for _, mv := range moves {
		p.Do(mv)
		m.do(mv)
		deface(look(p))
		if wrong := unlike(look(p), look(m)); wrong != "" {
			t.Fatalf("R3: %s: what was told is shared: %s", shownMove(mv), wrong)
		}
		a, b := p.ToServer(), p.ToClient()
		all = append(all, told{a, b, strings.Clone(a), strings.Clone(b)})
	}
	for i, x := range all {
		if x.toServer != x.wantServer || x.toClient != x.wantClient {
			t.Fatalf("R3: what the pipes told behind move %d has changed", i)
		}
	}
}

// TestEndsThemselves: what is done with them is done with the pair's.
func TestEndsThemselves(t *testing.T) {
	b := begun(t)
	if b.p.Server() != b.p.Server() || b.p.Client() != b.p.Client() {
		t.Fatal("P25.1: the ends are others each time")
	}
	b.p.Client().Ask(get("/a"))
	b.m.client.Ask(get("/a"))
	b.look()
	b.wantStill(false)
	text := b.p.Client().Step(0)
	b.m.client.Step(0)
	b.look()
	b.wantPipes(0, 0) // what wasn't sent by a move is in no pipe
	b.p.Server().Recv(text)
	b.m.server.Recv(text)
	b.look()
	b.wantLog(api.Serve{Stream: 1, Version: 1})
	b.rounds(9)
	b.wantAnswers(answer(1, false, 1, "A"))
}

// heap is how much memory is in use.
func heap() int64 {
	var m runtime.MemStats
	runtime.GC()
	runtime.ReadMemStats(&m)
	return int64(m.HeapAlloc)
}

// TestPipesAreNotKept: what was given, or forged away, is gone. (The client is dead:
// it keeps nothing of what it is given.)
func TestPipesAreNotKept(t *testing.T) {
	const big = 8 << 20
	text := strings.Repeat("text", big/4)
	for _, c := range []struct {
		name string
		do   func(p *pair.Pair)
		left int64
	}{
		{"forged away", func(p *pair.Pair) { p.Do(forge(0, "x")) }, 1},
		{"given at once", func(p *pair.Pair) { p.Do(move(moveToClient, -1)) }, 0},
		{"given but for a little", func(p *pair.Pair) { p.Do(move(moveToClient, big-5)) }, 5},
		{"given in many pieces", func(p *pair.Pair) {
			for range big / 1024 {
				p.Do(move(moveToClient, 1024))
			}
		}, 0},
		{"given by three quarters", func(p *pair.Pair) { p.Do(move(moveToClient, big/4*3)) }, big / 4},
		{"given by three quarters, in pieces", func(p *pair.Pair) {
			for range big / 4096 * 3 {
				p.Do(move(moveToClient, 1024))
			}
		}, big / 4},
	} {
		p, e := pair.New(world())
		if e != 0 {
			t.Fatal(e)
		}
		p.Do(forge(0, "xxxxxxxxx"))
		p.Do(move(moveToClient, -1))
		before := heap()
		p.Do(forge(0, text))
		c.do(p)
		if n := int64(len(p.ToClient())); n != c.left {
			t.Errorf("P25.1: %s: %d bytes are left", c.name, n)
		}
		if more := heap() - before; more > 2*c.left+big/16 {
			t.Errorf("R3: %s: %d bytes more are in use, of %d that lie in the pipe", c.name, more, c.left)
		}
		runtime.KeepAlive(p)
	}
	runtime.KeepAlive(text)
}

// TestNoGoroutinesLeft: those that a look starts end with it, or as good as.
func TestNoGoroutinesLeft(t *testing.T) {
	b := begun(t)
	before := runtime.NumGoroutine()
	for range 1000 {
		b.p.Still()
	}
	for range 2000 { // one that has said what it has to say may be on its way out
		if runtime.NumGoroutine() <= before {
			return
		}
		time.Sleep(time.Millisecond)
	}
	t.Errorf("R4: %d goroutines are left", runtime.NumGoroutine()-before)
}
