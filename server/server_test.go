package server_test

import (
	"fmt"
	"strings"
	"testing"

	"herald/api"
	"herald/lists"
	"herald/server"
)

func page(path, body string) api.Page {
	return api.Page{Authority: "x", Path: path, Status: 200, Choices: []api.Choice{{Body: body}}}
}

// varied is a page with these choices, each a value with its body behind it.
func varied(path, vary string, texts ...string) api.Page {
	p := api.Page{Authority: "x", Path: path, Status: 200, Vary: vary}
	for i := 0; i+1 < len(texts); i += 2 {
		p.Choices = append(p.Choices, api.Choice{Value: texts[i], Body: texts[i+1]})
	}
	return p
}

func target(path string) api.Target { return api.Target{Authority: "x", Path: path} }

// rule is out of "/a /b /c", where /a pushes /b and /c.
func rule(s string) api.Rule {
	var l []api.Target
	for _, path := range strings.Fields(s) {
		l = append(l, target(path))
	}
	return api.Rule{Of: l[0], Push: l[1:]}
}

// abc are the pages of the chapter's examples.
func abc() []api.Page { return []api.Page{page("/a", "A"), page("/b", ""), page("/c", "CC")} }

func abcRules() []api.Rule { return []api.Rule{rule("/a /b /c /zz")} }

func request(method, path string, more ...api.Field) []api.Field {
	return lists.Joined(lists.Of(":method", method, ":scheme", "https", ":authority", "x", ":path", path), more...)
}

// pushed is a promise of a path of x.
func pushed(id, promised int64, path string) api.Event {
	return promiseEvent(id, promised, request("GET", path))
}

// answered is a head of a page without Vary.
func answered(id int64, status string, length int, end bool) api.Event {
	return headEvent(id, lists.Of(":status", status, "content-length", fmt.Sprint(length)), end)
}

func long(n int) string { return strings.Repeat("0123456789abcdef", n/16+1)[:n] }

func served(id, version int64) api.Serve { return api.Serve{Stream: id, Version: version} }

func servedPush(id, version int64) api.Serve {
	return api.Serve{Stream: id, Version: version, Push: true}
}

// afterOne is a server behind example 1.
func afterOne(t *testing.T) *both {
	t.Helper()
	b := newBoth(t, standard(), abc(), abcRules())
	b.wantBusy()
	b.wantReady()
	b.recv(api.Preface + bytes(settingsFrame()))
	b.wantLog()
	if id := b.ask("GET", "/a"); id != 1 {
		t.Fatalf("asked on %d", id)
	}
	b.wantLog(served(1, 1))
	b.wantReady(1)
	b.wantStep(0, settled(), acked(), pushed(1, 2, "/b"))
	b.wantLog(served(1, 1), servedPush(2, 1))
	b.wantReady(1, 2)
	return b
}

func TestExampleOne(t *testing.T) { afterOne(t).whole() }

func TestExampleTwo(t *testing.T) {
	b := afterOne(t)
	b.wantStep(0, pushed(1, 4, "/c"))
	b.wantStep(0, answered(1, "200", 1, false))
	b.wantStep(0, dataEvent(1, "A", true))
	b.wantReady(2, 4)
	b.wantStep(1, answered(4, "200", 2, false))
	b.wantStep(0, answered(2, "200", 0, true))
	b.wantBusy()
	b.wantStep(0, dataEvent(4, "CC", true))
	b.wantIdle()
	b.wantLog(served(1, 1), servedPush(2, 1), servedPush(4, 1))
	b.whole()
}

func TestExampleThree(t *testing.T) {
	b := begun(t, param(api.SetPush, 0))
	b.ask("GET", "/a")
	b.wantStep(0, answered(1, "200", 1, false))
	b.wantStep(0, dataEvent(1, "A", true))
	b.wantIdle()
	b.wantLog(served(1, 1))

	b = begun(t, param(api.SetStreams, 0))
	b.ask("GET", "/a")
	b.wantStep(0, pushed(1, 2, "/b"))
	b.wantStep(0, pushed(1, 4, "/c"))
	b.wantStep(0, answered(1, "200", 1, false))
	b.wantStep(0, dataEvent(1, "A", true))
	for range 3 {
		b.wantReady()
		b.wantBusy()
		b.wantStep(0)
	}
	b.wantLog(served(1, 1), servedPush(2, 1), servedPush(4, 1))

	b = afterOne(t)
	b.wantStep(0, pushed(1, 4, "/c"))
	b.mustPut(page("/c", "D"))
	b.wantStep(-1, answered(4, "200", 2, false))
	b.wantStep(-1, dataEvent(4, "CC", true))
	b.wantLog(served(1, 1), servedPush(2, 1), servedPush(4, 1))
	b.whole()
}

func TestExampleFour(t *testing.T) {
	b := begun(t)
	b.ask("HEAD", "/a")
	b.wantStep(0, answered(1, "200", 1, true))
	b.wantIdle()
	id := b.begin("POST", "/a")
	b.recv(bytes(dataFrame(id, "body", true)))
	b.wantStep(0, headEvent(id, lists.Of(":status", "405", "content-length", "0", "allow", "GET, HEAD"), true))
	b.wantIdle()
	id = b.ask("GET", "/q")
	b.wantStep(0, answered(id, "404", 0, true))
	b.wantIdle()
	b.wantLog(served(1, 1), served(3, 1), served(5, 1))
	b.whole()
}

// TestNumbers: errors and codes are those that the document has.
func TestNumbers(t *testing.T) {
	if api.ErrArg != argError || api.ErrFull != fullError || api.ErrDead != deadError {
		t.Error("an error has another number")
	}
	if api.ProtocolError != protocol || api.InternalError != internal || api.RefusedStream != refused || api.Cancel != cancel || api.EnhanceYourCalm != calm {
		t.Error("a code has another number")
	}
	if api.MaxBody != mostBody || api.MaxPush != mostPush || api.MaxInt != top {
		t.Error("a limit is another")
	}
}

// manyPages are so many, of unlike targets.
func manyPages(n int) []api.Page {
	var l []api.Page
	for i := range n {
		l = append(l, page(fmt.Sprint("/", i), fmt.Sprint("body ", i)))
	}
	return l
}

// TestNewErrors: the set's error comes first, then the pages', then the rules'.
func TestNewErrors(t *testing.T) {
	fits, doesNot := standard(), standard()
	doesNot.Streams = -1
	wrong := page("/w", "")
	wrong.Status = 204
	many := make([]api.Rule, 65)
	for i := range many {
		many[i] = rule(fmt.Sprint("/", i, " /a"))
	}
	sets := map[api.Errno][]api.Set{0: {fits}, 1: {doesNot, {}}}
	pages := map[api.Errno][][]api.Page{0: {nil, abc(), manyPages(64)}, 170: {{wrong}, {{}}, append(manyPages(65), wrong)}, 6: {manyPages(65)}, 7: {{page("/a", ""), page("/a", "2")}}}
	rules := map[api.Errno][][]api.Rule{0: {nil, abcRules(), many[:64]}, 3: {many, {rule("/a /1 /2 /3 /4 /5 /6 /7 /8 /9")}}, 180: {{rule("/a b")}, {{}}}, 7: {{rule("/a /b /b")}, {rule("/a"), rule("/a")}}}
	for first, l := range sets {
		for second, m := range pages {
			for third, n := range rules {
				want := first
				if want == 0 {
					want = second
				}
				if want == 0 {
					want = third
				}
				for _, set := range l {
					for _, p := range m {
						for _, r := range n {
							wantNew(t, set, p, r, want)
						}
					}
				}
			}
		}
	}
}

func wantNew(t *testing.T, set api.Set, pages []api.Page, rules []api.Rule, want api.Errno) {
	t.Helper()
	s, e := server.New(set, pages, rules)
	if e != want || (s == nil) != (want != 0) {
		t.Errorf("P22.1: New(%v, %d pages, %d rules): %v, %d, want %d", set, len(pages), len(rules), s != nil, e, want)
	}
	if _, e := newModel(set, pages, rules); e != want {
		t.Errorf("the model's New: %d, want %d", e, want)
	}
}

// TestNewSets: each field at its edges, and beside them.
func TestNewSets(t *testing.T) {
	for _, x := range []struct {
		field      func(*api.Set) *int64
		fit, wrong []int64
	}{
		{func(s *api.Set) *int64 { return &s.Table }, []int64{0, 1, 65536}, []int64{-1, 65537}},
		{func(s *api.Set) *int64 { return &s.Push }, []int64{0, 1}, []int64{-1, 2}},
		{func(s *api.Set) *int64 { return &s.Streams }, []int64{0, 1, top}, []int64{-1, top + 1}},
		{func(s *api.Set) *int64 { return &s.Window }, []int64{0, 1, top}, []int64{-1, top + 1}},
		{func(s *api.Set) *int64 { return &s.Frame }, []int64{16384, 65536}, []int64{0, 16383, 65537}},
		{func(s *api.Set) *int64 { return &s.List }, []int64{1024, top}, []int64{0, 1023, top + 1}},
	} {
		for _, v := range append(x.wrong, least, greatest) {
			set := standard()
			*x.field(&set) = v
			wantNew(t, set, abc(), abcRules(), argError)
			wantNew(t, set, []api.Page{{}}, []api.Rule{{}}, argError)
		}
		for _, v := range x.fit {
			set := standard()
			*x.field(&set) = v
			wantNew(t, set, abc(), abcRules(), api.OK)
			b := newBoth(t, set, abc(), abcRules())
			b.wantStep(0, settled())
			b.recv(api.Preface + bytes(settingsFrame(), ackFrame()))
			b.wantStep(0, acked())
			b.wantIdle()
		}
	}
}

// TestNewServer: what is looked at ahead of everything else.
func TestNewServer(t *testing.T) {
	b := newBoth(t, standard(), abc(), abcRules())
	if b.s.Version() != 1 || len(b.s.Trace()) != 0 || b.s.Theirs() != standard() {
		t.Errorf("P22.1: a new server: %d, %v, %v", b.s.Version(), b.s.Trace(), b.s.Theirs())
	}
	if code, dead := b.s.Dead(); code != 0 || dead {
		t.Errorf("P22.1: a new server: %d, %v", code, dead)
	}
	b.wantLog()
	b.wantReady()
	b.wantBusy() // its SETTINGS wait
	b.whole()
	for range 2 {
		b.recv("")
	}
	b.wantStep(7, settled())
	b.wantIdle()
	b.whole()
	if trace := b.s.Trace(); len(trace) != 1 || !trace[0].Sent || trace[0].F.Type != api.FrameSettings {
		t.Errorf("P22.1: a server that sent its SETTINGS: %v", trace)
	}
	none := newBoth(t, standard(), nil, nil)
	none.recv(api.Preface + bytes(settingsFrame()))
	none.ask("GET", "/a")
	none.wantStep(0, settled(), acked(), answered(1, "404", 0, true))
	none.wantIdle()
	none.whole()
}

// TestSiteOfAServer: Put and Serve are the site's.
func TestSiteOfAServer(t *testing.T) {
	b := begun(t)
	wrong := page("/w", "")
	wrong.Choices = nil
	for i := range 61 {
		b.mustPut(page(fmt.Sprint("/", i), "?"))
		if _, e := b.put(wrong); e != 170 {
			t.Errorf("P22.1: %s: %d", b.history(), e)
		}
	}
	if _, e := b.put(page("/one-too-many", "")); e != fullError || b.s.Version() != 62 {
		t.Errorf("P22.1: %s: %d, version %d", b.history(), e, b.s.Version())
	}
	b.mustPut(page("/a", "AA"))
	b.mustPut(varied("/a", "accept", "x", "1", "y", "22"))
	for version, want := range map[int64]string{1: "A", 62: "A", 63: "AA", 64: "1"} {
		a, e := b.s.Serve(version, api.Request{Method: "GET", Scheme: "?", Authority: "x", Path: "/a", Fields: lists.Of("accept", "x")})
		if e != api.OK || a.Body != want {
			t.Errorf("P22.1: Serve(%d, /a): %s, %d", version, lists.ShownResponse(a), e)
		}
	}
	for _, version := range []int64{0, -1, 65, least, greatest} {
		if a, e := b.s.Serve(version, api.Request{Method: "GET", Authority: "x", Path: "/a"}); e != api.ErrNone || !lists.SameResponse(a, api.Response{}) {
			t.Errorf("P22.1: Serve(%d, /a): %s, %d", version, lists.ShownResponse(a), e)
		}
	}
	b.wantIdle()
	b.wantLog()
	b.whole()
}
