package client_test

import (
	"fmt"
	"math/rand"
	"testing"

	"herald/api"
	"herald/lists"
	"herald/server"
)

// TestWithAServer: a client and a server, whose bytes come in pieces of any length;
// neither dies, and each request is answered, from the cache or by the server, with
// what the site has for it.
func TestWithAServer(t *testing.T) {
	r := rand.New(rand.NewSource(235))
	tried := map[string]int{}
	for range 80 {
		p := newPair(t, r)
		for range 120 {
			p.move()
		}
		p.ends(tried)
	}
	for _, what := range []string{"cached true code 0", "cached false code 0", "cached false code 8", "pushes", "resets"} {
		if tried[what] < 20 {
			t.Errorf("%s %d times: too few to tell", what, tried[what])
		}
	}
}

// pair is a client, held against its model, and a server, with what is on its way.
type pair struct {
	*both
	s                  *server.Server
	r                  *rand.Rand
	toServer, toClient string
}

func newPair(t *testing.T, r *rand.Rand) *pair {
	t.Helper()
	var pages []api.Page
	var rules []api.Rule
	for i := range 6 {
		path := fmt.Sprint("/", i)
		page := api.Page{Authority: "x", Path: path, Status: 200, Choices: []api.Choice{{Body: long(oneOf(r, 0, 3, 40, 20000))}}}
		if r.Intn(3) == 0 {
			page.Vary, page.Choices = "accept", []api.Choice{{Value: "1", Body: "one"}, {Value: "", Body: "none"}, {Value: "2", Body: "two"}}
		}
		pages = append(pages, page)
		rule := api.Rule{Of: api.Target{Authority: "x", Path: path}}
		for k := range 6 {
			if r.Intn(4) == 0 {
				rule.Push = append(rule.Push, api.Target{Authority: "x", Path: fmt.Sprint("/", k)})
			}
		}
		rules = append(rules, rule)
	}
	set := standard()
	set.Window, set.Streams = oneOf(r, int64(1000), 65535), oneOf(r, int64(1), 5, top)
	s, e := server.New(set, pages, rules)
	if e != api.OK {
		t.Fatalf("server.New: %d", e)
	}
	set.Streams = oneOf(r, int64(1), 5, top)
	return &pair{both: newBoth(t, set, randomConf(r), "https://x"), s: s, r: r}
}

// cut is a piece of what is on its way, and the rest.
func (p *pair) cut(text string) (string, string) {
	at := p.r.Intn(len(text) + 1)
	if p.r.Intn(2) == 0 {
		at = len(text)
	}
	return text[:at], text[at:]
}

// stepClient lets the client, and its model, send.
func (p *pair) stepClient() {
	p.t.Helper()
	pick := p.r.Intn(5)
	text := p.c.Step(pick)
	if want := p.m.step(pick); text != want {
		p.t.Fatalf("P23.1: Step(%d): %s, want %s", pick, shownBytes(text), shownBytes(want))
	}
	p.ear.hear(text, p.c.Theirs().Frame)
	p.toServer += text
}

// carry lets a piece of what is on its way come.
func (p *pair) carry() {
	p.t.Helper()
	var piece string
	piece, p.toServer = p.cut(p.toServer)
	p.s.Recv(piece)
	piece, p.toClient = p.cut(p.toClient)
	p.recv(piece)
}

func (p *pair) move() {
	p.t.Helper()
	switch n := p.r.Intn(20); {
	case n < 4:
		q := get(fmt.Sprint("/", p.r.Intn(7)))
		if p.r.Intn(4) == 0 {
			q.Fields = lists.Of("accept", oneOf(p.r, "1", "2"))
		}
		if p.r.Intn(6) == 0 {
			q.Method = oneOf(p.r, "HEAD", "POST")
			q.Body = long(oneOf(p.r, 0, 3000))
		}
		p.ask(q)
	case n < 5:
		p.tick(p.c.Now() + p.r.Int63n(4))
	case n < 6 && p.r.Intn(3) == 0:
		p.cancel(p.r.Intn(len(p.m.requests) + 1))
	case n < 12:
		p.stepClient()
	case n < 16:
		p.toClient += p.s.Step(p.r.Intn(5))
	default:
		p.carry()
	}
}

// ends lets all be answered.
func (p *pair) ends(tried map[string]int) {
	p.t.Helper()
	for n := 0; p.c.Waiting()+p.c.Flying() > 0 || !p.c.Idle() || !p.s.Idle() || p.toServer+p.toClient != ""; n++ {
		p.stepClient()
		p.toClient += p.s.Step(p.r.Intn(5))
		p.carry()
		if n > 3000 {
			p.t.Fatalf("P23.1: %s: it doesn't come to an end", p.history())
		}
	}
	p.wantAlive()
	if code, dead := p.s.Dead(); dead {
		p.t.Fatalf("P23.1: %s: the server is dead of %d", p.history(), code)
	}
	p.whole()
	for _, a := range p.c.Answers() {
		tried[fmt.Sprintf("cached %v code %d", a.Cached, a.Code)]++
		if a.Code != 0 && a.Code != cancel {
			p.t.Fatalf("P23.2: %s: %s", p.history(), shownAnswers([]api.Answer{a}))
		}
		if want, _ := p.s.Serve(1, p.asked[a.Number].r); a.Code == 0 && !lists.SameResponse(a.Response, want) {
			p.t.Fatalf("P23.3: %s: %s, want %s", p.history(), shownAnswers([]api.Answer{a}), lists.ShownResponse(want))
		}
	}
	for _, line := range p.s.Log() {
		if line.Push {
			tried["pushes"]++
		}
	}
	for id, h := range p.ear.streams {
		if id%2 == 0 && len(h.resets) > 0 {
			tried["resets"]++
		}
	}
}
