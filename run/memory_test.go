package run_test

import (
	"reflect"
	"slices"
	"strings"
	"sync"
	"testing"
	"unsafe"

	"herald/api"
	"herald/lists"
	"herald/run"
)

// borrower lends texts, and lists with room behind them, in memory that can be
// written over.
type borrower struct {
	texts [][]byte
	watch []func() bool
	over  []func()
}

func (x *borrower) text(s string) string {
	if s == "" {
		return ""
	}
	b := []byte(s)
	x.texts = append(x.texts, b)
	return unsafe.String(&b[0], len(b))
}

// lend is a list with something in the room behind it.
func lend[T any](x *borrower, l []T, spare T) []T {
	room := append(slices.Clone(l), spare, spare)
	before := slices.Clone(room)
	x.watch = append(x.watch, func() bool { return reflect.DeepEqual(room, before) })
	x.over = append(x.over, func() { lists.Scribble(room, spare) })
	return room[:len(l)]
}

func (x *borrower) page(p api.Page) api.Page {
	var choices []api.Choice
	for _, c := range p.Choices {
		choices = append(choices, api.Choice{Value: x.text(c.Value), Body: x.text(c.Body)})
	}
	return api.Page{Authority: x.text(p.Authority), Path: x.text(p.Path), Status: p.Status, Vary: x.text(p.Vary), Choices: lend(x, choices, api.Choice{Value: "spare", Body: "spare"})}
}

func (x *borrower) target(t api.Target) api.Target {
	return api.Target{Authority: x.text(t.Authority), Path: x.text(t.Path)}
}

func (x *borrower) world(w api.World) api.World {
	lent := w
	lent.Pages, lent.Rules, lent.Origins = nil, nil, nil
	spare := api.Target{Authority: "spare", Path: "/spare"}
	for _, p := range w.Pages {
		lent.Pages = append(lent.Pages, x.page(p))
	}
	for _, r := range w.Rules {
		var push []api.Target
		for _, t := range r.Push {
			push = append(push, x.target(t))
		}
		lent.Rules = append(lent.Rules, api.Rule{Of: x.target(r.Of), Push: lend(x, push, spare)})
	}
	for _, o := range w.Origins {
		lent.Origins = append(lent.Origins, x.text(o))
	}
	lent.Origins = lend(x, lent.Origins, "https://spare")
	lent.Pages = lend(x, lent.Pages, api.Page{Authority: "spare"})
	lent.Rules = lend(x, lent.Rules, api.Rule{Of: spare})
	return lent
}

func (x *borrower) move(m api.Move) api.Move {
	lent := m
	lent.Bytes = x.text(m.Bytes)
	q := m.Request
	lent.Request = api.Request{Method: x.text(q.Method), Scheme: x.text(q.Scheme), Authority: x.text(q.Authority), Path: x.text(q.Path), Body: x.text(q.Body)}
	var fields []api.Field
	for _, f := range q.Fields {
		fields = append(fields, api.Field{Name: x.text(f.Name), Value: x.text(f.Value), Never: f.Never})
	}
	lent.Request.Fields = lend(x, fields, api.Field{Name: "spare", Value: "spare", Never: true})
	lent.Page = x.page(m.Page)
	return lent
}

// back looks at what was lent, and writes over it.
func (x *borrower) back(t *testing.T) {
	t.Helper()
	for _, unchanged := range x.watch {
		if !unchanged() {
			t.Fatal("R3: what was handed in is changed")
		}
	}
	for _, over := range x.over {
		over()
	}
	for _, b := range x.texts {
		lists.Scribble(b, '#')
	}
	*x = borrower{}
}

// scripts are several, right and wrong ones, short ones and such as tell too much.
func scripts() []string {
	return []string{
		lined(world()...), lined(behind(story()...)...), lined(talkative(20, many(30, "answers")...)...), lined(met(getA, "rounds 9", getB, "answers", "trace client")...),
		"", "#", "answers", lined(world()...) + "ok", lined(append(world(), world()...)...), lined(worldBut(originLine, `origin "x"`)...), strings.Repeat("\n", mostLines+1),
	}
}

// TestTextIsNotKept: what is told stays, whatever becomes of the text.
func TestTextIsNotKept(t *testing.T) {
	for _, text := range scripts() {
		want, wantError := modelPlay(text)
		var x borrower
		got, e := run.Play(x.text(text))
		x.back(t)
		if got != want || e != wantError {
			t.Errorf("R3: Play(%s), which was then written over: %d; %s", shown(text), e, unlike(got, want))
		}
	}
}

// TestWorldAndMovesStay: Tell changes nothing of what is handed in, nor of what stands
// behind that, and keeps nothing of it.
func TestWorldAndMovesStay(t *testing.T) {
	right, moves := takenApart(t, behind(append(story(), fields(3), fields(61), `put "x" "/v" 200 "accept" "1" "one" "2" "two"`, `forge 0 "forged"`)...))
	wrong := right
	wrong.Origins = append(slices.Clone(right.Origins), "x")
	for _, w := range []api.World{right, wrong, {}} {
		for _, last := range []api.Move{{Kind: moveClient}, {Kind: 11, Bytes: "none"}, {Kind: moveForge, Bytes: strings.Repeat("long", 2000)}} {
			all := append(slices.Clone(moves), last)
			want, ok := holdTell(t, w, all)
			var x borrower
			var lent []api.Move
			for _, m := range all {
				lent = append(lent, x.move(m))
			}
			lentWorld := x.world(w)
			lent = lend(&x, lent, api.Move{Kind: moveServer})
			got, e := run.Tell(lentWorld, lent)
			x.back(t)
			if got != want || ok != (e == 0) {
				t.Errorf("R3: Tell of what was then written over: %d; %s", e, unlike(got, want))
			}
		}
	}
}

// TestNothingIsKept: each script tells the same, whichever ones were told ahead of it.
func TestNothingIsKept(t *testing.T) {
	for _, text := range scripts() {
		want, wantError := run.Play(text)
		for _, other := range scripts() {
			run.Play(other)
			if got, e := run.Play(text); got != want || e != wantError {
				t.Fatalf("P27.4: Play(%s) behind another one: %d, want %d; %s", shown(text), e, wantError, unlike(got, want))
			}
		}
	}
}

// TestBeside: scripts that are told at the same time know nothing of one another.
func TestBeside(t *testing.T) {
	var joined sync.WaitGroup
	for _, text := range scripts() {
		want, wantError := run.Play(text)
		for range 4 {
			joined.Add(1)
			go func() {
				defer joined.Done()
				for range 5 {
					if got, e := run.Play(text); got != want || e != wantError {
						t.Errorf("R4: Play(%s) beside others: %d, want %d; %s", shown(text), e, wantError, unlike(got, want))
					}
				}
			}()
		}
	}
	joined.Wait()
}
