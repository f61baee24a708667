package run

import (
	"iter"
	"slices"
	"strconv"
	"strings"

	"herald/api"
	"herald/pair"
	"herald/script"
)

// mostRounds is as many as a command does.
const mostRounds = 1000000000

// do does a command, and gives the lines that tell of it.
func do(p *pair.Pair, c script.Command) iter.Seq[string] {
	switch c.Kind {
	case script.Move:
		return one(moved(p, c.Move))
	case script.Rounds:
		p.Rounds(int(max(0, min(c.N, mostRounds))))
		return one(okWord, number(len(p.ToServer())+len(p.ToClient())))
	case script.Answers:
		return listed(p.Client().Answers(), answer)
	case script.Log:
		return listed(p.Server().Log(), serve)
	case script.Cache:
		entries, bytes := p.Client().Held()
		return one(okWord, number(entries), number(bytes), number(p.Client().Pending()))
	case script.Pipes:
		return one(okWord, number(len(p.ToServer())), number(len(p.ToClient())))
	case script.Still:
		return one(okWord, yes(p.Still()))
	case script.Dead:
		return one(dead(p)...)
	case script.Trace:
		return listed(traceOf(p, c.Server), entry)
	}
	return one(okWord) // the world, which is there
}

func one(l ...string) iter.Seq[string] { return slices.Values([]string{words(l...)}) }

// listed is the line that tells how many there are, and one for each.
func listed[T any](l []T, line func(T) string) iter.Seq[string] {
	return func(yield func(string) bool) {
		if !yield(words(okWord, number(len(l)))) {
			return
		}
		for _, x := range l {
			if !yield(line(x)) {
				return
			}
		}
	}
}

func answer(a api.Answer) string {
	l := []string{"answer", number(a.Number)}
	if a.Code != api.NoError {
		return words(append(l, "failed", number(a.Code))...)
	}
	return words(append(l, way(a.Cached), number(a.Stream), number(a.Response.Status), script.Quote(a.Response.Body))...)
}

func way(cached bool) string {
	if cached {
		return "cached"
	}
	return "direct"
}

func serve(s api.Serve) string {
	name := "serve"
	if s.Push {
		name = "push"
	}
	return words(name, number(s.Stream), number(s.Version))
}

func yes(is bool) string {
	if is {
		return "yes"
	}
	return "no"
}

func dead(p *pair.Pair) []string {
	l := []string{okWord}
	if code, is := p.Server().Dead(); is {
		l = append(l, "server", number(code))
	}
	if code, is := p.Client().Dead(); is {
		l = append(l, "client", number(code))
	}
	return l
}

func traceOf(p *pair.Pair, server bool) []api.Entry {
	if server {
		return p.Server().Trace()
	}
	return p.Client().Trace()
}

func entry(e api.Entry) string {
	name := "got"
	if e.Sent {
		name = "sent"
	}
	return words(name, script.Frame(e.F))
}

func words(l ...string) string { return strings.Join(l, " ") }

func number[N int | int64](n N) string { return strconv.FormatInt(int64(n), 10) }
